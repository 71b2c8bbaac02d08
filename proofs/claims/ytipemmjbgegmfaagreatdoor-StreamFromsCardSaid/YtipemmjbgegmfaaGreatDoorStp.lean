/- A stream, plain: what is held, what is given on, how far it has come. No program is met here. -/
import Derived.Test.YtipemmjbgegmfaaGreatDoorNrb
import Derived.Test.YtipemmjbgegmfaaGreatDoorSca
import Derived.Test.YtipemmjbgegmfaaGreatDoorSux
namespace Go.Proofs.YtipemmjbgegmfaaGreatDoor
open Go.RowKit Go.Proofs.YtipemmjbgegmfaaGreatDoor.Ordr Go.Proofs.YtipemmjbgegmfaaGreatDoor.Cmpr

open Classical in
/-- The code points of right bytes. -/
noncomputable def decOf (l : List UInt8) : List Nat := if h : ∃ cs, U.Cps cs ∧ l = U.encs cs then Classical.choose h else []
theorem decOf_encs {cs : List Nat} (h : U.Cps cs) : decOf (U.encs cs) = cs := by
  have hx : ∃ ds, U.Cps ds ∧ U.encs cs = U.encs ds := ⟨cs, h, rfl⟩
  unfold decOf
  rw [dif_pos hx]
  exact (U.encs_inj h (Classical.choose_spec hx).1 (Classical.choose_spec hx).2).symm
/-- The composed form of right bytes. -/
noncomputable def txt (l : List UInt8) : List UInt8 := U.encs (nfcL (decOf l))
theorem txt_encs {cs : List Nat} (h : U.Cps cs) : txt (U.encs cs) = U.encs (nfcL cs) := by unfold txt; rw [decOf_encs h]
theorem txt_nil : txt [] = [] := by
  have := txt_encs (cs := []) (fun c h => by cases h)
  rw [nfcL_nil] at this
  exact this
/-- The safe place of right bytes. -/
noncomputable def safeB (l : List UInt8) : Nat := (U.encs ((decOf l).take (safeOf (decOf l)))).length
theorem safeB_encs {cs : List Nat} (h : U.Cps cs) : safeB (U.encs cs) = (U.encs (cs.take (safeOf cs))).length := by unfold safeB; rw [decOf_encs h]

/-- As many of some bytes as are right. -/
def rightOf (h : List UInt8) : List UInt8 := if 0 ≤ U.fault h then h.take (U.fault h).toNat else h
/-- They are not right, whatever comes behind them. -/
def BadB (h : List UInt8) : Prop := 0 ≤ U.fault h ∧ ¬ U.opn (h.drop (U.fault h).toNat)
theorem bad_more {h : List UInt8} (hb : BadB h) (m : List UInt8) : 0 ≤ U.fault (h ++ m) := by
  obtain ⟨h0, h1⟩ := hb
  obtain ⟨cs, _, hl, hf, _, _⟩ := U.fault_cut h0
  have h2 := U.St.of_bad hl hf.symm h1
  have h3 : 0 ≤ (U.St.of h).bad := by rw [h2]; exact Int.natCast_nonneg _
  have h4 := (U.St.go_bad h3 m).1
  rw [U.St.of_go] at h4
  have h5 : 0 ≤ (U.St.of (h ++ m)).bad := by omega
  rw [← (U.St.of_fault h5).1]
  exact h5
theorem right_cps (h : List UInt8) : ∃ cs, U.Cps cs ∧ rightOf h = U.encs cs ∧ ∃ r, h = U.encs cs ++ r := by
  unfold rightOf
  by_cases h0 : 0 ≤ U.fault h
  · obtain ⟨cs, hc, hl, hf, _, _⟩ := U.fault_cut h0
    rw [if_pos h0]
    refine ⟨cs, hc, ?_, _, hl⟩
    have : (U.fault h).toNat = (U.encs cs).length := by omega
    rw [this]
    conv => lhs; rw [hl]
    exact List.take_left
  · rw [if_neg h0]
    obtain ⟨cs, hc, hl⟩ := U.right_of (by omega : U.fault h < 0)
    exact ⟨cs, hc, hl, [], by rw [List.append_nil]; exact hl⟩

/-- What a stream has come to. -/
structure SS where
  inn : Nat
  out : Nat
  sin : Nat
  sout : Nat
  held : List UInt8
  err : Nat
def SS.new : SS := ⟨0, 0, 0, 0, [], 0⟩
def SS.fail (s : SS) : SS := ⟨s.inn, s.out, s.sin, s.sout, [], 6⟩
/-- So many of the bytes h are given on; the others are held. -/
noncomputable def SS.give (s : SS) (h : List UInt8) (n : Nat) : SS := ⟨s.inn + (h.take n).length, s.out + (txt (h.take n)).length, crcOn s.sin (h.take n), crcOn s.sout (txt (h.take n)), h.drop n, s.err⟩
open Classical in
noncomputable def SS.write (s : SS) (b : List UInt8) : SS := if s.err ≠ 0 then s else if BadB (s.held ++ b) then s.fail else s.give (s.held ++ b) (safeB (rightOf (s.held ++ b)))
open Classical in
noncomputable def SS.told (s : SS) (b : List UInt8) : List UInt8 := if s.err ≠ 0 then [] else if BadB (s.held ++ b) then [] else txt ((s.held ++ b).take (safeB (rightOf (s.held ++ b))))
open Classical in
noncomputable def SS.fin (s : SS) : SS := if s.err ≠ 0 then s else if 0 ≤ U.fault s.held then s.fail else s.give s.held s.held.length
open Classical in
noncomputable def SS.last (s : SS) : List UInt8 := if s.err ≠ 0 then [] else if 0 ≤ U.fault s.held then [] else txt s.held

theorem SS.write_err {s : SS} (h : s.err ≠ 0) (b : List UInt8) : s.write b = s ∧ s.told b = [] := by
  unfold SS.write SS.told; rw [if_pos h, if_pos h]; exact ⟨rfl, rfl⟩
theorem SS.write_bad {s : SS} (h : s.err = 0) {b : List UInt8} (hb : BadB (s.held ++ b)) : s.write b = s.fail ∧ s.told b = [] := by
  have h0 : ¬ s.err ≠ 0 := by omega
  unfold SS.write SS.told; simp only [if_neg h0, if_pos hb, and_self]
theorem SS.write_ok {s : SS} (h : s.err = 0) {b : List UInt8} (hb : ¬ BadB (s.held ++ b)) : s.write b = s.give (s.held ++ b) (safeB (rightOf (s.held ++ b))) ∧ s.told b = txt ((s.held ++ b).take (safeB (rightOf (s.held ++ b)))) := by
  have h0 : ¬ s.err ≠ 0 := by omega
  unfold SS.write SS.told; simp only [if_neg h0, if_neg hb, and_self]
theorem SS.fin_err {s : SS} (h : s.err ≠ 0) : s.fin = s ∧ s.last = [] := by
  unfold SS.fin SS.last; rw [if_pos h, if_pos h]; exact ⟨rfl, rfl⟩
theorem SS.fin_bad {s : SS} (h : s.err = 0) (hb : 0 ≤ U.fault s.held) : s.fin = s.fail ∧ s.last = [] := by
  have h0 : ¬ s.err ≠ 0 := by omega
  unfold SS.fin SS.last; simp only [if_neg h0, if_pos hb, and_self]
theorem SS.fin_ok {s : SS} (h : s.err = 0) (hb : ¬ 0 ≤ U.fault s.held) : s.fin = s.give s.held s.held.length ∧ s.last = txt s.held := by
  have h0 : ¬ s.err ≠ 0 := by omega
  unfold SS.fin SS.last; simp only [if_neg h0, if_neg hb, and_self]

/-- The numbers stay small. -/
structure SS.Ok (s : SS) (q : Nat) : Prop where
  held : s.held.length ≤ q
  inn : s.inn + s.held.length ≤ 1099511627776 + q
  out : s.out + 16 * s.held.length ≤ 1099511627776 + 16 * q
  sin : s.sin < 4294967296
  sout : s.sout < 4294967296
  err : s.err = 0 ∨ s.err = 6

/-! ### What was given on, and what it stands for -/
/-- Bytes that begin with a number that starts. -/
def Starts (r : List UInt8) : Prop := ∃ z t, U.isCp z ∧ startOf z = true ∧ r = U.enc z ++ t
/-- Of all bytes those of as are given on, the others are held. -/
structure Went (m : SS) (all out : List UInt8) (cs : List Nat) (r : List UInt8) (s : SS) : Prop where
  cps : U.Cps cs
  all : all = U.encs cs ++ r
  told : out = U.encs (nfcL cs)
  minn : s.inn = m.inn + (U.encs cs).length
  mout : s.out = m.out + out.length
  msin : s.sin = crcOn m.sin (U.encs cs)
  msout : s.sout = crcOn m.sout out
  cut : cs = [] ∨ Starts r
  held : (s.err = 0 ∧ s.held = r) ∨ (s.err = 6 ∧ s.held = [] ∧ ∀ t, 0 ≤ U.fault (r ++ t))

theorem Went.new (m : SS) (h : m.held = []) (he : m.err = 0) : Went m [] [] [] [] m where
  cps := fun c h => by cases h
  all := rfl
  told := by rw [nfcL_nil]; rfl
  minn := rfl
  mout := rfl
  msin := (crcOn_nil _).symm
  msout := (crcOn_nil _).symm
  cut := .inl rfl
  held := .inl ⟨he, h⟩

theorem cps_take {l : List Nat} (h : U.Cps l) (k : Nat) : U.Cps (l.take k) := fun c hc => h c (List.mem_of_mem_take hc)
theorem cps_drop {l : List Nat} (h : U.Cps l) (k : Nat) : U.Cps (l.drop k) := fun c hc => h c (List.mem_of_mem_drop hc)
theorem nfc_at {a : List Nat} {z : Nat} (b : List Nat) (h : startOf z = true) : nfcL (a ++ z :: b) = nfcL a ++ nfcL (z :: b) :=
  Nrmr.nfc_parts clsOf twoO good a z b (start_full h)
theorem nfc_cut {a l : List Nat} {r : List UInt8} (hl : U.Cps l) (h : a = [] ∨ Starts (U.encs l ++ r)) (hne : l ≠ [] ∨ r = []) : nfcL (a ++ l) = nfcL a ++ nfcL l := by
  rcases h with rfl | ⟨z, t, hz, hs, e⟩
  · rw [nfcL_nil]; rfl
  · cases l with
    | nil =>
      rw [nfcL_nil, List.append_nil, List.append_nil]
    | cons y l' =>
      have hy := hl y (by simp)
      have e1 := U.one_enc hz t
      have e2 := U.one_enc hy (U.encs l' ++ r)
      rw [← e, U.encs_cons, List.append_assoc, e2] at e1
      have : y = z := (Prod.mk.inj e1).1
      subst this
      exact nfc_at l' hs
theorem starts_app {r : List UInt8} (h : Starts r) (t : List UInt8) : Starts (r ++ t) := by
  obtain ⟨z, q, hz, hs, rfl⟩ := h
  exact ⟨z, q ++ t, hz, hs, by rw [List.append_assoc]⟩

theorem Went.write {m s : SS} {all out r : List UInt8} {cs : List Nat} (h : Went m all out cs r s) (b : List UInt8) : ∃ cs' r', Went m (all ++ b) (out ++ s.told b) cs' r' (s.write b) := by
  by_cases he : s.err ≠ 0
  · rw [(SS.write_err he b).1, (SS.write_err he b).2, List.append_nil]
    refine ⟨cs, r ++ b, h.cps, by rw [h.all, List.append_assoc], h.told, h.minn, h.mout, h.msin, h.msout, ?_, ?_⟩
    · rcases h.cut with h1 | h1
      · exact .inl h1
      · exact .inr (starts_app h1 b)
    · rcases h.held with ⟨h1, _⟩ | ⟨h1, h2, h3⟩
      · exact absurd h1 he
      · exact .inr ⟨h1, h2, fun t => by rw [List.append_assoc]; exact h3 _⟩
  · have he : s.err = 0 := by omega
    have hr : s.held = r := by
      rcases h.held with ⟨_, h1⟩ | ⟨h1, _⟩
      · exact h1
      · omega
    have hcut : cs = [] ∨ Starts (r ++ b) := by
      rcases h.cut with h1 | h1
      · exact .inl h1
      · exact .inr (starts_app h1 b)
    by_cases hb : BadB (s.held ++ b)
    · rw [(SS.write_bad he hb).1, (SS.write_bad he hb).2, List.append_nil]
      rw [hr] at hb
      exact ⟨cs, r ++ b, h.cps, by rw [h.all, List.append_assoc], h.told, h.minn, h.mout, h.msin, h.msout, hcut, .inr ⟨rfl, rfl, fun t => bad_more hb t⟩⟩
    · rw [(SS.write_ok he hb).1, (SS.write_ok he hb).2, hr]
      obtain ⟨ds, hd, hds, q, hq⟩ := right_cps (r ++ b)
      rw [hds, safeB_encs hd]
      have hsl := safeOf_le ds
      generalize hk : safeOf ds = k at *
      have hx : (r ++ b).take (U.encs (ds.take k)).length = U.encs (ds.take k) := by
        conv => lhs; rw [hq]; rw [← List.take_append_drop k ds, U.encs_append, List.append_assoc]
        rw [List.take_append_drop]
        exact List.take_left
      have hy : (r ++ b).drop (U.encs (ds.take k)).length = U.encs (ds.drop k) ++ q := by
        conv => lhs; rw [hq]; rw [← List.take_append_drop k ds, U.encs_append, List.append_assoc]
        rw [List.take_append_drop]
        exact List.drop_left
      have hct := cps_take hd k
      unfold SS.give
      rw [hx, hy, txt_encs hct]
      have hn : nfcL (cs ++ ds.take k) = nfcL cs ++ nfcL (ds.take k) := by
        by_cases h0 : ds.take k = []
        · rw [h0, nfcL_nil, List.append_nil, List.append_nil]
        · refine nfc_cut (r := U.encs (ds.drop k) ++ q) hct ?_ (.inl h0)
          rw [← List.append_assoc, ← U.encs_append, List.take_append_drop, ← hq]
          exact hcut
      refine ⟨cs ++ ds.take k, U.encs (ds.drop k) ++ q, h.cps.append hct, ?_, ?_, ?_, ?_, ?_, ?_, ?_, .inl ⟨he, rfl⟩⟩
      · rw [h.all, U.encs_append, List.append_assoc, List.append_assoc, ← List.append_assoc (U.encs (ds.take k)), ← U.encs_append, List.take_append_drop, ← hq]
      · rw [h.told, hn, U.encs_append]
      · show s.inn + _ = _; rw [h.minn, U.encs_append, List.length_append]; omega
      · show s.out + _ = _; rw [h.mout, List.length_append]; omega
      · show crcOn s.sin _ = _; rw [h.msin, U.encs_append, crcOn_append]
      · show crcOn s.sout _ = _; rw [h.msout, crcOn_append]
      · by_cases h0 : k = 0
        · subst h0
          rw [List.take_zero, List.append_nil, List.drop_zero, ← hq]
          exact hcut
        · right
          have hkl : k < ds.length := by
            rw [← hk] at h0 ⊢
            unfold safeOf at h0 ⊢
            have := safeF_le ds (ds.length - 1)
            omega
          have hs : startOf (ds[k]?.getD 0) = true := by
            rw [← hk]
            exact safeF_start ds (ds.length - 1) (by unfold safeOf at hk; omega)
          rw [List.getElem?_eq_getElem hkl, Option.getD_some] at hs
          exact ⟨ds[k], U.encs (ds.drop (k + 1)) ++ q, hd _ (List.getElem_mem hkl), hs, by rw [List.drop_eq_getElem_cons hkl, U.encs_cons, List.append_assoc]⟩

/-- At the end all that was told is the composed form of all. -/
theorem Went.fin {m s : SS} {all out r : List UInt8} {cs : List Nat} (h : Went m all out cs r s) :
    (U.fault all < 0 → ∃ l, U.Cps l ∧ all = U.encs l ∧ s.fin.err = 0 ∧ out ++ s.last = U.encs (nfcL l) ∧ s.fin = ⟨m.inn + all.length, m.out + (out ++ s.last).length, crcOn m.sin all, crcOn m.sout (out ++ s.last), [], 0⟩) ∧
    (0 ≤ U.fault all → s.fin.err = 6 ∧ s.fin.held = [] ∧ s.last = [] ∧ s.fin.inn = s.inn ∧ s.fin.out = s.out ∧ s.fin.sin = s.sin ∧ s.fin.sout = s.sout) := by
  have hfe := U.fault_encs h.cps
  have hfa := U.fault_append (U.encs cs) r
  rw [← h.all] at hfa
  by_cases he : s.err ≠ 0
  · have hx : s.err = 6 ∧ s.held = [] ∧ ∀ t, 0 ≤ U.fault (r ++ t) := by
      rcases h.held with ⟨h1, _⟩ | h1
      · exact absurd h1 he
      · exact h1
    have h0 := hx.2.2 []
    rw [List.append_nil] at h0
    have h2 := hfa.2.1 (by omega) h0
    refine ⟨fun h3 => by omega, fun _ => ?_⟩
    rw [(SS.fin_err he).1, (SS.fin_err he).2]
    exact ⟨hx.1, hx.2.1, rfl, rfl, rfl, rfl, rfl⟩
  · have he : s.err = 0 := by omega
    have hr : s.held = r := by
      rcases h.held with ⟨_, h1⟩ | ⟨h1, _⟩
      · exact h1
      · omega
    by_cases hb : 0 ≤ U.fault s.held
    · rw [(SS.fin_bad he hb).1, (SS.fin_bad he hb).2]
      rw [hr] at hb
      have h2 := hfa.2.1 (by omega) hb
      exact ⟨fun h3 => by omega, fun _ => ⟨rfl, rfl, rfl, rfl, rfl, rfl, rfl⟩⟩
    · rw [(SS.fin_ok he hb).1, (SS.fin_ok he hb).2]
      rw [hr] at hb ⊢
      have h2 := hfa.1 (by omega) (by omega)
      refine ⟨fun _ => ?_, fun h3 => by omega⟩
      obtain ⟨l, hl, rfl⟩ := U.right_of (by omega : U.fault r < 0)
      have hn : nfcL (cs ++ l) = nfcL cs ++ nfcL l := nfc_cut (r := []) hl (by rw [List.append_nil]; exact h.cut) (.inr rfl)
      have hto : out ++ txt (U.encs l) = U.encs (nfcL (cs ++ l)) := by rw [txt_encs hl, h.told, hn, U.encs_append]
      refine ⟨cs ++ l, h.cps.append hl, by rw [h.all, U.encs_append], he, hto, ?_⟩
      unfold SS.give
      rw [List.take_length, List.drop_length, he, h.minn, h.mout, h.msin, h.msout]
      congr 1
      · rw [h.all, List.length_append]; omega
      · rw [List.length_append]; omega
      · rw [h.all, crcOn_append]
      · rw [crcOn_append]

end Go.Proofs.YtipemmjbgegmfaaGreatDoor
