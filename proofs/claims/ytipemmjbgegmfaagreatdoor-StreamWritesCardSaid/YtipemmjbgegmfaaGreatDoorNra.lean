/- Nra: one text of Now Nox Noy Noz Nol. -/
import Derived.Test.YtipemmjbgegmfaaGreatDoorCoa
import Derived.Test.YtipemmjbgegmfaaGreatDoorCdx

/- The document's normal forms: what its functions answer. -/
namespace Go.Proofs.YtipemmjbgegmfaaGreatDoor
open Go.RowKit Go.Proofs.YtipemmjbgegmfaaGreatDoor.Ordr Go.Proofs.YtipemmjbgegmfaaGreatDoor.Cmpr

noncomputable def nfdL (l : List Nat) : List Nat := Nrmr.nfd clsOf full l
noncomputable def nfcL (l : List Nat) : List Nat := Nrmr.nfc clsOf twoO full l
theorem nfdL_eq (l : List Nat) : nfdL l = ord clsOf (l.flatMap full) := rfl
theorem nfcL_eq (l : List Nat) : nfcL l = comp clsOf twoO (nfdL l) := rfl
theorem nfdL_len (l : List Nat) : (nfdL l).length ≤ 4 * l.length := by
  rw [nfdL_eq, ord_len]; exact flat_full_len l
theorem nfcL_len (l : List Nat) : (nfcL l).length ≤ 4 * l.length := by
  rw [nfcL_eq]; exact Nat.le_trans (comp_len clsOf twoO _) (nfdL_len l)
theorem nfdL_lt (l : List Nat) (h : ∀ c ∈ l, c < 4294967296) : ∀ y ∈ nfdL l, y < 4294967296 := fun y hy => flat_lt l h y ((ord_perm clsOf _).mem_iff.1 hy)
theorem nfcL_lt (l : List Nat) (h : ∀ c ∈ l, c < 4294967296) : ∀ y ∈ nfcL l, y < 4294967296 := comp_lt _ (nfdL_lt l h)

set_option maxRecDepth 100000 in
theorem nfd_ref (A : Option Addr) (n d : Nat) (l : List Nat) (w : World) (h : Rd w A d (us l)) (hn : n = l.length) (hmax : n ≤ 20000) :
    Calls Tryz.prog 66 #[.slice A n d] w (Gives (nfdL l) w) := by
  have hfl := flat_full_len l
  have c1 := Lib.hid (list_ref5 A n d l w h hn (by omega))
  have c2 := Lib.hid (fun B e w' (hr : Rd w' B e (us (l.flatMap full))) => order_ref B (l.flatMap full).length e (l.flatMap full) w' hr rfl (by omega))
  rw [nfdL_eq]
  clear h hn hfl
  generalize ord clsOf (l.flatMap full) = D at *
  generalize l.flatMap full = F at *
  go_enter Tryz.func66, Tryz.ntmps66
  go_wp2_with fail
  refine c1.out.mono ?_
  rintro e w1 ⟨B1, d1, rfl, hO, hu1⟩
  have C2 := Lib.hid (c2.out B1 d1 w1 (own_read hO))
  clear hO c1 c2
  go_wp2_with fail
  refine C2.out.mono ?_
  rintro e w2 ⟨B2, d2, rfl, hO2, hu2⟩
  have hG : Gives D w (.returned (.slice B2 D.length d2)) w2 := ⟨B2, d2, rfl, own_base hO2 hu1.size, hu1.trans hu2⟩
  clear hO2 C2
  go_wp2_with fail
  go_ret
  exact hG

set_option maxRecDepth 100000 in
theorem nfc_ref (A : Option Addr) (n d : Nat) (l : List Nat) (w : World) (h : Rd w A d (us l)) (hn : n = l.length) (hmax : n ≤ 20000) :
    Calls Tryz.prog 51 #[.slice A n d] w (Gives (nfcL l) w) := by
  have hfl := nfdL_len l
  have c1 := Lib.hid (nfd_ref A n d l w h hn hmax)
  have c2 := Lib.hid (fun B e w' (hr : Rd w' B e (us (nfdL l))) => compose_ref B (nfdL l).length e (nfdL l) w' hr rfl (by omega))
  rw [nfcL_eq]
  clear h hn hfl
  generalize comp clsOf twoO (nfdL l) = D at *
  generalize nfdL l = F at *
  go_enter Tryz.func51, Tryz.ntmps51
  go_wp2_with fail
  refine c1.out.mono ?_
  rintro e w1 ⟨B1, d1, rfl, hO, hu1⟩
  have C2 := Lib.hid (c2.out B1 d1 w1 (own_read hO))
  clear hO c1 c2
  go_wp2_with fail
  refine C2.out.mono ?_
  rintro e w2 ⟨B2, d2, rfl, hO2, hu2⟩
  have hG : Gives D w (.returned (.slice B2 D.length d2)) w2 := ⟨B2, d2, rfl, own_base hO2 hu1.size, hu1.trans hu2⟩
  clear hO2 C2
  go_wp2_with fail
  go_ret
  exact hG

/-- Where a list can be cut. -/
noncomputable def safeF (l : List Nat) : Nat → Nat
  | 0 => 0
  | i + 1 => if startOf (l[i + 1]?.getD 0) = true then i + 1 else safeF l i
noncomputable def safeOf (l : List Nat) : Nat := safeF l (l.length - 1)
theorem safeF_le (l : List Nat) : ∀ i, safeF l i ≤ i
  | 0 => Nat.le_refl _
  | i + 1 => by unfold safeF; split; exact Nat.le_refl _; exact Nat.le_trans (safeF_le l i) (Nat.le_succ i)
theorem safeF_step (l : List Nat) (i : Nat) : safeF l (i + 1) = if startOf (l[i + 1]?.getD 0) = true then i + 1 else safeF l i := rfl
theorem safeF_start (l : List Nat) (i : Nat) : 0 < safeF l i → startOf (l[safeF l i]?.getD 0) = true := by
  induction i with
  | zero => intro h; exact absurd h (Nat.lt_irrefl 0)
  | succ i ih =>
    intro h
    by_cases hs : startOf (l[i + 1]?.getD 0) = true
    · have e : safeF l (i + 1) = i + 1 := by rw [safeF_step, if_pos hs]
      rw [e]; exact hs
    · have e : safeF l (i + 1) = safeF l i := by rw [safeF_step, if_neg hs]
      rw [e] at h ⊢
      exact ih h

set_option maxRecDepth 100000 in
theorem nsafe_ref (A : Option Addr) (n d : Nat) (l : List Nat) (w : World) (h : Rd w A d (us l)) (hn : n = l.length) (hmax : n ≤ 20000) :
    Calls Tryz.prog 36 #[.slice A n d] w fun e w' => e = .returned (.int .i64 (safeOf l : Int)) ∧ Up w w' := by
  have HS := Lib.hid starts_ref
  have H := Lib.hid h
  have Hn := Lib.hid hn
  have hf := h.fit
  rw [us_len, ← hn] at hf
  have HF := Lib.hid (fun i => show safeF l (i + 1) = if startOf (l[i + 1]?.getD 0) = true then i + 1 else safeF l i from rfl)
  have hz : Hid (safeF l 0 = 0) := Lib.hid rfl
  have hso : Hid (safeOf l = safeF l (n - 1)) := Lib.hid (by unfold safeOf; rw [hn])
  clear h hn
  generalize safeOf l = s at *
  have hst : Hid (∀ i (h : i < l.length), startOf (l[i]?.getD 0) = startOf l[i]) := Lib.hid (fun i h => by rw [List.getElem?_eq_getElem h]; rfl)
  by_cases hn0 : n = 0
  · have hs0 : s = 0 := by rw [hso.out, hn0]; exact hz.out
    subst hn0
    subst hs0
    clear HF hz hso hst
    go_enter Tryz.func36, Tryz.ntmps36
    go_wp2_with fail
    go_loopw [3] (fun i wr => i = .int .i64 (-1) ∧ Up w wr) (fun _ _ => 0)
    case atStart => exact ⟨rfl, Up.refl _⟩
    case round =>
      obtain ⟨rfl, hu⟩ := hrel
      go_wp2_with fail
      go_ret
      exact ⟨rfl, hu⟩
  obtain ⟨q, rfl⟩ : ∃ q, n = q + 1 := ⟨n - 1, by omega⟩
  rw [Nat.add_sub_cancel] at hso
  go_enter Tryz.func36, Tryz.ntmps36
  go_wp2_with fail
  go_loopw [3] (fun i wr => ∃ k : Nat, k ≤ q ∧ i = .int .i64 (k : Int) ∧ Hid (s = safeF l k) ∧ Up w wr) (fun i _ => (intOf i).toNat)
  case atStart => exact ⟨q, Nat.le_refl _, rfl, hso, Up.refl _⟩
  case round =>
    obtain ⟨k, hk, rfl, hsk, hu⟩ := hrel
    by_cases hk0 : k = 0
    · subst hk0
      have hs0 : Hid (s = 0) := Lib.hid (hsk.out.trans hz.out)
      clear HF hz hso hst hsk
      go_wp2_with fail
      go_ret
      exact ⟨by rw [hs0.out]; rfl, hu⟩
    · obtain ⟨j, rfl⟩ : ∃ j, k = j + 1 := ⟨k - 1, by omega⟩
      have hjl : j + 1 < l.length := by rw [← Hn.out]; omega
      obtain ⟨a, rfl, _⟩ := H.out.ad (by omega)
      have hcell : wr.cell? ⟨a.block, a.off + (j + 1), none⟩ = some (.int .u32 (l[j + 1] : Int)) := (H.out.up hu).cell a rfl (j + 1) _ (us_get l (j + 1) hjl)
      have hS := hsk.out
      rw [HF.out j, hst.out (j + 1) hjl] at hS
      have C1 := Lib.hid (HS.out l[j + 1])
      clear HF hst hsk
      generalize l[j + 1] = x at *
      cases hx : startOf x with
      | true =>
        rw [hx, if_pos rfl] at hS
        rw [hx] at C1
        have HS2 := Lib.hid hS
        clear hS hx hk0
        go_wp2_with fail
        refine (C1.out _).mono ?_
        rintro e w1 ⟨rfl, hu1⟩
        go_wp2_with fail
        go_ret
        exact ⟨by rw [HS2.out]; simp, hu.trans hu1⟩
      | false =>
        rw [hx, if_neg (by decide)] at hS
        rw [hx] at C1
        have HS2 := Lib.hid hS
        clear hS hx hk0
        go_wp2_with fail
        refine (C1.out _).mono ?_
        rintro e w1 ⟨rfl, hu1⟩
        go_wp2_with fail
        go_roundw
        case rel => exact ⟨j, by omega, by go_num, HS2, hu.trans hu1⟩
        case measure => simp [intOf]

end Go.Proofs.YtipemmjbgegmfaaGreatDoor

/- The document's Text; what is asked of the program's norm. -/
namespace Go.Proofs.YtipemmjbgegmfaaGreatDoor
open Go.RowKit Go.Proofs.YtipemmjbgegmfaaGreatDoor.Ordr Go.Proofs.YtipemmjbgegmfaaGreatDoor.Cmpr

theorem okC_cp (c : Nat) : okC c = true ↔ U.isCp c := by
  rw [okC_iff]
  unfold U.isCp
  omega
theorem nfdL_cps {l : List Nat} (h : U.Cps l) : U.Cps (nfdL l) := fun y hy => by
  have hy := (ord_perm clsOf _).mem_iff.1 hy
  obtain ⟨x, hx, hy⟩ := List.mem_flatMap.1 hy
  exact (okC_cp y).1 (full_ok x ((okC_cp x).2 (h x hx)) y hy)
theorem nfcL_cps {l : List Nat} (h : U.Cps l) : U.Cps (nfcL l) := fun y hy => by
  refine back_from clsOf twoO (fun y => U.isCp y) (fun s c x hx => (okC_cp x).1 (two_ok hx)) (nfdL l) (none, []) (nfdL_cps h) (fun y hy => absurd hy (by simp [back])) y ?_
  have hy2 : y ∈ comp clsOf twoO (nfdL l) := hy
  unfold comp at hy2
  exact List.mem_reverse.1 hy2

/-- What a text's composed form is, or that it is not right. -/
def TextP (l : List UInt8) (w : World) (e : Ending) (w' : World) : Prop :=
  Up w w' ∧ ((∃ cs B c, U.Cps cs ∧ l = U.encs cs ∧ e = .returned (.tuple #[.slice B (U.encs (nfcL cs)).length c, .int .i64 0]) ∧ w'.ownsRow w.heap.size 5 1 (.slice B (U.encs (nfcL cs)).length c) (U.encs (nfcL cs)).length (bs (U.encs (nfcL cs)))) ∨
    (0 ≤ U.fault l ∧ ∃ B c, e = .returned (.tuple #[.slice B 0 c, .int .i64 6]) ∧ Rd w' B c []))

set_option maxRecDepth 100000 in
theorem ntext_ref (A : Option Addr) (n d : Nat) (l : List UInt8) (w : World) (h : Rd w A d (bs l)) (hn : n = l.length) (hmax : n ≤ 4000) :
    Calls Tryz.prog 32 #[.slice A n d] w (TextP l w) := by
  have c1 := Lib.hid (codes_ref A d n l w h hn (by omega))
  have HN := Lib.hid (fun B e (cs : List Nat) w' (hr : Rd w' B e (us cs)) (hc : cs.length ≤ 20000) => nfc_ref B cs.length e cs w' hr rfl hc)
  have HB := Lib.hid (fun B e (cs : List Nat) w' (hr : Rd w' B e (us cs)) (hc : cs.length ≤ 100000) => bytes_ref B e cs.length cs w' hr rfl (by omega))
  have Hn := Lib.hid hn
  clear h hn
  go_enter Tryz.func32, Tryz.ntmps32
  go_wp2_with fail
  refine c1.out.mono ?_
  rintro e w1 ⟨hu1, ⟨cs, B, b, hcs, hl, rfl, hrd⟩ | ⟨hft, rfl⟩⟩
  · have hcl : cs.length ≤ n := by
      have := U.encs_len_le cs hcs
      rw [← hl, ← Hn.out] at this
      exact this
    have C2 := Lib.hid (HN.out B b cs w1 hrd (by omega))
    have hfl := nfcL_len cs
    have hF := Lib.hid (nfcL_cps hcs)
    have Hl := Lib.hid hl
    have Hcs := Lib.hid hcs
    have hfl2 : (nfcL cs).length ≤ 100000 := by omega
    have HBx := Lib.hid (fun B e w' hr => HB.out B e (nfcL cs) w' hr hfl2)
    have Hgoal := Lib.hid (fun (B : Option Addr) (c : Nat) (w' : World) (u : Up w w') (hr : w'.ownsRow w.heap.size 5 1 (.slice B (U.encs (nfcL cs)).length c) (U.encs (nfcL cs)).length (bs (U.encs (nfcL cs)))) =>
      (⟨u, .inl ⟨cs, B, c, hcs, hl, rfl, hr⟩⟩ : TextP l w (.returned (.tuple #[.slice B (U.encs (nfcL cs)).length c, .int .i64 0])) w'))
    clear c1 HN HB hrd hfl hl hcs hfl2 Hl Hcs
    generalize nfcL cs = F at *
    go_wp2_with fail
    refine C2.out.mono ?_
    rintro e w2 ⟨B2, d2, rfl, hO2, hu2⟩
    have C3 := Lib.hid (HBx.out B2 d2 w2 (own_read hO2))
    clear hO2 C2 HBx
    go_wp2_with fail
    refine C3.out.mono ?_
    intro e w3 hp
    obtain ⟨hu3, A3, c3, rfl, hr3⟩ := BytesP.own hF.out hp
    have hr3 := own_base hr3 (Nat.le_trans hu1.size hu2.size)
    have hG := Hgoal.out A3 c3 w3 ((hu1.trans hu2).trans hu3) hr3
    clear hp C3 Hgoal
    go_wp2_with fail
    go_ret2
    exact hG
  · have hG : TextP l w (.returned (.tuple #[.slice none 0 0, .int .i64 6])) w1 := ⟨hu1, .inr ⟨hft, none, 0, rfl, Rd.empty w1⟩⟩
    clear c1 HN HB
    go_wp2_with fail
    go_ret2
    exact hG

/-- What the program's functions answer. -/
structure NormOk : Prop where
  nfd : ∀ (A : Option Addr) (n d : Nat) (l : List Nat) (w : World), HRows w → Rd w A d (us l) → n = l.length → n ≤ 8000 → (∀ c ∈ l, c < 4294967296) → Calls Tryz.prog 56 #[.slice A n d] w (Gives (nfdL l) w)
  nfc : ∀ (A : Option Addr) (n d : Nat) (l : List Nat) (w : World), HRows w → Rd w A d (us l) → n = l.length → n ≤ 8000 → (∀ c ∈ l, c < 4294967296) → Calls Tryz.prog 39 #[.slice A n d] w (Gives (nfcL l) w)
  text : ∀ (A : Option Addr) (n d : Nat) (l : List UInt8) (w : World), HRows w → Rd w A d (bs l) → n = l.length → n ≤ 4000 → Calls Tryz.prog 25 #[.slice A n d] w (TextP l w)
  safe : ∀ (A : Option Addr) (n d : Nat) (l : List Nat) (w : World), HRows w → Rd w A d (us l) → n = l.length → n ≤ 8000 → (∀ c ∈ l, c < 4294967296) → Calls Tryz.prog 29 #[.slice A n d] w fun e w' => e = .returned (.int .i64 (safeOf l : Int)) ∧ Up w w'

end Go.Proofs.YtipemmjbgegmfaaGreatDoor

/- The closed cases of stage 8. -/
namespace Go.Proofs.YtipemmjbgegmfaaGreatDoor
open Go.RowKit Go.Proofs.YtipemmjbgegmfaaGreatDoor.Ordr Go.Proofs.YtipemmjbgegmfaaGreatDoor.Cmpr

theorem TextP.yes {cs : List Nat} (h : U.Cps cs) {w : World} {e : Ending} {w' : World} (hp : TextP (U.encs cs) w e w') :
    Up w w' ∧ ∃ B c, e = .returned (.tuple #[.slice B (U.encs (nfcL cs)).length c, .int .i64 0]) ∧ Rd w' B c (bs (U.encs (nfcL cs))) := by
  obtain ⟨hu, ⟨ds, B, c, hd, he, h1, h2⟩ | ⟨h1, _⟩⟩ := hp
  · have := U.encs_inj h hd he
    subst this
    exact ⟨hu, B, c, h1, own_read h2⟩
  · rw [U.fault_encs h] at h1
    omega
theorem TextP.own {cs : List Nat} (h : U.Cps cs) {w : World} {e : Ending} {w' : World} (hp : TextP (U.encs cs) w e w') :
    Up w w' ∧ ∃ B c, e = .returned (.tuple #[.slice B (U.encs (nfcL cs)).length c, .int .i64 0]) ∧ w'.ownsRow w.heap.size 5 1 (.slice B (U.encs (nfcL cs)).length c) (U.encs (nfcL cs)).length (bs (U.encs (nfcL cs))) := by
  obtain ⟨hu, ⟨ds, B, c, hd, he, h1, h2⟩ | ⟨h1, _⟩⟩ := hp
  · have := U.encs_inj h hd he
    subst this
    exact ⟨hu, B, c, h1, h2⟩
  · rw [U.fault_encs h] at h1
    omega
theorem TextP.no {l : List UInt8} (h : 0 ≤ U.fault l) {w : World} {e : Ending} {w' : World} (hp : TextP l w e w') :
    Up w w' ∧ ∃ B c, e = .returned (.tuple #[.slice B 0 c, .int .i64 6]) ∧ Rd w' B c [] := by
  obtain ⟨hu, ⟨ds, A, c, hd, he, h1, h2⟩ | ⟨_, h2⟩⟩ := hp
  · rw [he, U.fault_encs hd] at h
    omega
  · exact ⟨hu, h2⟩

theorem k8_5 : key decS.data.toList 16 5 = 197 := by kernel_rfl
theorem k8_5a : fld decS.data.toList 16 5 5 5 = 65 := by kernel_rfl
theorem k8_5b : fld decS.data.toList 16 5 10 5 = 778 := by kernel_rfl
theorem k8_893 : key decS.data.toList 16 893 = 8491 := by kernel_rfl
theorem k8_893a : fld decS.data.toList 16 893 5 5 = 197 := by kernel_rfl
theorem k8_893b : fld decS.data.toList 16 893 10 5 = 0 := by kernel_rfl
theorem k8_lo : key decS.data.toList 16 251 = 563 := by kernel_rfl
theorem k8_hi : key decS.data.toList 16 252 = 832 := by kernel_rfl
theorem k8_par : key parS.data.toList 15 12 = 65 := by kernel_rfl
theorem k8_parb : fld parS.data.toList 15 12 5 5 = 778 := by kernel_rfl
theorem k8_parc : fld parS.data.toList 15 12 10 5 = 197 := by kernel_rfl
theorem full_alone {c a : Nat} {l : List Nat} (h : rowOf c ≠ 0) (ha : decA c = a) (hb : decB c = 0) (hl : full a = l) : full c = l := by
  rw [full_row h, ha, hb, hl, if_pos rfl, List.append_nil]
theorem full_pair {c a b : Nat} {l : List Nat} (h : rowOf c ≠ 0) (ha : decA c = a) (hb : decB c = b) (hl : full a = l) (hb0 : b ≠ 0) : full c = l ++ [b] := by
  rw [full_row h, ha, hb, hl, if_neg hb0]
theorem full_below {c : Nat} (h : c < 192) : full c = [c] :=
  full_no (by rw [Bool.eq_false_iff]; intro h2; have := (isS_iff c).1 h2; omega) (row_less (Nat.lt_of_lt_of_le h (geq k_dec0 (Nat.le_refl _))))
theorem v8_65 : full 65 = [65] := full_below (by decide)
theorem v8_778 : full 778 = [778] := full_no (by decide) (row_none (i := 251) (by decide) (leq (congrArg Nat.succ k8_lo) (by decide)) (geq k8_hi (by decide)))
theorem v8_r197 : rowOf 197 = 5 + 1 := row_of_key (j := 5) (by decide) k8_5
theorem v8_197 : full 197 = [65] ++ [778] := full_pair (by rw [v8_r197]; decide) ((row_dec v8_r197).1.trans k8_5a) ((row_dec v8_r197).2.1.trans k8_5b) v8_65 (by decide)
theorem v8_r8491 : rowOf 8491 = 893 + 1 := row_of_key (j := 893) (by decide) k8_893
theorem v8_8491 : full 8491 = [65] ++ [778] := full_alone (by rw [v8_r8491]; decide) ((row_dec v8_r8491).1.trans k8_893a) ((row_dec v8_r8491).2.1.trans k8_893b) v8_197
theorem v8_cls : clsOf 778 = 230 := (cls_of (i := 0) (by decide) (leq k_cls0 (by decide)) (geq k_cls1 (by decide)) (geq k_cls0b (by decide))).trans k_cls0c
theorem v8_two : twoO 65 778 = some 197 := two_pair (by decide) (.inl ⟨rfl, 12, by decide, k8_par, k8_parb, k8_parc⟩)
theorem norm_case (cls : Nat → Nat) (two : Nat → Nat → Option Nat) (fl : Nat → List Nat) (h1 : cls 65 = 0) (h2 : cls 778 = 230) (t : two 65 778 = some 197) (f1 : fl 65 = [65]) (f2 : fl 778 = [778]) (f3 : fl 197 = [65] ++ [778]) (f4 : fl 8491 = [65] ++ [778]) :
    Nrmr.nfd cls fl [197] = [65, 778] ∧ Nrmr.nfc cls two fl [8491] = [197] ∧ Nrmr.nfc cls two fl [65, 778] = [197] := by
  have e : ord cls [65, 778] = [65, 778] := by simp [ord, kept, ins, h1, h2]
  have e2 : comp cls two [65, 778] = [197] := by simp [comp, run, Cmpr.step, Cmpr.keep, Cmpr.blocked, back, h1, t]
  refine ⟨?_, ?_, ?_⟩
  · simp [Nrmr.nfd, f3, e]
  · simp [Nrmr.nfc, Nrmr.nfd, f4, e, e2]
  · simp [Nrmr.nfc, Nrmr.nfd, f1, f2, e, e2]
theorem norm_vals : nfdL [197] = [65, 778] ∧ nfcL [8491] = [197] ∧ nfcL [65, 778] = [197] :=
  norm_case clsOf twoO full (small_cls (by decide)) v8_cls v8_two v8_65 v8_778 v8_197 v8_8491
theorem start_mark {c : Nat} (h : clsOf c ≠ 0) : startOf c = false := by
  unfold startOf
  rw [decide_eq_false h, Bool.false_and]
theorem v8_66 : startOf 66 = true := yes_of (row_less (geq k_dec0 (by decide))) (cls_none (geq k_cls0 (by decide))) (sec_none (by decide))
theorem safe_case : safeOf [65, 769, 66, 769] = 2 := by
  have h1 : startOf 769 = false := start_mark (by rw [v_cls]; decide)
  show safeF [65, 769, 66, 769] (2 + 1) = 2
  rw [safeF_step]
  show (if startOf 769 = true then 3 else safeF [65, 769, 66, 769] (1 + 1)) = 2
  rw [h1, if_neg (by decide), safeF_step]
  show (if startOf 66 = true then 2 else safeF [65, 769, 66, 769] 1) = 2
  rw [v8_66, if_pos rfl]
theorem fault_ff : 0 ≤ U.fault [255] := by decide

end Go.Proofs.YtipemmjbgegmfaaGreatDoor

/- Stage 8's awake. -/
namespace Go.Proofs.YtipemmjbgegmfaaGreatDoor
open Go.RowKit Go.Proofs.YtipemmjbgegmfaaGreatDoor.Ordr Go.Proofs.YtipemmjbgegmfaaGreatDoor.Cmpr

theorem rd_lit (w : World) (l : List UInt8) (n : Nat) (hn : n = l.length) (hm : n ≤ 1000) : Rd (w.alloc (.cells (bs l).toArray 5)) (some ⟨w.heap.size, 0, none⟩) n (bs l) := by
  subst hn
  exact Rd.new (n := l.length) w (bs l).toArray 5 rfl (by rw [bs_len]) (by unfold maxLen; omega)

end Go.Proofs.YtipemmjbgegmfaaGreatDoor

/- The statements of stage 8: the walks. -/
namespace Go.Proofs.YtipemmjbgegmfaaGreatDoor
open Go.RowKit Go.Proofs.YtipemmjbgegmfaaGreatDoor.Ordr Go.Proofs.YtipemmjbgegmfaaGreatDoor.Cmpr

theorem nfc_eq8 (a b : List Nat) : nfcL a = nfcL b ↔ nfdL a = nfdL b := Nrmr.nfc_eq clsOf twoO good a b

end Go.Proofs.YtipemmjbgegmfaaGreatDoor
