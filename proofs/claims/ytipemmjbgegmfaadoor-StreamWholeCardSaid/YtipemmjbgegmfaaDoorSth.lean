/- The statements of stage 10: what is held. -/
import Derived.Test.YtipemmjbgegmfaaDoorSto
namespace Go.Proofs.YtipemmjbgegmfaaDoor
open Go.RowKit Go.Proofs.YtipemmjbgegmfaaDoor.Ordr Go.Proofs.YtipemmjbgegmfaaDoor.Cmpr

/-- What is held and what went, of T bytes. -/
def HeldOf (s : SS) (T : Nat) : Prop := (s.err = 0 ∧ s.held.length + s.inn = T) ∨ (s.err = 6 ∧ s.held = [])
theorem HeldOf.write {s : SS} {T : Nat} (h : HeldOf s T) (b : List UInt8) : ((s.write b).err = 0 ∧ (s.write b).held.length + (s.write b).inn = T + b.length) ∨ ((s.write b).err = 6 ∧ (s.write b).held = []) := by
  rcases h with ⟨h1, h2⟩ | ⟨h1, h2⟩
  · by_cases hb : BadB (s.held ++ b)
    · rw [(SS.write_bad h1 hb).1]
      exact .inr ⟨rfl, rfl⟩
    · rw [(SS.write_ok h1 hb).1]
      refine .inl ⟨h1, ?_⟩
      generalize safeB (rightOf (s.held ++ b)) = n
      show ((s.held ++ b).drop n).length + (s.inn + ((s.held ++ b).take n).length) = _
      rw [List.length_drop, List.length_take, List.length_append]; omega
  · rw [(SS.write_err (by omega) b).1]
    exact .inr ⟨h1, h2⟩

/-- A piece that came in lies where no stream of the call's own does. -/
theorem rd_apart {W : World} {A : Option Addr} {c : Nat} {xs : List Value} (h : Rd W A c xs) {X : Nat → Prop} (hX : ∀ k, X k → W.heap.size ≤ k) : 0 < c → ∀ a, A = some a → ¬ X a.block := fun hc a ha hx => by
  obtain ⟨a', ha', hb⟩ := h.ad hc
  rw [ha] at ha'
  injection ha' with e
  subst e
  have := hX _ hx
  omega

set_option maxRecDepth 100000 in
set_option maxHeartbeats 1600000 in
theorem holds_of10 {G : World → Prop} {Rep : (Nat → Prop) → World → Nat → SS → Prop} (hG : Ground G) (H : StreamOk G Rep) (W : World) (hw : G W) (O : Option Addr) (len cap : Nat) (LL : List (List UInt8)) (hlen : LL.length = len) (hlc : len ≤ cap) (hcm : cap ≤ 9223372036854775807) (hin : RowsIn W O LL) :
    Calls Tryd.prog 11 #[.slice O len cap] W fun e w' => e = .returned (.bool true) ∧ Up W w' := by
  have AW := Lib.hid (fun w' (u : Up W w') => awake_10 hG H w' (hG _ _ hw u))
  have cf := few_walk W O len cap LL hlen hlc hcm hin
  cases hfew : fewB LL with
  | false =>
    rw [hfew] at cf
    have CF := Lib.hid cf
    clear cf hfew H hin
    go_enter Tryd.func11, Tryd.ntmps11
    go_wp2_with fail
    refine CF.out.mono ?_
    rintro e w1 ⟨rfl, rfl⟩
    go_wp2_with fail
    refine (AW.out _ (Up.refl _)).mono ?_
    rintro e w2 ⟨rfl, hu⟩
    go_wp2_with fail
    go_ret
    exact ⟨rfl, hu⟩
  | true =>
    rw [hfew] at cf
    have CF := Lib.hid cf
    obtain ⟨hl60, hfl⟩ := few_yes hfew
    have HFL := Lib.hid hfl
    have HLN := Lib.hid hlen
    have HWR := Lib.hid (fun X w' g s T k (hk : k < LL.length) A c (u : Up W w') (hX : ∀ b, X b → W.heap.size ≤ b) (hR : Rep X w' g s) (hq : s.Ok T) (hT : T + LL[k].length ≤ 600) (hr : Rd W A c (bs LL[k])) =>
      H.write X w' g s T A LL[k].length c LL[k] (hG _ _ hw u) hR hq (by omega) (hr.up u) rfl (rd_apart hr hX))
    have HH := Lib.hid (fun X w1 w2 g s (hR : Rep X w1 g s) (u : Up w1 w2) => H.held X w2 g s (H.up hR u))
    have HM := Lib.hid (fun X w1 w2 g s (hR : Rep X w1 g s) (u : Up w1 w2) => H.mark X w2 g s (H.up hR u))
    have HU := Lib.hid (fun X w1 w2 g s (hR : Rep X w1 g s) (u : Up w1 w2) => H.up hR u)
    have HN := Lib.hid (H.new W hw)
    have N1 := Lib.hid H.write_nil
    have N2 := Lib.hid H.fin_nil
    have N3 := Lib.hid H.mark_nil
    have N4 := Lib.hid H.held_nil
    rw [hlen] at hl60
    clear cf hfew hfl hlen H
    go_enter Tryd.func11, Tryd.ntmps11
    go_wp2_with fail
    refine CF.out.mono ?_
    rintro e w1 ⟨rfl, rfl⟩
    go_wp2_with fail
    refine HN.out.mono ?_
    rintro e w1 ⟨X1, g, rfl, hR1, hu1, hX1⟩
    have HR1 := Lib.hid hR1
    have HX1 := Lib.hid hX1
    clear hR1 hX1 HN CF
    go_wp2_with fail
    go_loopw [4, 5, 6] (fun al fa i wr => ∃ (k T : Nat) (fb : Bool) (s : SS) (X : Nat → Prop), k ≤ len ∧ i = .int .i64 (k : Int) ∧ al = .int .i64 (T : Int) ∧ fa = .bool fb ∧ T ≤ 600 ∧ Hid (T = (LL.take k).flatten.length ∧ (fb = true → s.err = 6) ∧ HeldOf s T ∧ s.Ok T ∧ Rep X wr g s ∧ ∀ b, X b → W.heap.size ≤ b) ∧ Up W wr) (fun _ _ i _ => len - (intOf i).toNat)
    case atStart => exact ⟨0, 0, false, SS.new, X1, Nat.zero_le _, rfl, rfl, rfl, Nat.zero_le _, Lib.hid ⟨rfl, (fun h => by cases h), .inl ⟨rfl, rfl⟩, SS.new_ok, HR1.out, HX1.out⟩, hu1⟩
    case round =>
      obtain ⟨k, T, fb, s, X, hk, rfl, rfl, rfl, hT6, HI, hu⟩ := hrel
      obtain ⟨hT, hfb, hhe, hok, hR, hX⟩ := HI.out
      clear HR1 HX1 hu1
      by_cases hlt : k < len
      · have hkl : k < LL.length := by rw [HLN.out]; exact hlt
        obtain ⟨a, A, c, rfl, hab, hcell0, hrd⟩ := hin k hkl
        have hcell : wr.cell? (a.add k) = some (.slice A LL[k].length c) := (Below.cell hu (p := a.add k) (by rw [addr_block]; exact hab)).trans hcell0
        have hfl := flat_le LL k hkl
        have hfs := flat_succ LL k hkl
        have hT2 : T + LL[k].length ≤ 600 := by have := HFL.out; omega
        have cw := HWR.out X wr g s T k hkl A c hu hX hR hok hT2 hrd
        have hok2 := hok.write LL[k]
        have hh2 := hhe.write LL[k]
        have hcell2 := fun w' (u : Up W w') => show w'.cell? (a.add k) = some (.slice A LL[k].length c) from (Below.cell u (p := a.add k) (by rw [addr_block]; exact hab)).trans hcell0
        have hes : fb = true → (s.write LL[k]).err = 6 := fun h => by
          rw [(SS.write_err (by rw [hfb h]; decide) _).1]; exact hfb h
        have HT2 := Lib.hid (show T + LL[k].length = (LL.take (k + 1)).flatten.length by rw [hfs, List.length_append, hT])
        have CW := Lib.hid cw
        have HC2 := Lib.hid hcell2
        have HO2 := Lib.hid hok2
        have Hes := Lib.hid hes
        clear cw hcell2 hok2 hes hT hfb hhe hok hR hrd hfl hfs hcell0 HI
        generalize s.write LL[k] = s2 at *
        generalize s.told LL[k] = tl at *
        generalize LL[k].length = m at *
        clear s
        rcases hh2 with ⟨he, hh⟩ | ⟨he, hh⟩
        -- it goes on
        · have hf0 : fb = false := by
            cases fb with
            | false => rfl
            | true => have := Hes.out rfl; omega
          subst hf0
          have CW2 : Hid (Calls Tryd.prog 38 #[.pointer (some ⟨g, 0, none⟩), .slice A m c] wr (Gave Rep X wr g tl s2)) := CW
          generalize hhl : s2.held.length = q at *
          have HHL := Lib.hid hhl
          have HE := Lib.hid he
          have hq : q ≤ 600 := by omega
          have hi6 : s2.inn ≤ 600 := by omega
          have hz : ((q : Int) != (T : Int) + (m : Int) - (s2.inn : Int)) = false := by simp; omega
          have HHe := Lib.hid hh
          clear he hhl hh CW Hes
          go_wp2_with fail
          refine CW2.out.mono ?_
          intro e w2 hp
          obtain ⟨X2, B2, b2, rfl, _, _, hR2, _, _, hu2, hX2⟩ := hp.out hu hX
          rw [HE.out]
          have hc2 := HC2.out w2 hu2
          have HR2 := Lib.hid hR2
          have HX2 := Lib.hid hX2
          clear hp hR2 hX2 hX hu CW2
          go_wp2_with fail
          have c1 := HH.out X2 w2 w2 g s2 HR2.out (Up.refl _)
          rw [HHL.out] at c1
          refine c1.mono ?_
          rintro e w3 ⟨rfl, hu3⟩
          clear c1
          go_wp2_with fail
          have c1 := HH.out X2 w2 w3 g s2 HR2.out hu3
          rw [HHL.out] at c1
          refine c1.mono ?_
          rintro e w4 ⟨rfl, hu4⟩
          clear c1
          go_wp2_with fail
          refine (HM.out X2 w2 w4 g s2 HR2.out (hu3.trans hu4)).mono ?_
          rintro e w5 ⟨rfl, hu5⟩
          have f0 := mark_0
          unfold aggM
          go_wp2_with fail
          go_roundw
          case rel => exact ⟨k + 1, T + m, false, s2, X2, by omega, by go_num, by go_num, rfl, by omega, Lib.hid ⟨HT2.out, (fun h => by cases h), .inl ⟨HE.out, by rw [HHL.out]; exact HHe.out⟩, HO2.out, HU.out X2 w2 w5 g s2 HR2.out ((hu3.trans hu4).trans hu5), HX2.out⟩, ((hu2.trans hu3).trans hu4).trans hu5⟩
          case measure => simp [intOf]; omega
        -- it failed
        · have HHL := Lib.hid (show s2.held.length = 0 by rw [hh]; rfl)
          have HHe := Lib.hid hh
          have HE := Lib.hid he
          clear he hh Hes
          cases fb
          all_goals
            go_wp2_with fail
            refine CW.out.mono ?_
            intro e w2 hp
            obtain ⟨X2, B2, b2, rfl, _, _, hR2, _, _, hu2, hX2⟩ := hp.out hu hX
            rw [HE.out]
            have hc2 := HC2.out w2 hu2
            have HR2 := Lib.hid hR2
            have HX2 := Lib.hid hX2
            clear hp hR2 hX2 hX hu CW
            go_wp2_with fail
            have c1 := HH.out X2 w2 w2 g s2 HR2.out (Up.refl _)
            rw [HHL.out] at c1
            refine c1.mono ?_
            rintro e w3 ⟨rfl, hu3⟩
            clear c1
            go_wp2_with fail
            have c1 := HH.out X2 w2 w3 g s2 HR2.out hu3
            rw [HHL.out] at c1
            refine c1.mono ?_
            rintro e w4 ⟨rfl, hu4⟩
            clear c1
            go_wp2_with fail
            go_roundw
            case rel => exact ⟨k + 1, T + m, true, s2, X2, by omega, by go_num, by go_num, rfl, by omega, Lib.hid ⟨HT2.out, fun _ => HE.out, .inr ⟨HE.out, HHe.out⟩, HO2.out, HU.out X2 w2 w4 g s2 HR2.out (hu3.trans hu4), HX2.out⟩, (hu2.trans hu3).trans hu4⟩
            case measure => simp [intOf]; omega
      · clear HI hT hfb hhe hok hR hX hin
        go_wp2_with fail
        refine (N1.out _ _ _ _).mono ?_
        rintro e w2 ⟨v2, rfl, hu2⟩
        go_wp2_with fail
        refine (N2.out _).mono ?_
        rintro e w3 ⟨v3, rfl, hu3⟩
        go_wp2_with fail
        refine (N3.out _).mono ?_
        rintro e w4 ⟨rfl, hu4⟩
        have me := mark_eq
        unfold aggM SS.new
        go_wp2_with fail
        refine (N4.out _).mono ?_
        rintro e w5 ⟨rfl, hu5⟩
        go_wp2_with fail
        refine (AW.out _ ((((hu.trans hu2).trans hu3).trans hu4).trans hu5)).mono ?_
        rintro e w6 ⟨rfl, hu6⟩
        go_wp2_with fail
        go_ret
        exact ⟨rfl, ((((hu.trans hu2).trans hu3).trans hu4).trans hu5).trans hu6⟩

end Go.Proofs.YtipemmjbgegmfaaDoor
