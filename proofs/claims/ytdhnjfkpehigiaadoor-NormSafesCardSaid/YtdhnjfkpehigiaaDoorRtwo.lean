/- The document's One: the walk. Written by program (wip/tools/rone.py). -/
import Derived.Test.YtdhnjfkpehigiaaDoorRone
namespace Go.Proofs.YtdhnjfkpehigiaaDoor
open Go.RowKit

theorem U.one_of_take {l : List UInt8} {v m : Nat} (hv : U.isCp v) (hw : U.wid v = m) (h : l.take m = U.enc v) : U.one l = (v, m) := by
  rw [← hw]
  have : l = U.enc v ++ l.drop m := by rw [← h, List.take_append_drop]
  rw [this]
  exact U.one_enc hv _
theorem U.take_of_one {l : List UInt8} {m : Nat} (hm : 0 < m) (h : (U.one l).2 = m) : U.isCp (U.one l).1 ∧ U.wid (U.one l).1 = m ∧ l.take m = U.enc (U.one l).1 := by
  obtain ⟨h1, h2, h3⟩ := U.one_spec (l := l) (by omega)
  refine ⟨h1, by omega, ?_⟩
  conv => lhs; rw [h3]
  rw [← h, h2, ← U.enc_len h1, List.take_left]

theorem ba_list (x : List UInt8) : (⟨x.toArray⟩ : ByteArray).toList = x := by
  simp
theorem arr_beq (x y : List UInt8) : ((⟨x.toArray⟩ : ByteArray).toList == (⟨y.toArray⟩ : ByteArray).toList) = decide (x = y) := by
  rw [ba_list, ba_list, Bool.eq_iff_iff, beq_iff_eq, decide_eq_true_iff]

set_option maxRecDepth 100000 in
set_option maxHeartbeats 1600000 in
theorem one_ref_pos (a : Addr) (c n : Nat) (l : List UInt8) (w : World) (h : Rd w (some a) c (bs l)) (hn : n = l.length) :
    Calls Tryd.prog 72 #[.slice (some a) n c] w fun e w' => e = .returned (.tuple #[.int .u32 (U.one l).1, .int .i64 (U.one l).2]) ∧ Up w w' := by
  have hf := h.fit
  have hmx := h.max
  rw [bs_len] at hf
  unfold maxLen at hmx
  have hfn : n ≤ c := by omega
  have hcm : c ≤ 9223372036854775807 := by omega
  have Hn := Lib.hid hn
  clear hn hf hmx
  go_enter Tryd.func72, Tryd.ntmps72
  go_wp2
  go_loopw [4] (fun i wr => ∃ m : Nat, 1 ≤ m ∧ m ≤ 5 ∧ m ≤ n + 1 ∧ i = .int .i64 m ∧ Hid (∀ k, 1 ≤ k → k < m → (U.one l).2 ≠ k) ∧ Up w wr) (fun i _ => 5 - (intOf i).toNat)
  case atStart => exact ⟨1, by omega, by omega, by omega, rfl, Lib.hid (fun k h1 h2 => by omega), Up.refl w⟩
  case round =>
    obtain ⟨m, hm1, hm5, hmn, rfl, hno, hu⟩ := hrel
    by_cases hlt : m ≤ 4 ∧ m ≤ n
    · obtain ⟨hm4, hml⟩ := hlt
      have hmc : m ≤ c := by omega
      have hcal := number_ref a c n m l wr (h.up hu) Hn.out hm1 hm4 hml
      have HC := Lib.hid (fun w' (hu2 : Up wr.drew w') => ((h.up (hu.trans (Up.of_drew hu2))).pfx m).str (n := m) (by rw [List.length_take, ← Hn.out]; omega))
      have next : (∀ cp : Nat, U.isCp cp → U.wid cp = m → l.take m = U.enc cp → False) → (U.one l).2 ≠ m := fun hh he => by
        obtain ⟨h1, h2, h3⟩ := U.take_of_one (by omega) he
        exact hh _ h1 h2 h3
      have HN := Lib.hid next
      clear next
      go_wp2_with fail
      refine hcal.mono ?_
      rintro e w1 ⟨v, ok, rfl, rfl, hv0, hv1, hP⟩
      clear hcal
      obtain ⟨v, rfl⟩ := Int.eq_ofNat_of_zero_le hv0
      have HP := Lib.hid hP
      clear hP hv0
      cases ok with
      | false =>
        have Hne := Lib.hid (HN.out fun cp h1 h2 h3 => absurd (HP.out cp ⟨h1, h2, h3⟩).2 (by decide))
        clear HP HN HC
        go_wp2_with fail
        refine wp_region_pi [(0, false), (1, false), (2, false), (4, false), (3, true), (5, false), (6, false), (7, false), (8, false), (11, false), (12, false), (13, false), (14, false), (9, true), (10, false), (15, false), (16, false)] (by kernel_rfl) (by kernel_rfl) (fun _ _ d _ _ h => by cases d <;> exact h) ?_
        iterate 2 (((with_reducible apply pi_take); (focus exact rfl); (focus exact rfl); (focus (intro w' hu; go_simp; try with_reducible rfl; done))); (simp only [Act.put, List.setIfInBounds_toArray, List.set_cons_succ, List.set_cons_zero]))
        iterate 4 (((with_reducible apply pi_skip); (focus exact rfl); (focus exact rfl)); (simp only [Act.put, List.setIfInBounds_toArray, List.set_cons_succ, List.set_cons_zero]))
        iterate 2 (((with_reducible apply pi_take); (focus exact rfl); (focus exact rfl); (focus (intro w' hu; go_simp; try with_reducible rfl; done))); (simp only [Act.put, List.setIfInBounds_toArray, List.set_cons_succ, List.set_cons_zero]))
        iterate 8 (((with_reducible apply pi_skip); (focus exact rfl); (focus exact rfl)); (simp only [Act.put, List.setIfInBounds_toArray, List.set_cons_succ, List.set_cons_zero]))
        iterate 1 (((with_reducible apply pi_take); (focus exact rfl); (focus exact rfl); (focus (intro w' hu; go_simp; try with_reducible rfl; done))); (simp only [Act.put, List.setIfInBounds_toArray, List.set_cons_succ, List.set_cons_zero]))
        refine pi_done ?_
        go_wp2
        go_roundw
        case rel => exact ⟨m + 1, by omega, by omega, by omega, by go_num, Lib.hid (fun k h1 h2 => by by_cases hk : k = m; (rw [hk]; exact Hne.out); exact hno.out k h1 (by omega)), hu.trans (Up.refl _).drew⟩
        case measure => simp [intOf]; omega
      | true =>
        have HW := Lib.hid (widthI_wid v)
        by_cases hw : U.wid v = m
        · have hcp : U.isCp v := U.wid_pos.1 (by omega)
          have Hl := Lib.hid (U.enc_len hcp)
          have Hcp := Lib.hid hcp
          have Hw := Lib.hid hw
          clear hcp hw
          by_cases he : l.take m = U.enc v
          · have Hq := Lib.hid he
            have Hbeq := Lib.hid (show (U.enc v == List.take m l) = true by rw [he]; simp)
            clear he
            go_wp2_with fail
            refine wp_region_pi [(0, false), (1, false), (2, false), (4, false), (3, true), (5, false), (6, false), (7, false), (8, false), (11, false), (12, false), (13, false), (14, false), (9, true), (10, false), (15, false), (16, false)] (by kernel_rfl) (by kernel_rfl) (fun _ _ d _ _ h => by cases d <;> exact h) ?_
            iterate 4 (((with_reducible apply pi_take); (focus exact rfl); (focus exact rfl); (focus (intro w' hu; go_simp; try with_reducible rfl; done))); (simp only [Act.put, List.setIfInBounds_toArray, List.set_cons_succ, List.set_cons_zero]))
            refine pi_make rfl rfl (fun K hK => ?_)
            go_simp
            refine (width_ref _ _).mono ?_
            rintro e w3 ⟨rfl, rfl⟩
            refine hK.out _ _ (Up.refl _) ?_
            clear hK K
            rw [HW.out, Hw.out]
            iterate 4 (((with_reducible apply pi_take); (focus exact rfl); (focus exact rfl); (focus (intro w' hu; have hcx := HC.out w' hu; go_simp; try with_reducible rfl; done))); (simp only [Act.put, List.setIfInBounds_toArray, List.set_cons_succ, List.set_cons_zero]))
            iterate 4 (((with_reducible apply pi_take); (focus exact rfl); (focus exact rfl); (focus (intro w' hu; have hcx := HC.out w' hu; go_simp; try with_reducible rfl; done))); (simp only [Act.put, List.setIfInBounds_toArray, List.set_cons_succ, List.set_cons_zero]))
            refine pi_make rfl rfl (fun K hK => ?_)
            go_simp
            refine (rput_ref v Hcp.out _).mono ?_
            rintro e w2 ⟨A2, rfl, hrd2, hu2⟩
            refine hK.out _ _ hu2 ?_
            clear hK K
            have HC2 := Lib.hid (fun w' (hu : Up w2 w') => (hrd2.up hu).str Hl.out.symm)
            clear hrd2
            iterate 1 (((with_reducible apply pi_take); (focus exact rfl); (focus exact rfl); (focus (intro w' hu; have hcx := HC2.out w' hu; go_simp; try with_reducible rfl; done))); (simp only [Act.put, List.setIfInBounds_toArray, List.set_cons_succ, List.set_cons_zero]))
            iterate 1 (((with_reducible apply pi_take); (focus exact rfl); (focus exact rfl); (focus (intro w' hu; have hcx := Hbeq.out; go_simp; try with_reducible rfl; done))); (simp only [Act.put, List.setIfInBounds_toArray, List.set_cons_succ, List.set_cons_zero]))
            iterate 1 (((with_reducible apply pi_take); (focus exact rfl); (focus exact rfl); (focus (intro w' hu; go_simp; try with_reducible rfl; done))); (simp only [Act.put, List.setIfInBounds_toArray, List.set_cons_succ, List.set_cons_zero]))
            refine pi_done ?_
            go_wp2
            go_ret2
            exact ⟨ret_two (by rw [U.one_of_take Hcp.out Hw.out Hq.out]; rfl) (by rw [U.one_of_take Hcp.out Hw.out Hq.out]; rfl), hu.trans (Up.of_drew hu2)⟩
          · have Hne := Lib.hid (HN.out fun cp h1 h2 h3 => by
              have := (HP.out cp ⟨h1, h2, h3⟩).1
              have : v = cp := by omega
              subst this
              exact he h3)
            have Hbeq := Lib.hid (show (U.enc v == List.take m l) = false from beq_eq_false_iff_ne.2 (fun hh => he hh.symm))
            clear he HN HP
            go_wp2_with fail
            refine wp_region_pi [(0, false), (1, false), (2, false), (4, false), (3, true), (5, false), (6, false), (7, false), (8, false), (11, false), (12, false), (13, false), (14, false), (9, true), (10, false), (15, false), (16, false)] (by kernel_rfl) (by kernel_rfl) (fun _ _ d _ _ h => by cases d <;> exact h) ?_
            iterate 4 (((with_reducible apply pi_take); (focus exact rfl); (focus exact rfl); (focus (intro w' hu; go_simp; try with_reducible rfl; done))); (simp only [Act.put, List.setIfInBounds_toArray, List.set_cons_succ, List.set_cons_zero]))
            refine pi_make rfl rfl (fun K hK => ?_)
            go_simp
            refine (width_ref _ _).mono ?_
            rintro e w3 ⟨rfl, rfl⟩
            refine hK.out _ _ (Up.refl _) ?_
            clear hK K
            rw [HW.out, Hw.out]
            iterate 8 (((with_reducible apply pi_take); (focus exact rfl); (focus exact rfl); (focus (intro w' hu; have hcx := HC.out w' hu; go_simp; try with_reducible rfl; done))); (simp only [Act.put, List.setIfInBounds_toArray, List.set_cons_succ, List.set_cons_zero]))
            refine pi_make rfl rfl (fun K hK => ?_)
            go_simp
            refine (rput_ref v Hcp.out _).mono ?_
            rintro e w2 ⟨A2, rfl, hrd2, hu2⟩
            refine hK.out _ _ hu2 ?_
            clear hK K
            have HC2 := Lib.hid (fun w' (hu : Up w2 w') => (hrd2.up hu).str Hl.out.symm)
            clear hrd2
            iterate 1 (((with_reducible apply pi_take); (focus exact rfl); (focus exact rfl); (focus (intro w' hu; have hcx := HC2.out w' hu; go_simp; try with_reducible rfl; done))); (simp only [Act.put, List.setIfInBounds_toArray, List.set_cons_succ, List.set_cons_zero]))
            iterate 1 (((with_reducible apply pi_take); (focus exact rfl); (focus exact rfl); (focus (intro w' hu; have hcx := Hbeq.out; go_simp; try with_reducible rfl; done))); (simp only [Act.put, List.setIfInBounds_toArray, List.set_cons_succ, List.set_cons_zero]))
            iterate 1 (((with_reducible apply pi_take); (focus exact rfl); (focus exact rfl); (focus (intro w' hu; go_simp; try with_reducible rfl; done))); (simp only [Act.put, List.setIfInBounds_toArray, List.set_cons_succ, List.set_cons_zero]))
            refine pi_done ?_
            go_wp2
            go_roundw
            case rel => exact ⟨m + 1, by omega, by omega, by omega, by go_num, Lib.hid (fun k h1 h2 => by by_cases hk : k = m; (rw [hk]; exact Hne.out); exact hno.out k h1 (by omega)), hu.trans (Up.of_drew hu2)⟩
            case measure => simp [intOf]; omega
        · have Hne := Lib.hid (HN.out fun cp h1 h2 h3 => by
            have := (HP.out cp ⟨h1, h2, h3⟩).1
            have : v = cp := by omega
            subst this
            exact hw h2)
          have hwb : ((U.wid v : Int) == (m : Int)) = false := beq_eq_false_iff_ne.2 (by omega)
          clear HN HP hw HC
          go_wp2_with fail
          refine wp_region_pi [(0, false), (1, false), (2, false), (4, false), (3, true), (5, false), (6, false), (7, false), (8, false), (11, false), (12, false), (13, false), (14, false), (9, true), (10, false), (15, false), (16, false)] (by kernel_rfl) (by kernel_rfl) (fun _ _ d _ _ h => by cases d <;> exact h) ?_
          iterate 4 (((with_reducible apply pi_take); (focus exact rfl); (focus exact rfl); (focus (intro w' hu; go_simp; try with_reducible rfl; done))); (simp only [Act.put, List.setIfInBounds_toArray, List.set_cons_succ, List.set_cons_zero]))
          refine pi_make rfl rfl (fun K hK => ?_)
          go_simp
          refine (width_ref _ _).mono ?_
          rintro e w3 ⟨rfl, rfl⟩
          refine hK.out _ _ (Up.refl _) ?_
          clear hK K
          rw [HW.out]
          iterate 3 (((with_reducible apply pi_take); (focus exact rfl); (focus exact rfl); (focus (intro w' hu; go_simp; try with_reducible rfl; done))); (simp only [Act.put, List.setIfInBounds_toArray, List.set_cons_succ, List.set_cons_zero]))
          iterate 8 (((with_reducible apply pi_skip); (focus exact rfl); (focus exact rfl)); (simp only [Act.put, List.setIfInBounds_toArray, List.set_cons_succ, List.set_cons_zero]))
          iterate 1 (((with_reducible apply pi_take); (focus exact rfl); (focus exact rfl); (focus (intro w' hu; go_simp; try with_reducible rfl; done))); (simp only [Act.put, List.setIfInBounds_toArray, List.set_cons_succ, List.set_cons_zero]))
          refine pi_done ?_
          go_wp2
          go_roundw
          case rel => exact ⟨m + 1, by omega, by omega, by omega, by go_num, Lib.hid (fun k h1 h2 => by by_cases hk : k = m; (rw [hk]; exact Hne.out); exact hno.out k h1 (by omega)), hu.trans (Up.refl _).drew⟩
          case measure => simp [intOf]; omega
    · have hz : U.one l = (0, 0) := by
        refine U.one_zero ?_
        have h1 := U.one_le l
        have h2 : (U.one l).2 ≤ 4 := by
          by_cases h0 : (U.one l).2 = 0
          · omega
          · have := (U.one_spec h0).2.1
            have := U.wid_le (U.one l).1
            omega
        have h3 := Hn.out
        refine Decidable.byContradiction fun hh => ?_
        exact hno.out _ (by omega) (by omega) rfl
      have HZ := Lib.hid hz
      clear hz
      by_cases hm4 : m ≤ 4
      · have hml : ¬ m ≤ n := fun hh => hlt ⟨hm4, hh⟩
        clear hlt
        go_wp2
        go_ret2
        exact ⟨ret_two (by rw [HZ.out]; rfl) (by rw [HZ.out]; rfl), hu⟩
      · clear hlt
        go_wp2
        go_ret2
        exact ⟨ret_two (by rw [HZ.out]; rfl) (by rw [HZ.out]; rfl), hu⟩

end Go.Proofs.YtdhnjfkpehigiaaDoor
