/- The statement CodePuts: the walk. Written by program (wip/tools/puts.py). -/
import Derived.Test.YtnokgeobaaahiaaAwake
import Derived.Test.YtnokgeobaaahiaaRput
namespace Go.Proofs.Ytnokgeobaaahiaa
open Go.RowKit

set_option maxRecDepth 100000 in
set_option maxHeartbeats 400000 in
theorem puts_yes (c : Nat) (hc : U.isCp c) (w : World) : Calls Try.prog 3 #[.int .u32 c] w fun e w' => e = .returned (.bool true) ∧ Up w w' := by
  have hB : isB (c : Int) = true := by have h1 := hc.1; have h2 := hc.2; unfold isB; simp; omega
  have hpc := put_code c hc w
  have hn := U.enc_len hc
  go_enter Try.func3, Try.ntmps3
  go_wp2_with fail
  refine hpc.mono ?_
  rintro e w1 ⟨A, rfl, hrd, hu1⟩
  have HC := Lib.hid (fun w' (hu : Up w1.drew w') => (hrd.up (Up.of_drew hu)).str hn.symm)
  clear hpc hrd
  have HcP := Lib.hid hc
  have Hn := Lib.hid hn
  clear hc hn
  go_wp2_with fail
  refine wp_region_pi [(0, false), (1, false), (2, false), (3, true), (4, false), (5, false), (6, false), (7, false), (8, false), (9, false), (10, true), (11, false), (12, false), (13, false), (14, false), (15, false), (16, false), (17, false), (18, false), (19, false), (20, false), (21, false), (22, false), (24, false), (23, true), (25, true), (26, false), (27, false), (28, false), (29, true), (30, false), (31, false)] (by kernel_rfl) (by kernel_rfl) (fun _ _ d _ _ h => by cases d <;> exact h) ?_
  iterate 3 (((with_reducible apply pi_take); (focus exact rfl); (focus exact rfl); (focus (intro w' hu; have hcx := HC.out w' hu; go_simp; try with_reducible rfl; done))); (simp only [Act.put, List.setIfInBounds_toArray, List.set_cons_succ, List.set_cons_zero]))
  refine pi_make rfl rfl (fun K hK => ?_)
  go_simp
  refine (rput_ref c HcP.out _).mono ?_
  rintro e w2 ⟨A2, rfl, hrd2, hu2⟩
  refine hK.out _ _ hu2 ?_
  clear hK K
  have HC2 := Lib.hid (fun w' (hu : Up w2 w') => (hrd2.up hu).str Hn.out.symm)
  clear hrd2
  iterate 6 (((with_reducible apply pi_take); (focus exact rfl); (focus exact rfl); (focus (intro w' hu; have hcx := HC2.out w' hu; go_simp; try with_reducible rfl; done))); (simp only [Act.put, List.setIfInBounds_toArray, List.set_cons_succ, List.set_cons_zero]))
  refine pi_make rfl rfl (fun K hK => ?_)
  go_simp
  refine (is_ref _ _).mono ?_
  rintro e w3 ⟨rfl, rfl⟩
  refine hK.out _ _ (Up.refl _) ?_
  clear hK K
  iterate 6 (((with_reducible apply pi_take); (focus exact rfl); (focus exact rfl); (focus (intro w' hu; go_simp; try with_reducible rfl; done))); (simp only [Act.put, List.setIfInBounds_toArray, List.set_cons_succ, List.set_cons_zero]))
  iterate 2 (((with_reducible apply pi_skip); (focus exact rfl); (focus exact rfl)); (simp only [Act.put, List.setIfInBounds_toArray, List.set_cons_succ, List.set_cons_zero]))
  iterate 5 (((with_reducible apply pi_take); (focus exact rfl); (focus exact rfl); (focus (intro w' hu; go_simp; try with_reducible rfl; done))); (simp only [Act.put, List.setIfInBounds_toArray, List.set_cons_succ, List.set_cons_zero]))
  refine pi_make rfl rfl (fun K hK => ?_)
  go_simp
  refine (width_code _ _).mono ?_
  rintro e w3 ⟨rfl, rfl⟩
  refine hK.out _ _ (Up.refl _) ?_
  clear hK K
  refine pi_make rfl rfl (fun K hK => ?_)
  go_simp
  refine (width_ref _ _).mono ?_
  rintro e w3 ⟨rfl, rfl⟩
  refine hK.out _ _ (Up.refl _) ?_
  clear hK K
  iterate 3 (((with_reducible apply pi_take); (focus exact rfl); (focus exact rfl); (focus (intro w' hu; go_simp; try with_reducible rfl; done))); (simp only [Act.put, List.setIfInBounds_toArray, List.set_cons_succ, List.set_cons_zero]))
  refine pi_make rfl rfl (fun K hK => ?_)
  go_simp
  refine (awake_1 _).mono ?_
  rintro e w3 ⟨rfl, hu4⟩
  refine hK.out _ _ (hu4) ?_
  clear hK K
  iterate 2 (((with_reducible apply pi_take); (focus exact rfl); (focus exact rfl); (focus (intro w' hu; go_simp; try with_reducible rfl; done))); (simp only [Act.put, List.setIfInBounds_toArray, List.set_cons_succ, List.set_cons_zero]))
  refine pi_done ?_
  go_wp2
  go_ret
  exact ⟨rfl, hu1.trans ((Up.of_drew hu2).trans hu4)⟩

set_option maxRecDepth 100000 in
set_option maxHeartbeats 400000 in
theorem puts_no (c : Int) (hw : widthI c = 0) (hB : isB c = false) (w : World) : Calls Try.prog 3 #[.int .u32 c] w fun e w' => e = .returned (.bool true) ∧ Up w w' := by
  have hpc := put_no c w hw
  have Hw := Lib.hid hw
  have HC := Lib.hid (fun w' => (Rd.zero w' none).str (l := []) (n := 0) rfl)
  clear hw
  go_enter Try.func3, Try.ntmps3
  go_wp2_with fail
  refine hpc.mono ?_
  rintro e w1 ⟨rfl, rfl⟩
  go_wp2_with fail
  refine wp_region_pi [(0, false), (1, false), (2, false), (3, true), (4, false), (5, false), (6, false), (7, false), (8, false), (9, false), (10, true), (11, false), (12, false), (13, false), (14, false), (15, false), (16, false), (17, false), (18, false), (19, false), (20, false), (21, false), (22, false), (24, false), (23, true), (25, true), (26, false), (27, false), (28, false), (29, true), (30, false), (31, false)] (by kernel_rfl) (by kernel_rfl) (fun _ _ d _ _ h => by cases d <;> exact h) ?_
  iterate 3 (((with_reducible apply pi_take); (focus exact rfl); (focus exact rfl); (focus (intro w' hu; have hcx := HC.out w'; go_simp; try with_reducible rfl; done))); (simp only [Act.put, List.setIfInBounds_toArray, List.set_cons_succ, List.set_cons_zero]))
  refine pi_make rfl rfl (fun K hK => ?_)
  go_simp
  refine (rput_no c _ Hw.out).mono ?_
  rintro e w3 ⟨rfl, rfl⟩
  refine hK.out _ _ (Up.refl _) ?_
  clear hK K
  iterate 6 (((with_reducible apply pi_take); (focus exact rfl); (focus exact rfl); (focus (intro w' hu; have hcx := HC.out w'; go_simp; try with_reducible rfl; done))); (simp only [Act.put, List.setIfInBounds_toArray, List.set_cons_succ, List.set_cons_zero]))
  refine pi_make rfl rfl (fun K hK => ?_)
  go_simp
  refine (is_ref _ _).mono ?_
  rintro e w3 ⟨rfl, rfl⟩
  refine hK.out _ _ (Up.refl _) ?_
  clear hK K
  iterate 13 (((with_reducible apply pi_take); (focus exact rfl); (focus exact rfl); (focus (intro w' hu; go_simp; try with_reducible rfl; done))); (simp only [Act.put, List.setIfInBounds_toArray, List.set_cons_succ, List.set_cons_zero]))
  refine pi_make rfl rfl (fun K hK => ?_)
  go_simp
  refine (width_code _ _).mono ?_
  rintro e w3 ⟨rfl, rfl⟩
  refine hK.out _ _ (Up.refl _) ?_
  clear hK K
  refine pi_make rfl rfl (fun K hK => ?_)
  go_simp
  refine (width_ref _ _).mono ?_
  rintro e w3 ⟨rfl, rfl⟩
  refine hK.out _ _ (Up.refl _) ?_
  clear hK K
  iterate 3 (((with_reducible apply pi_take); (focus exact rfl); (focus exact rfl); (focus (intro w' hu; go_simp; try with_reducible rfl; done))); (simp only [Act.put, List.setIfInBounds_toArray, List.set_cons_succ, List.set_cons_zero]))
  refine pi_make rfl rfl (fun K hK => ?_)
  go_simp
  refine (awake_1 _).mono ?_
  rintro e w3 ⟨rfl, hu4⟩
  refine hK.out _ _ (hu4) ?_
  clear hK K
  iterate 2 (((with_reducible apply pi_take); (focus exact rfl); (focus exact rfl); (focus (intro w' hu; go_simp; try with_reducible rfl; done))); (simp only [Act.put, List.setIfInBounds_toArray, List.set_cons_succ, List.set_cons_zero]))
  refine pi_done ?_
  go_wp2
  go_ret
  exact ⟨rfl, Up.of_drew hu4⟩

theorem puts_walk (w : World) (c : Int) (h0 : 0 ≤ c ∧ c < 4294967296) : Calls Try.prog 3 #[.int .u32 c] w fun e w' => e = .returned (.bool true) ∧ Up w w' := by
  obtain ⟨c, rfl⟩ := Int.eq_ofNat_of_zero_le h0.1
  by_cases hc : U.isCp c
  · exact puts_yes c hc w
  · have hz : U.wid c = 0 := Nat.eq_zero_of_not_pos (fun h => hc (U.wid_pos.1 h))
    refine puts_no c (by rw [widthI_wid, hz]; rfl) ?_ w
    unfold U.isCp at hc
    unfold isB
    simp
    omega

end Go.Proofs.Ytnokgeobaaahiaa
