/- The statements of stage 9: the document's; the cuts. -/
import Derived.Test.YthgjjlllifcegaaSuc
namespace Go.Proofs.Ythgjjlllifcegaa
open Go.RowKit

set_option maxRecDepth 100000 in
theorem sum_ofs_walk {rep : Nat → Nat} (H : SumOk rep) (w : World) (A : Option Addr) (n d : Nat) (l : List UInt8) (hl : l.length = n) (hr : Rd w A d (bs l)) (hd : d * 1 ≤ 140737488351232) :
    Calls Try.prog 3 #[.slice A n d] w fun e w' => e = .returned (.bool true) ∧ Up w w' := by
  have c4 := Lib.hid (fun w => awake_9 H w)
  have hf := hr.fit
  rw [bs_len, hl] at hf
  obtain ⟨B, d1, w1, hap, hrd1, hu1, _⟩ := elB.copy (m := n) w 22 hr (by rw [bs_len]; exact hl.symm) (one_bs l) (by omega) (by omega)
  have HA := Lib.hid hap
  have c1 := Lib.hid (H.of B n d1 l w1 hrd1 hl.symm)
  have c2 := Lib.hid (fun w' (u : Up w w') => sum_of_ref A n d l w' (hr.up u) hl.symm)
  have R1 := Lib.hid hrd1
  have R0 := Lib.hid hr
  have Hn := Lib.hid hl.symm
  clear H hap hrd1 hr hl hf
  generalize crcOf l = x at *
  go_enter Try.func3, Try.ntmps3
  go_wp2_with (at_builtin; refine wpList_app rfl _ _ _ rfl rfl rfl HA.out ?_)
  refine c1.out.mono ?_
  rintro e w2 ⟨rfl, hu2⟩
  go_wp2_with fail
  refine (c2.out w2 (hu1.trans hu2)).mono ?_
  rintro e w3 ⟨rfl, hu3⟩
  have s3 := (R1.out.up (hu2.trans hu3)).str (n := n) Hn.out
  have s4 := (R0.out.up ((hu1.trans hu2).trans hu3)).str (n := n) Hn.out
  clear c1 c2
  go_wp2_with fail
  refine (c4.out _).mono ?_
  rintro e w4 ⟨rfl, hu4⟩
  go_wp2_with fail
  go_ret
  exact ⟨rfl, ((hu1.trans hu2).trans hu3).trans hu4⟩

set_option maxRecDepth 100000 in
theorem sum_cuts_walk {rep : Nat → Nat} (H : SumOk rep) (w : World) (A : Option Addr) (n d : Nat) (l : List UInt8) (hl : l.length = n) (hr : Rd w A d (bs l)) (hd : d * 1 ≤ 140737488351232) (a : Int) (ha : 0 ≤ a ∧ a < 65536) :
    Calls Try.prog 5 #[.slice A n d, .int .u16 a] w fun e w' => e = .returned (.bool true) ∧ Up w w' := by
  have c4 := Lib.hid (fun w => awake_9 H w)
  have hf := hr.fit
  rw [bs_len, hl] at hf
  go_enter Try.func5, Try.ntmps5
  have hk0 : (0 : Int) ≤ a % ((n : Int) + 1) := Int.emod_nonneg _ (by omega)
  have hk1 : a % ((n : Int) + 1) < (n : Int) + 1 := Int.emod_lt_of_pos _ (by omega)
  have Hc := Lib.hid H
  clear H
  go_wp2_with fail
  generalize a % ((n : Int) + 1) = z at *
  obtain ⟨k, rfl⟩ := Int.eq_ofNat_of_zero_le hk0
  have hkn : k ≤ n := by omega
  obtain ⟨A1, hsl1, hr1⟩ := hr.head n k hl.symm hkn
  obtain ⟨A2, hsl2, hr2⟩ := hr.tail n k hl.symm hkn
  have hl1 : k = (l.take k).length := by rw [List.length_take]; omega
  have hl2 : n - k = (l.drop k).length := by rw [List.length_drop]; omega
  have hx2 : crcOn (crcOn 0 (l.take k)) (l.drop k) = crcOf l := by rw [← crcOn_append, List.take_append_drop]; rfl
  have hx1 : crcOn 0 (l.take k) = crcOf (l.take k) := rfl
  rw [hx1] at hx2
  have l1 := crcOf_lt (l.take k)
  have l2 := crcOf_lt l
  have s0 := Lib.hid Hc.out.start
  have ad1 := fun w' (u : Up w w') => Hc.out.add A1 k d 0 (l.take k) w' (by decide) (hr1.up u) hl1
  rw [hx1] at ad1
  have ad2 := fun w' (u : Up w w') => Hc.out.add A2 (n - k) (d - k) (crcOf (l.take k)) (l.drop k) w' l1 (hr2.up u) hl2
  rw [hx2] at ad2
  have AD1 := Lib.hid ad1
  have AD2 := Lib.hid ad2
  have va1 := Lib.hid (fun w' => Hc.out.value (crcOf (l.take k)) w' l1)
  have va2 := Lib.hid (fun w' => Hc.out.value (crcOf l) w' l2)
  have fr1 := Lib.hid (fun w' => Hc.out.from_ (crcOf (l.take k)) w' l1)
  have of2 := Lib.hid (fun w' (u : Up w w') => Hc.out.of A n d l w' (hr.up u) hl.symm)
  have of1 := Lib.hid (fun w' (u : Up w w') => Hc.out.of A1 k d (l.take k) w' (hr1.up u) hl1)
  clear Hc ad1 ad2 hr hr1 hr2 hl hl1 hl2 hx2 hx1 l1 l2 hk0 hk1
  generalize crcOf (l.take k) = x1 at *
  generalize crcOf l = x2 at *
  generalize rep 0 = p0 at *
  generalize rep x1 = p1 at *
  generalize rep x2 = p2 at *
  refine wp_region_pi [(1, false), (2, false), (3, false), (0, true), (4, true), (5, false)] (by kernel_rfl) (by kernel_rfl) (fun _ _ d _ _ h => by cases d <;> exact h) ?_
  iterate 3 ((with_reducible apply pi_take); (focus exact rfl); (focus exact rfl); (focus (intro w' hu; go_simp; try with_reducible rfl; done)); dsimp only [Act.put]; simp only [List.setIfInBounds_toArray, List.set_cons_succ, List.set_cons_zero])
  refine pi_make rfl rfl (fun K hK => ?_)
  go_simp
  refine (s0.out _).mono ?_
  rintro e w1 ⟨rfl, hu1⟩
  refine hK.out _ _ hu1 ?_
  clear hK K s0
  refine pi_make rfl rfl (fun K hK => ?_)
  go_simp
  refine (AD1.out _ (Up.of_drew hu1)).mono ?_
  rintro e w2 ⟨rfl, hu2⟩
  refine hK.out _ _ hu2 ?_
  have hu02 : Up w w2 := (Up.of_drew hu1).trans hu2
  clear hK K AD1 hu1 hu2
  iterate 1 ((with_reducible apply pi_take); (focus exact rfl); (focus exact rfl); (focus (intro w' hu; go_simp; try with_reducible rfl; done)); dsimp only [Act.put]; simp only [List.setIfInBounds_toArray, List.set_cons_succ, List.set_cons_zero])
  refine pi_done ?_
  go_wp2_with fail
  refine wp_region_pi [(0, false), (3, false), (4, false), (5, false), (1, true), (2, true), (6, true), (7, false)] (by kernel_rfl) (by kernel_rfl) (fun _ _ d _ _ h => by cases d <;> exact h) ?_
  iterate 4 ((with_reducible apply pi_take); (focus exact rfl); (focus exact rfl); (focus (intro w' hu; go_simp; try with_reducible rfl; done)); dsimp only [Act.put]; simp only [List.setIfInBounds_toArray, List.set_cons_succ, List.set_cons_zero])
  refine pi_make rfl rfl (fun K hK => ?_)
  go_simp
  refine (va1.out _).mono ?_
  rintro e w3 ⟨rfl, hx⟩
  refine hK.out _ _ hx ?_
  have hu03 : Up w w3 := (hu02.trans (Up.of_drew hx))
  clear hK K hx
  refine pi_make rfl rfl (fun K hK => ?_)
  go_simp
  refine (fr1.out _).mono ?_
  rintro e w4 ⟨rfl, hx⟩
  refine hK.out _ _ hx ?_
  have hu04 : Up w w4 := hu03.trans hx
  clear hK K hx
  refine pi_make rfl rfl (fun K hK => ?_)
  go_simp
  refine (AD2.out _ hu04).mono ?_
  rintro e w5 ⟨rfl, hx⟩
  refine hK.out _ _ hx ?_
  have hu05 : Up w w5 := hu04.trans hx
  clear hK K hx
  iterate 1 ((with_reducible apply pi_take); (focus exact rfl); (focus exact rfl); (focus (intro w' hu; go_simp; try with_reducible rfl; done)); dsimp only [Act.put]; simp only [List.setIfInBounds_toArray, List.set_cons_succ, List.set_cons_zero])
  refine pi_done ?_
  go_wp2_with fail
  refine (AD2.out _ hu05).mono ?_
  rintro e w6 ⟨rfl, hx⟩
  have hu06 := hu05.trans hx
  clear hx
  go_wp2_with fail
  refine (va2.out _).mono ?_
  rintro e w7 ⟨rfl, hx⟩
  have hu07 := hu06.trans hx
  clear hx
  go_wp2_with fail
  refine (of2.out _ hu07).mono ?_
  rintro e w8 ⟨rfl, hx⟩
  have hu08 := hu07.trans hx
  clear hx
  go_wp2_with fail
  refine (va2.out _).mono ?_
  rintro e w9 ⟨rfl, hx⟩
  have hu09 := hu08.trans hx
  clear hx
  go_wp2_with fail
  refine (of2.out _ hu09).mono ?_
  rintro e wa ⟨rfl, hx⟩
  have hu10 := hu09.trans hx
  clear hx
  go_wp2_with fail
  refine (of1.out _ hu10).mono ?_
  rintro e wb ⟨rfl, hx⟩
  have hu11 := hu10.trans hx
  clear hx
  go_wp2_with fail
  refine (va1.out _).mono ?_
  rintro e wc ⟨rfl, hx⟩
  have hu12 := hu11.trans hx
  clear hx
  go_wp2_with fail
  refine (c4.out _).mono ?_
  rintro e wd ⟨rfl, hx⟩
  have hu13 := hu12.trans hx
  clear hx
  go_wp2_with fail
  go_ret
  exact ⟨rfl, hu13⟩

end Go.Proofs.Ythgjjlllifcegaa
