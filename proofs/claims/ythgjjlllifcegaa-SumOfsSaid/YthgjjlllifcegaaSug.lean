/- The statements of stage 9: pieces. -/
import Derived.Test.YthgjjlllifcegaaSuc
import Derived.Test.YthgjjlllifcegaaRws
namespace Go.Proofs.Ythgjjlllifcegaa
open Go.RowKit

set_option maxRecDepth 100000 in
theorem sum_goes_walk {rep : Nat → Nat} (H : SumOk rep) (W : World) (v : Int) (hv : 0 ≤ v ∧ v < 4294967296) (O : Option Addr) (len cap : Nat) (LL : List (List UInt8)) (hlen : LL.length = len) (hlc : len ≤ cap) (hcm : cap ≤ 9223372036854775807) (hin : RowsIn W O LL) :
    Calls Try.prog 4 #[.int .u32 v, .slice O len cap] W fun e w' => e = .returned (.bool true) ∧ Up W w' := by
  have c4 := Lib.hid (fun w => awake_9 H w)
  obtain ⟨v, rfl⟩ := Int.eq_ofNat_of_zero_le hv.1
  have hv : v < 4294967296 := by omega
  have s0 := Lib.hid H.start
  have fr := Lib.hid H.from_
  have va := Lib.hid H.value
  have ad := Lib.hid H.add
  clear H
  go_enter Try.func4, Try.ntmps4
  go_wp2_with fail
  refine (fr.out v W hv).mono ?_
  rintro e w1 ⟨rfl, hu1⟩
  go_wp2_with fail
  refine (va.out v w1 hv).mono ?_
  rintro e w2 ⟨rfl, hx⟩
  have hu2 := hu1.trans hx
  clear hx hu1
  go_wp2_with fail
  refine (s0.out w2).mono ?_
  rintro e w3 ⟨rfl, hx⟩
  have hu3 := hu2.trans hx
  clear hx hu2
  go_wp2_with fail
  refine (va.out 0 w3 (by decide)).mono ?_
  rintro e w4 ⟨rfl, hx⟩
  have hu4 := hu3.trans hx
  clear hx hu3
  go_wp2_with fail
  go_loopw [5, 6, 7] (fun s x i wr => ∃ k v : Nat, k ≤ len ∧ i = .int .i64 (k : Int) ∧ v < 4294967296 ∧ s = .int .u32 (rep v : Int) ∧ x = .int .u32 (v : Int) ∧ Up W wr) (fun _ _ i _ => len - (intOf i).toNat)
  case atStart => exact ⟨0, v, Nat.zero_le _, rfl, hv, rfl, rfl, hu4⟩
  case round =>
    obtain ⟨k, x, hk, rfl, hx, rfl, rfl, hu⟩ := hrel
    clear hu4
    by_cases hlt : k < len
    · have hkl : k < LL.length := by omega
      obtain ⟨a, A, c, rfl, hab, hcell, hrd⟩ := hin k hkl
      have hcv := Lib.hid (fun w' (u : Up W w') => show w'.cell? (a.add k) = some (.slice A LL[k].length c) from (Below.cell u (p := a.add k) (by rw [addr_block]; exact hab)).trans hcell)
      have Ad := Lib.hid (fun w' (u : Up W w') => ad.out A LL[k].length c x LL[k] w' hx (hrd.up u) rfl)
      have On := Lib.hid (fun w' (u : Up W w') => on_ref A LL[k].length c x hx LL[k] w' (hrd.up u) rfl)
      have hx2 := crcOn_lt hx LL[k]
      have Va := Lib.hid (fun w' => va.out (crcOn x LL[k]) w' hx2)
      have hc0 := hcv.out wr hu
      clear hcell hrd
      generalize LL[k].length = n at *
      generalize crcOn x LL[k] = y at *
      go_wp2_with fail
      refine wp_region_pi [(0, false), (1, false), (2, false), (3, false), (4, false), (6, false), (7, false), (8, false), (9, false), (10, false), (5, true), (11, true), (12, false), (13, false)] (by kernel_rfl) (by kernel_rfl) (fun _ _ d _ _ h => by cases d <;> exact h) ?_
      ((with_reducible apply pi_take); (focus exact rfl); (focus exact rfl); (focus (intro w' u1; have hcx := hcv.out w' (hu.trans (Up.of_drew u1)); go_simp; try with_reducible rfl; done)); dsimp only [Act.put]; simp only [List.setIfInBounds_toArray, List.set_cons_succ, List.set_cons_zero])
      ((with_reducible apply pi_take); (focus exact rfl); (focus exact rfl); (focus (intro w' u1; have hcx := hcv.out w' (hu.trans (Up.of_drew u1)); go_simp; try with_reducible rfl; done)); dsimp only [Act.put]; simp only [List.setIfInBounds_toArray, List.set_cons_succ, List.set_cons_zero])
      ((with_reducible apply pi_take); (focus exact rfl); (focus exact rfl); (focus (intro w' u1; have hcx := hcv.out w' (hu.trans (Up.of_drew u1)); go_simp; try with_reducible rfl; done)); dsimp only [Act.put]; simp only [List.setIfInBounds_toArray, List.set_cons_succ, List.set_cons_zero])
      ((with_reducible apply pi_take); (focus exact rfl); (focus exact rfl); (focus (intro w' u1; have hcx := hcv.out w' (hu.trans (Up.of_drew u1)); go_simp; try with_reducible rfl; done)); dsimp only [Act.put]; simp only [List.setIfInBounds_toArray, List.set_cons_succ, List.set_cons_zero])
      ((with_reducible apply pi_take); (focus exact rfl); (focus exact rfl); (focus (intro w' u1; have hcx := hcv.out w' (hu.trans (Up.of_drew u1)); go_simp; try with_reducible rfl; done)); dsimp only [Act.put]; simp only [List.setIfInBounds_toArray, List.set_cons_succ, List.set_cons_zero])
      ((with_reducible apply pi_take); (focus exact rfl); (focus exact rfl); (focus (intro w' u1; have hcx := hcv.out w' (hu.trans (Up.of_drew u1)); go_simp; try with_reducible rfl; done)); dsimp only [Act.put]; simp only [List.setIfInBounds_toArray, List.set_cons_succ, List.set_cons_zero])
      ((with_reducible apply pi_take); (focus exact rfl); (focus exact rfl); (focus (intro w' u1; have hcx := hcv.out w' (hu.trans (Up.of_drew u1)); go_simp; try with_reducible rfl; done)); dsimp only [Act.put]; simp only [List.setIfInBounds_toArray, List.set_cons_succ, List.set_cons_zero])
      ((with_reducible apply pi_take); (focus exact rfl); (focus exact rfl); (focus (intro w' u1; have hcx := hcv.out w' (hu.trans (Up.of_drew u1)); go_simp; try with_reducible rfl; done)); dsimp only [Act.put]; simp only [List.setIfInBounds_toArray, List.set_cons_succ, List.set_cons_zero])
      ((with_reducible apply pi_take); (focus exact rfl); (focus exact rfl); (focus (intro w' u1; have hcx := hcv.out w' (hu.trans (Up.of_drew u1)); go_simp; try with_reducible rfl; done)); dsimp only [Act.put]; simp only [List.setIfInBounds_toArray, List.set_cons_succ, List.set_cons_zero])
      ((with_reducible apply pi_take); (focus exact rfl); (focus exact rfl); (focus (intro w' u1; have hcx := hcv.out w' (hu.trans (Up.of_drew u1)); go_simp; try with_reducible rfl; done)); dsimp only [Act.put]; simp only [List.setIfInBounds_toArray, List.set_cons_succ, List.set_cons_zero])
      refine pi_make rfl rfl (fun K hK => ?_)
      go_simp
      refine (Ad.out _ (hu.trans (Up.of_drew (Up.refl _)))).mono ?_
      rintro e w5 ⟨rfl, hy⟩
      refine hK.out _ _ hy ?_
      have hu5 := hu.trans (Up.of_drew hy)
      clear hK K hy
      refine pi_make rfl rfl (fun K hK => ?_)
      go_simp
      refine (On.out _ hu5).mono ?_
      rintro e w6 ⟨rfl, hy⟩
      refine hK.out _ _ hy ?_
      have hu6 := hu5.trans hy
      clear hK K hy
      ((with_reducible apply pi_take); (focus exact rfl); (focus exact rfl); (focus (intro w' u1; go_simp; try with_reducible rfl; done)); dsimp only [Act.put]; simp only [List.setIfInBounds_toArray, List.set_cons_succ, List.set_cons_zero])
      ((with_reducible apply pi_take); (focus exact rfl); (focus exact rfl); (focus (intro w' u1; go_simp; try with_reducible rfl; done)); dsimp only [Act.put]; simp only [List.setIfInBounds_toArray, List.set_cons_succ, List.set_cons_zero])
      refine pi_done ?_
      go_wp2_with fail
      refine (Va.out _).mono ?_
      rintro e w7 ⟨rfl, hy⟩
      go_wp2_with fail
      go_roundw
      case rel => exact ⟨k + 1, y, by omega, by go_num, hx2, rfl, rfl, hu6.trans hy⟩
      case measure => simp [intOf]; omega
    · have hk2 : k = len := by omega
      go_wp2_with fail
      refine (c4.out _).mono ?_
      rintro e w5 ⟨rfl, hy⟩
      go_wp2_with fail
      go_ret
      exact ⟨rfl, hu.trans hy⟩

end Go.Proofs.Ythgjjlllifcegaa
