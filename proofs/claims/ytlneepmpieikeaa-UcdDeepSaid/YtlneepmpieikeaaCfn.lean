/- The program's three function values that compare. -/
import Derived.Test.YtlneepmpieikeaaFnp
namespace Go.Proofs.Ytlneepmpieikeaa
open Go.RowKit

/-- What character answers of a row. -/
def Chr (R : ByteArray) (k x : Nat) : Prop := ∀ w, Calls Try.prog 27 #[.string R, .int .i64 (k : Int)] w fun e w' => e = .returned (.int .u32 (x : Int)) ∧ w = w'
theorem Chr.of {R : ByteArray} {k : Nat} (hk : k ≤ 2) (hs : 5 * k + 5 ≤ R.size) (hh : hexes ((R.data.toList.drop (5 * k)).take 5)) : Chr R k (num ((R.data.toList.drop (5 * k)).take 5)) :=
  fun w => character_prog R k hk hs (Lib.hid hh) w

def inR (x y c : Nat) : Int := if c < x then -1 else if y < c then 1 else 0

set_option maxRecDepth 100000 in
theorem class_step (R : ByteArray) (x y c b : Nat) (hx : Hid (Chr R 0 x)) (hy : Hid (Chr R 1 y)) (w : World) (hc : At w b (.int .u32 (c : Int))) :
    Calls Try.prog 26 #[.string R, .pointer (some ⟨b, 0, none⟩)] w fun e w' => e = .returned (.int .i64 (inR x y c)) ∧ Up w w' := by
  have HC := Lib.hid (fun w' (u : Up w w') => (hc.up u).2)
  clear hc
  unfold inR
  by_cases h1 : c < x
  · rw [if_pos h1]
    go_enter Try.func26, Try.ntmps26
    go_wp2
    refine wp_region_pi [(0, false), (1, false), (2, true), (3, false), (4, false)] (by kernel_rfl) (by kernel_rfl) (fun _ _ d _ _ h => by cases d <;> exact h) ?_
    iterate 2 (((with_reducible apply pi_take); (focus exact rfl); (focus exact rfl); (focus (intro w' hu; have hcx := HC.out w' (Up.of_drew hu); go_simp; try with_reducible rfl; done))); (simp only [Act.put, List.setIfInBounds_toArray, List.set_cons_succ, List.set_cons_zero]))
    refine pi_make rfl rfl (fun K hK => ?_)
    go_simp
    refine (hx.out _).mono ?_
    rintro e w2 ⟨rfl, rfl⟩
    refine hK.out _ _ (Up.refl _) ?_
    clear hK K
    iterate 2 (((with_reducible apply pi_take); (focus exact rfl); (focus exact rfl); (focus (intro w' hu; go_simp; try with_reducible rfl; done))); (simp only [Act.put, List.setIfInBounds_toArray, List.set_cons_succ, List.set_cons_zero]))
    refine pi_done ?_
    go_wp2
    go_ret
    exact ⟨rfl, (Up.refl w).drew⟩
  · rw [if_neg h1]
    obtain ⟨r, hr⟩ : ∃ r : Int, (if y < c then (1 : Int) else 0) = r := ⟨_, rfl⟩
    rw [hr]
    have Hr := Lib.hid hr
    clear hr
    go_enter Try.func26, Try.ntmps26
    go_wp2
    refine wp_region_pi [(0, false), (1, false), (2, true), (3, false), (4, false)] (by kernel_rfl) (by kernel_rfl) (fun _ _ d _ _ h => by cases d <;> exact h) ?_
    iterate 2 (((with_reducible apply pi_take); (focus exact rfl); (focus exact rfl); (focus (intro w' hu; have hcx := HC.out w' (Up.of_drew hu); go_simp; try with_reducible rfl; done))); (simp only [Act.put, List.setIfInBounds_toArray, List.set_cons_succ, List.set_cons_zero]))
    refine pi_make rfl rfl (fun K hK => ?_)
    go_simp
    refine (hx.out _).mono ?_
    rintro e w2 ⟨rfl, rfl⟩
    refine hK.out _ _ (Up.refl _) ?_
    clear hK K
    iterate 2 (((with_reducible apply pi_take); (focus exact rfl); (focus exact rfl); (focus (intro w' hu; go_simp; try with_reducible rfl; done))); (simp only [Act.put, List.setIfInBounds_toArray, List.set_cons_succ, List.set_cons_zero]))
    refine pi_done ?_
    go_wp2
    refine wp_region_pi [(0, false), (1, false), (2, true), (3, false), (4, false)] (by kernel_rfl) (by kernel_rfl) (fun _ _ d _ _ h => by cases d <;> exact h) ?_
    iterate 2 (((with_reducible apply pi_take); (focus exact rfl); (focus exact rfl); (focus (intro w' hu; have hcx := HC.out w' (Up.of_drew (Up.of_drew hu)); go_simp; try with_reducible rfl; done))); (simp only [Act.put, List.setIfInBounds_toArray, List.set_cons_succ, List.set_cons_zero]))
    refine pi_make rfl rfl (fun K hK => ?_)
    go_simp
    refine (hy.out _).mono ?_
    rintro e w2 ⟨rfl, rfl⟩
    refine hK.out _ _ (Up.refl _) ?_
    clear hK K
    iterate 2 (((with_reducible apply pi_take); (focus exact rfl); (focus exact rfl); (focus (intro w' hu; go_simp; try with_reducible rfl; done))); (simp only [Act.put, List.setIfInBounds_toArray, List.set_cons_succ, List.set_cons_zero]))
    refine pi_done ?_
    by_cases h2 : y < c
    · go_wp2
      go_ret
      exact ⟨ret_val (show Value.int .i64 1 = .int .i64 r by rw [← Hr.out, if_pos h2]), (Up.refl w).drew.drew⟩
    · go_wp2
      go_ret
      exact ⟨ret_val (show Value.int .i64 0 = .int .i64 r by rw [← Hr.out, if_neg h2]), (Up.refl w).drew.drew⟩

set_option maxRecDepth 100000 in
theorem decomp_step (R : ByteArray) (x c b : Nat) (hx : Hid (Chr R 0 x)) (w : World) (hc : At w b (.int .u32 (c : Int))) :
    Calls Try.prog 42 #[.string R, .pointer (some ⟨b, 0, none⟩)] w fun e w' => e = .returned (.int .i64 (cmp3 c x)) ∧ Up w w' := by
  have HC := Lib.hid (fun w' (u : Up w w') => (hc.up u).2)
  have hcm := Lib.hid (fun w => compare_prog c x w)
  clear hc
  generalize cmp3 c x = r at *
  go_enter Try.func42, Try.ntmps42
  go_wp2
  refine wp_region_pi [(0, false), (1, false), (2, true), (3, true), (4, false)] (by kernel_rfl) (by kernel_rfl) (fun _ _ d _ _ h => by cases d <;> exact h) ?_
  iterate 2 (((with_reducible apply pi_take); (focus exact rfl); (focus exact rfl); (focus (intro w' hu; have hcx := HC.out w' (Up.of_drew hu); go_simp; try with_reducible rfl; done))); (simp only [Act.put, List.setIfInBounds_toArray, List.set_cons_succ, List.set_cons_zero]))
  refine pi_make rfl rfl (fun K hK => ?_)
  go_simp
  refine (hx.out _).mono ?_
  rintro e w2 ⟨rfl, rfl⟩
  refine hK.out _ _ (Up.refl _) ?_
  clear hK K
  refine pi_make rfl rfl (fun K hK => ?_)
  go_simp
  refine (hcm.out _).mono ?_
  rintro e w2 ⟨rfl, rfl⟩
  refine hK.out _ _ (Up.refl _) ?_
  clear hK K
  iterate 1 (((with_reducible apply pi_take); (focus exact rfl); (focus exact rfl); (focus (intro w' hu; go_simp; try with_reducible rfl; done))); (simp only [Act.put, List.setIfInBounds_toArray, List.set_cons_succ, List.set_cons_zero]))
  refine pi_done ?_
  go_wp2
  go_ret
  exact ⟨rfl, (Up.refl w).drew⟩

/-- Two numbers compared, and two more. -/
def cmp2 (a b x y : Nat) : Int := if cmp3 a x = 0 then cmp3 b y else cmp3 a x

set_option maxRecDepth 100000 in
theorem pair_step (R : ByteArray) (x y a b ba bb : Nat) (hx : Hid (Chr R 0 x)) (hy : Hid (Chr R 1 y)) (w : World) (h1 : At w ba (.int .u32 (a : Int))) (h2 : At w bb (.int .u32 (b : Int))) :
    Calls Try.prog 33 #[.string R, .pointer (some ⟨ba, 0, none⟩), .pointer (some ⟨bb, 0, none⟩)] w fun e w' => e = .returned (.int .i64 (cmp2 a b x y)) ∧ Up w w' := by
  have HC1 := Lib.hid (fun w' (u : Up w w') => (h1.up u).2)
  have HC2 := Lib.hid (fun w' (u : Up w w') => (h2.up u).2)
  have hc1 := Lib.hid (fun w => compare_prog a x w)
  have hc2 := Lib.hid (fun w => compare_prog b y w)
  clear h1 h2
  unfold cmp2
  generalize cmp3 a x = p at *
  generalize cmp3 b y = q at *
  have hor := fun b w h0 h1 => or_prog p q b w h0 h1
  generalize (if p = 0 then q else p) = r at *
  have Hor := Lib.hid hor
  clear hor
  go_enter Try.func33, Try.ntmps33
  go_wp2
  refine wp_region_pi [(0, false), (1, false), (4, false), (5, false), (2, true), (3, true), (6, true), (7, true), (8, true), (9, true), (10, false)] (by kernel_rfl) (by kernel_rfl) (fun _ _ d _ _ h => by cases d <;> exact h) ?_
  iterate 4 (((with_reducible apply pi_take); (focus exact rfl); (focus exact rfl); (focus (intro w' hu; have hcx := HC1.out w' (Up.of_drew hu); have hcy := HC2.out w' (Up.of_drew hu); go_simp; try with_reducible rfl; done))); (simp only [Act.put, List.setIfInBounds_toArray, List.set_cons_succ, List.set_cons_zero]))
  refine pi_make rfl rfl (fun K hK => ?_)
  go_simp
  refine (hx.out _).mono ?_
  rintro e w2 ⟨rfl, rfl⟩
  refine hK.out _ _ (Up.refl _) ?_
  clear hK K
  refine pi_make rfl rfl (fun K hK => ?_)
  go_simp
  refine (hc1.out _).mono ?_
  rintro e w2 ⟨rfl, rfl⟩
  refine hK.out _ _ (Up.refl _) ?_
  clear hK K
  refine pi_make rfl rfl (fun K hK => ?_)
  go_simp
  refine (hy.out _).mono ?_
  rintro e w2 ⟨rfl, rfl⟩
  refine hK.out _ _ (Up.refl _) ?_
  clear hK K
  refine pi_make rfl rfl (fun K hK => ?_)
  go_simp
  refine (hc2.out _).mono ?_
  rintro e w2 ⟨rfl, rfl⟩
  refine hK.out _ _ (Up.refl _) ?_
  clear hK K
  refine pi_make rfl rfl (fun K hK => ?_)
  go_simp
  refine hK.out _ _ ((Up.refl w.drew).alloc _) ?_
  clear hK K
  refine pi_make rfl rfl (fun K hK => ?_)
  go_simp
  refine (Hor.out _ _ (by show (w.alloc _).cell? _ = _; rw [World.cell?_alloc_at _ _ _ _ rfl]; rfl) (by show (w.alloc _).cell? _ = _; rw [World.cell?_alloc_at _ _ _ _ rfl]; rfl)).mono ?_
  rintro e w2 ⟨rfl, rfl⟩
  refine hK.out _ _ (Up.refl _) ?_
  clear hK K
  iterate 1 (((with_reducible apply pi_take); (focus exact rfl); (focus exact rfl); (focus (intro w' hu; go_simp; try with_reducible rfl; done))); (simp only [Act.put, List.setIfInBounds_toArray, List.set_cons_succ, List.set_cons_zero]))
  refine pi_done ?_
  go_wp2
  go_ret
  exact ⟨rfl, (Up.refl w).drew.alloc _⟩

end Go.Proofs.Ytlneepmpieikeaa
