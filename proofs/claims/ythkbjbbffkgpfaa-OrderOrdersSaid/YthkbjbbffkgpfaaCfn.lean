/- The program's three function values that compare. -/
import Derived.Test.YthkbjbbffkgpfaaFnp
namespace Go.Proofs.Ythkbjbbffkgpfaa
open Go.RowKit

/-- What character answers of a row. -/
def Chr (R : ByteArray) (k x : Nat) : Prop := ∀ w, Calls Try.prog 28 #[.string R, .int .i64 (k : Int)] w fun e w' => e = .returned (.int .u32 (x : Int)) ∧ w = w'
theorem Chr.of {R : ByteArray} {k : Nat} (hk : k ≤ 2) (hs : 5 * k + 5 ≤ R.size) (hh : hexes ((R.data.toList.drop (5 * k)).take 5)) : Chr R k (num ((R.data.toList.drop (5 * k)).take 5)) :=
  fun w => character_prog R k hk hs (Lib.hid hh) w

def inR (x y c : Nat) : Int := if c < x then -1 else if y < c then 1 else 0

set_option maxRecDepth 100000 in
theorem class_step (R : ByteArray) (x y c b : Nat) (hx : Hid (Chr R 0 x)) (hy : Hid (Chr R 1 y)) (w : World) (hc : At w b (.int .u32 (c : Int))) :
    Calls Try.prog 27 #[.string R, .pointer (some ⟨b, 0, none⟩)] w fun e w' => e = .returned (.int .i64 (inR x y c)) ∧ Up w w' := by
  have HC := Lib.hid (fun w' (u : Up w w') => (hc.up u).2)
  clear hc
  unfold inR
  by_cases h1 : c < x
  · rw [if_pos h1]
    go_enter Try.func27, Try.ntmps27
    go_wp2
    refine wp_region_pi [(0, false), (1, false), (2, true), (3, false), (4, false)] (by kernel_rfl) (by kernel_rfl) (fun _ _ d _ _ h => by cases d <;> exact h) ?_
    iterate 2 (((with_reducible apply pi_take); (focus exact rfl); (focus exact rfl); (focus (intro w' hu; have hcx := HC.out w' (Up.of_drew hu); go_simp; try with_reducible rfl; done))); (simp only [Act.put, List.setIfInBounds_toArray, List.set_cons_succ, List.set_cons_zero]))
    refine pi_make rfl rfl (fun K hK => ?_)
    go_simp
    refine (hx.out _).mono ?_
    rintro e w2 ⟨rfl, rfl⟩
    refine hK.out _ _ (Up.refl _) ?_
    clear hK K
    iterate 2 (((with_reducible apply pi_take); (focus exact rfl); (focus exact rfl); (focus (intro w' hu; go_simp; try with_reducible rfl; done))); (simp only [Act.put, List.setIfInBounds_toArray, List.set_cons_succ, List.set_cons_zero]))
    refine pi_done ?_
    go_wp2
    go_ret
    exact ⟨rfl, (Up.refl w).drew⟩
  · rw [if_neg h1]
    obtain ⟨r, hr⟩ : ∃ r : Int, (if y < c then (1 : Int) else 0) = r := ⟨_, rfl⟩
    rw [hr]
    have Hr := Lib.hid hr
    clear hr
    go_enter Try.func27, Try.ntmps27
    go_wp2
    refine wp_region_pi [(0, false), (1, false), (2, true), (3, false), (4, false)] (by kernel_rfl) (by kernel_rfl) (fun _ _ d _ _ h => by cases d <;> exact h) ?_
    iterate 2 (((with_reducible apply pi_take); (focus exact rfl); (focus exact rfl); (focus (intro w' hu; have hcx := HC.out w' (Up.of_drew hu); go_simp; try with_reducible rfl; done))); (simp only [Act.put, List.setIfInBounds_toArray, List.set_cons_succ, List.set_cons_zero]))
    refine pi_make rfl rfl (fun K hK => ?_)
    go_simp
    refine (hx.out _).mono ?_
    rintro e w2 ⟨rfl, rfl⟩
    refine hK.out _ _ (Up.refl _) ?_
    clear hK K
    iterate 2 (((with_reducible apply pi_take); (focus exact rfl); (focus exact rfl); (focus (intro w' hu; go_simp; try with_reducible rfl; done))); (simp only [Act.put, List.setIfInBounds_toArray, List.set_cons_succ, List.set_cons_zero]))
    refine pi_done ?_
    go_wp2
    refine wp_region_pi [(0, false), (1, false), (2, true), (3, false), (4, false)] (by kernel_rfl) (by kernel_rfl) (fun _ _ d _ _ h => by cases d <;> exact h) ?_
    iterate 2 (((with_reducible apply pi_take); (focus exact rfl); (focus exact rfl); (focus (intro w' hu; have hcx := HC.out w' (Up.of_drew (Up.of_drew hu)); go_simp; try with_reducible rfl; done))); (simp only [Act.put, List.setIfInBounds_toArray, List.set_cons_succ, List.set_cons_zero]))
    refine pi_make rfl rfl (fun K hK => ?_)
    go_simp
    refine (hy.out _).mono ?_
    rintro e w2 ⟨rfl, rfl⟩
    refine hK.out _ _ (Up.refl _) ?_
    clear hK K
    iterate 2 (((with_reducible apply pi_take); (focus exact rfl); (focus exact rfl); (focus (intro w' hu; go_simp; try with_reducible rfl; done))); (simp only [Act.put, List.setIfInBounds_toArray, List.set_cons_succ, List.set_cons_zero]))
    refine pi_done ?_
    by_cases h2 : y < c
    · go_wp2
      go_ret
      exact ⟨ret_val (show Value.int .i64 1 = .int .i64 r by rw [← Hr.out, if_pos h2]), (Up.refl w).drew.drew⟩
    · go_wp2
      go_ret
      exact ⟨ret_val (show Value.int .i64 0 = .int .i64 r by rw [← Hr.out, if_neg h2]), (Up.refl w).drew.drew⟩

/-- Two numbers compared, and two more. -/
def cmp2 (a b x y : Nat) : Int := if cmp3 a x = 0 then cmp3 b y else cmp3 a x

end Go.Proofs.Ythkbjbbffkgpfaa
