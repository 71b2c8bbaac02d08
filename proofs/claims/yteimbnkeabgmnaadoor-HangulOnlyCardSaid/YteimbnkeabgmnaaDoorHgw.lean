/- The walks of stage 4 as the rows want them. -/
import Derived.Test.YteimbnkeabgmnaaDoorHgl
import Derived.Test.YteimbnkeabgmnaaDoorLdh
namespace Go.Proofs.YteimbnkeabgmnaaDoor
open Go.RowKit

theorem hangul_splits_walk (w : World) (h : HRows w) (c : Int) (hc : 0 ≤ c ∧ c < 4294967296) : Calls Tryd.prog 3 #[.int .u32 c] w fun e w' => e = .returned (.bool true) ∧ Up w w' := by
  obtain ⟨c, rfl⟩ := Int.eq_ofNat_of_zero_le hc.1
  exact splits_of c w h
theorem hangul_puts_walk (w : World) (h : HRows w) (l : Int) (hl : 0 ≤ l ∧ l < 4294967296) (v : Int) (hv : 0 ≤ v ∧ v < 4294967296) (t : Int) (ht : 0 ≤ t ∧ t < 4294967296) :
    Calls Tryd.prog 4 #[.int .u32 l, .int .u32 v, .int .u32 t] w fun e w' => e = .returned (.bool true) ∧ Up w w' := by
  obtain ⟨l, rfl⟩ := Int.eq_ofNat_of_zero_le hl.1
  obtain ⟨v, rfl⟩ := Int.eq_ofNat_of_zero_le hv.1
  obtain ⟨t, rfl⟩ := Int.eq_ofNat_of_zero_le ht.1
  exact puts_of4 l v t w h
theorem hangul_joins_walk (w : World) (h : HRows w) (a : Int) (ha : 0 ≤ a ∧ a < 4294967296) (b : Int) (hb : 0 ≤ b ∧ b < 4294967296) : Calls Tryd.prog 5 #[.int .u32 a, .int .u32 b] w fun e w' => e = .returned (.bool true) ∧ Up w w' := by
  obtain ⟨a, rfl⟩ := Int.eq_ofNat_of_zero_le ha.1
  obtain ⟨b, rfl⟩ := Int.eq_ofNat_of_zero_le hb.1
  exact joins_of4 a b w h
theorem hangul_back_walk (w : World) (h : HRows w) (c : Int) (hc : 0 ≤ c ∧ c < 4294967296) (x y z : Nat) : Calls Tryd.prog 6 #[.int .u32 c, .agg #[.int .u32 (x : Int), .int .u32 (y : Int), .int .u32 (z : Int)]] w fun e w' => e = .returned (.bool true) ∧ Up w w' := by
  obtain ⟨c, rfl⟩ := Int.eq_ofNat_of_zero_le hc.1
  exact back_of4 c x y z w h
theorem hangul_row_walk (w : World) (h : HRows w) (n : Int) (hn : 0 ≤ n ∧ n < 65536) : Calls Tryd.prog 7 #[.int .u16 n] w fun e w' => e = .returned (.bool true) ∧ Up w w' := by
  obtain ⟨n, rfl⟩ := Int.eq_ofNat_of_zero_le hn.1
  exact row_of4 n (by omega) w h
theorem hangul_only_walk (w : World) (h : HRows w) (a : Int) (ha : 0 ≤ a ∧ a < 4294967296) (b : Int) (hb : 0 ≤ b ∧ b < 4294967296) : Calls Tryd.prog 8 #[.int .u32 a, .int .u32 b] w fun e w' => e = .returned (.bool true) ∧ Up w w' := by
  obtain ⟨a, rfl⟩ := Int.eq_ofNat_of_zero_le ha.1
  obtain ⟨b, rfl⟩ := Int.eq_ofNat_of_zero_le hb.1
  exact only_of a b w h

end Go.Proofs.YteimbnkeabgmnaaDoor
