/- The walks of stage 3 as the rows want them. -/
import Derived.Test.YtlneepmpieikeaaUla
import Derived.Test.YtlneepmpieikeaaUlc
import Derived.Test.YtlneepmpieikeaaUdp
namespace Go.Proofs.Ytlneepmpieikeaa
open Go.RowKit

theorem ucd_classes_walk (H : UcdOk) (w : World) (c : Int) (hc : 0 ≤ c ∧ c < 4294967296) : Calls Try.prog 3 #[.int .u32 c] w fun e w' => e = .returned (.bool true) ∧ Up w w' := by
  obtain ⟨c, rfl⟩ := Int.eq_ofNat_of_zero_le hc.1
  exact classes_of H c w
theorem ucd_decomps_walk (H : UcdOk) (w : World) (c : Int) (hc : 0 ≤ c ∧ c < 4294967296) : Calls Try.prog 4 #[.int .u32 c] w fun e w' => e = .returned (.bool true) ∧ Up w w' := by
  obtain ⟨c, rfl⟩ := Int.eq_ofNat_of_zero_le hc.1
  exact decomps_of H c w
theorem ucd_pairs_walk (H : UcdOk) (w : World) (a : Int) (ha : 0 ≤ a ∧ a < 4294967296) (b : Int) (hb : 0 ≤ b ∧ b < 4294967296) : Calls Try.prog 5 #[.int .u32 a, .int .u32 b] w fun e w' => e = .returned (.bool true) ∧ Up w w' := by
  obtain ⟨a, rfl⟩ := Int.eq_ofNat_of_zero_le ha.1
  obtain ⟨b, rfl⟩ := Int.eq_ofNat_of_zero_le hb.1
  exact pairs_of H a b w
theorem ucd_quicks_walk (H : UcdOk) (w : World) (c : Int) (hc : 0 ≤ c ∧ c < 4294967296) : Calls Try.prog 6 #[.int .u32 c] w fun e w' => e = .returned (.bool true) ∧ Up w w' := by
  obtain ⟨c, rfl⟩ := Int.eq_ofNat_of_zero_le hc.1
  exact quicks_of H c w
theorem ucd_back_walk (H : UcdOk) (w : World) (a : Int) (ha : 0 ≤ a ∧ a < 4294967296) (b : Int) (hb : 0 ≤ b ∧ b < 4294967296) (c : Int) (hc : 0 ≤ c ∧ c < 4294967296) : Calls Try.prog 7 #[.int .u32 a, .int .u32 b, .int .u32 c] w fun e w' => e = .returned (.bool true) ∧ Up w w' := by
  obtain ⟨a, rfl⟩ := Int.eq_ofNat_of_zero_le ha.1
  obtain ⟨b, rfl⟩ := Int.eq_ofNat_of_zero_le hb.1
  obtain ⟨c, rfl⟩ := Int.eq_ofNat_of_zero_le hc.1
  exact back_of H a b c w
theorem ucd_firsts_walk (H : UcdOk) (w : World) (c : Int) (hc : 0 ≤ c ∧ c < 4294967296) (a : Int) (ha : 0 ≤ a ∧ a < 4294967296) : Calls Try.prog 8 #[.int .u32 c, .int .u32 a] w fun e w' => e = .returned (.bool true) ∧ Up w w' := by
  obtain ⟨c, rfl⟩ := Int.eq_ofNat_of_zero_le hc.1
  obtain ⟨a, rfl⟩ := Int.eq_ofNat_of_zero_le ha.1
  exact firsts_of H c a w
theorem ucd_deep_walk (H : UcdOk) (w : World) (c : Int) (hc : 0 ≤ c ∧ c < 4294967296) : Calls Try.prog 9 #[.int .u32 c] w fun e w' => e = .returned (.bool true) ∧ Up w w' := by
  obtain ⟨c, rfl⟩ := Int.eq_ofNat_of_zero_le hc.1
  exact deep_of H c w

end Go.Proofs.Ytlneepmpieikeaa
