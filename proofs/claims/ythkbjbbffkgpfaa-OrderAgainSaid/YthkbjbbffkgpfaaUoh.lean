/- The program's Composes, Second, Quickly, Starts; all seven. -/
import Derived.Test.YthkbjbbffkgpfaaUog
namespace Go.Proofs.Ythkbjbbffkgpfaa
open Go.RowKit

theorem is_c (y : UInt8) : decide (some y = some 99) = ((y.toNat : Int) == 99) := by
  rw [Bool.eq_iff_iff]
  simp only [decide_eq_true_eq, Option.some.injEq, beq_iff_eq]
  constructor
  · rintro rfl; rfl
  · intro h; exact UInt8.toNat_inj.1 (by show y.toNat = 99; omega)

end Go.Proofs.Ythkbjbbffkgpfaa
