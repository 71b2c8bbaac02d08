/- code.One: the code point that bytes begin with. -/
import Derived.Test.YthgjjlllifcegaaPre
import Derived.Laws.RangeAny
import Derived.LoopN
namespace Go.Proofs.Ythgjjlllifcegaa
open Go.RowKit

theorem ret_two {x y x' y' : Value} (h : x = x') (h2 : y = y') : Ending.returned (.tuple #[x, y]) = .returned (.tuple #[x', y']) := by rw [h, h2]
theorem up_iter (w : World) (s : ByteArray) (p : Nat) : Up w (w.iter s p) := (Up.refl w).alloc _

end Go.Proofs.Ythgjjlllifcegaa
