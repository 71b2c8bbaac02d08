/- What the tables say of full decompositions: what the tests mean. -/
import Derived.Test.YthdhlcafomhdbaaDoorFua
import Derived.Test.YthdhlcafomhdbaaDoorUpt
namespace Go.Proofs.YthdhlcafomhdbaaDoor
open Go.RowKit

/-- The first one, the last one of a full decomposition; its width. -/
noncomputable def firstN : Nat → Nat → Nat
  | 0, x => x
  | n + 1, x => if rowOf x = 0 then x else firstN n (decA x)
noncomputable def lastN : Nat → Nat → Nat
  | 0, x => x
  | n + 1, x => if rowOf x = 0 then x else if decB x = 0 then lastN n (decA x) else decB x
noncomputable def widN : Nat → Nat → Nat
  | 0, x => widU x
  | n + 1, x => if rowOf x = 0 then widU x else if decB x = 0 then widN n (decA x) else widN n (decA x) + widU (decB x)

theorem f5_lt (l : List UInt8) (i o : Nat) : f5 o (l.drop (i * 16)) < 33554432 := by rw [f5_fld]; exact fld5_lt l 16 i o

end Go.Proofs.YthdhlcafomhdbaaDoor
