/- The statements of stage 7: the walks. -/
import Derived.Test.YtdhnjfkpehigiaaDoorCoy
namespace Go.Proofs.YtdhnjfkpehigiaaDoor
open Go.RowKit Go.Proofs.YtdhnjfkpehigiaaDoor.Ordr Go.Proofs.YtdhnjfkpehigiaaDoor.Cmpr

theorem comp_lt (l : List Nat) (h : ∀ c ∈ l, c < 4294967296) : ∀ y ∈ comp clsOf twoO l, y < 4294967296 := fun y hy => by
  refine back_from clsOf twoO (fun y => y < 4294967296) (fun s c x hx => two_lt hx) l (none, []) h (fun y hy => absurd hy (by simp [back])) y ?_
  unfold comp at hy
  exact List.mem_reverse.1 hy
theorem two_pairs_lt {a b : Nat} : twoC a b < 4294967296 := by
  unfold twoC
  cases h : twoO a b with
  | none => exact (by decide : (0 : Nat) < 4294967296)
  | some x => exact two_lt h

end Go.Proofs.YtdhnjfkpehigiaaDoor
