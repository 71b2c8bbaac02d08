/- The statements of stage 5: the walks. -/
import Derived.Test.YtipemmjbgegmfaaGreatDoorDca
import Derived.Test.YtipemmjbgegmfaaGreatDoorFur
namespace Go.Proofs.YtipemmjbgegmfaaGreatDoor
open Go.RowKit

theorem flat_id5 (l : List Nat) : (l.flatMap full).flatMap full = l.flatMap full := by
  have : ∀ m : List Nat, (∀ y ∈ m, full y = [y]) → m.flatMap full = m := fun m => by
    induction m with
    | nil => intro _; rfl
    | cons y m ih => intro h; rw [List.flatMap_cons, h y (by simp), ih fun z hz => h z (by simp [hz])]; rfl
  refine this _ fun y hy => ?_
  obtain ⟨x, _, hx⟩ := List.mem_flatMap.1 hy
  exact full_whole x y hx
theorem flat_lt (l : List Nat) (h : ∀ c ∈ l, c < 4294967296) : ∀ y ∈ l.flatMap full, y < 4294967296 := fun y hy => by
  obtain ⟨x, hx, hy⟩ := List.mem_flatMap.1 hy
  exact full_lt x (h x hx) y hy
theorem flat_ge (l : List Nat) : l.length ≤ (l.flatMap full).length := by
  induction l with
  | nil => simp
  | cons c l ih =>
    rw [List.flatMap_cons, List.length_append, List.length_cons]
    have := List.length_pos_iff.2 (full_some c)
    omega

end Go.Proofs.YtipemmjbgegmfaaGreatDoor
