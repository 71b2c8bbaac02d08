/- The statements of stage 10: what is held. -/
import Derived.Test.YtipemmjbgegmfaaGreatDoorSto
namespace Go.Proofs.YtipemmjbgegmfaaGreatDoor
open Go.RowKit Go.Proofs.YtipemmjbgegmfaaGreatDoor.Ordr Go.Proofs.YtipemmjbgegmfaaGreatDoor.Cmpr

/-- What is held and what went, of T bytes. -/
def HeldOf (s : SS) (T : Nat) : Prop := (s.err = 0 ∧ s.held.length + s.inn = T) ∨ (s.err = 6 ∧ s.held = [])
theorem HeldOf.write {s : SS} {T : Nat} (h : HeldOf s T) (b : List UInt8) : ((s.write b).err = 0 ∧ (s.write b).held.length + (s.write b).inn = T + b.length) ∨ ((s.write b).err = 6 ∧ (s.write b).held = []) := by
  rcases h with ⟨h1, h2⟩ | ⟨h1, h2⟩
  · by_cases hb : BadB (s.held ++ b)
    · rw [(SS.write_bad h1 hb).1]
      exact .inr ⟨rfl, rfl⟩
    · rw [(SS.write_ok h1 hb).1]
      refine .inl ⟨h1, ?_⟩
      generalize safeB (rightOf (s.held ++ b)) = n
      show ((s.held ++ b).drop n).length + (s.inn + ((s.held ++ b).take n).length) = _
      rw [List.length_drop, List.length_take, List.length_append]; omega
  · rw [(SS.write_err (by omega) b).1]
    exact .inr ⟨h1, h2⟩

/-- A piece that came in lies where no stream of the call's own does. -/
theorem rd_apart {W : World} {A : Option Addr} {c : Nat} {xs : List Value} (h : Rd W A c xs) {X : Nat → Prop} (hX : ∀ k, X k → W.heap.size ≤ k) : 0 < c → ∀ a, A = some a → ¬ X a.block := fun hc a ha hx => by
  obtain ⟨a', ha', hb⟩ := h.ad hc
  rw [ha] at ha'
  injection ha' with e
  subst e
  have := hX _ hx
  omega

end Go.Proofs.YtipemmjbgegmfaaGreatDoor
