/- slices.SortStableFunc of a part of the call's own row: what stands, what is swapped. -/
import Derived.Test.YthkbjbbffkgpfaaKs
namespace Go.Proofs.Ythkbjbbffkgpfaa
open Go.RowKit

/-- The call's own row holds P, l, S, one behind the other, all of them below N; what stood in W stands. -/
structure Pat (W : World) (g N D : Nat) (P S : List Nat) (l : List Nat) (w : World) : Prop where
  own : w.ownsRow W.heap.size 3 1 (.slice (some ⟨g, 0, none⟩) N D) N (ks (P ++ l ++ S))
  up : Up W w
  pos : W.heap.size ≤ g
  low : ∀ x ∈ P ++ l ++ S, x < N

variable {W w w' : World} {g N D : Nat} {P S : List Nat}
theorem Pat.go {l : List Nat} (h : Pat W g N D P S l w) (hu : Up w w') : Pat W g N D P S l w' := ⟨own_up h.own hu, h.up.trans hu, h.pos, h.low⟩
theorem Pat.lt {l : List Nat} (h : Pat W g N D P S l w) : P.length + l.length ≤ N := by
  have := h.own.1
  rw [ks_len] at this
  simp at this
  omega
theorem Pat.is {l : List Nat} (h : Pat W g N D P S l w) {x : Nat} (hx : x ∈ l) : x < N := h.low x (List.mem_append_left _ (List.mem_append_right _ hx))
theorem Pat.cell {U T : List Nat} {x : Nat} (h : Pat W g N D P S (U ++ x :: T) w) {i : Nat} (hi : i = P.length + U.length) : w.cell? ⟨g, i, none⟩ = some (.int .i64 (x : Int)) ∧ w.frozen? ⟨g, i, none⟩ = false := by
  subst hi
  refine ⟨?_, h.own.frozenAt _⟩
  have := h.own
  rw [show P ++ (U ++ x :: T) ++ S = (P ++ U) ++ x :: (T ++ S) by simp] at this
  exact owk_mid this (by simp)
theorem Pat.put {U T : List Nat} {x : Nat} (h : Pat W g N D P S (U ++ x :: T) w) {i : Nat} (hi : i = P.length + U.length) (z : Nat) (hz : z < N) : Pat W g N D P S (U ++ z :: T) (w.setCell ⟨g, i, none⟩ (.int .i64 (z : Int))) := by
  subst hi
  refine ⟨?_, Up.setCell h.up h.pos _ _, h.pos, fun y hy => ?_⟩
  · have := owk_bump h.own (P.length + U.length) z
    rw [show P ++ (U ++ x :: T) ++ S = (P ++ U) ++ x :: (T ++ S) by simp, List.set_append_right _ _ (by simp), show P.length + U.length - (P ++ U).length = 0 by simp, List.set_cons_zero] at this
    simpa using this
  · have := h.low y
    simp only [List.mem_append, List.mem_cons] at hy this
    rcases hy with (h1 | h1 | rfl | h1) | h1
    · exact this (.inl (.inl h1))
    · exact this (.inl (.inr (.inl h1)))
    · exact hz
    · exact this (.inl (.inr (.inr (.inr h1))))
    · exact this (.inr h1)
/-- Two change places. -/
theorem Pat.swap {U V T : List Nat} {x y : Nat} (h : Pat W g N D P S (U ++ x :: (V ++ y :: T)) w) {i j : Nat} (hi : i = P.length + U.length) (hj : j = P.length + U.length + 1 + V.length) :
    Pat W g N D P S (U ++ y :: (V ++ x :: T)) ((w.setCell ⟨g, i, none⟩ (.int .i64 (y : Int))).setCell ⟨g, j, none⟩ (.int .i64 (x : Int))) := by
  have h1 := h.put hi y (h.is (by simp))
  rw [show U ++ y :: (V ++ y :: T) = (U ++ y :: V) ++ y :: T by simp] at h1
  have h2 := h1.put (i := j) (by simp; omega) x (h.is (by simp))
  rwa [show (U ++ y :: V) ++ x :: T = U ++ y :: (V ++ x :: T) by simp] at h2
/-- The same, the one behind laid first. -/
theorem Pat.swap2 {U V T : List Nat} {x y : Nat} (h : Pat W g N D P S (U ++ x :: (V ++ y :: T)) w) {i j : Nat} (hi : i = P.length + U.length) (hj : j = P.length + U.length + 1 + V.length) :
    Pat W g N D P S (U ++ y :: (V ++ x :: T)) ((w.setCell ⟨g, j, none⟩ (.int .i64 (x : Int))).setCell ⟨g, i, none⟩ (.int .i64 (y : Int))) := by
  have hx := h.is (x := x) (by simp)
  have hy := h.is (x := y) (by simp)
  rw [show U ++ x :: (V ++ y :: T) = (U ++ x :: V) ++ y :: T by simp] at h
  have h1 := h.put (i := j) (by simp; omega) x hx
  rw [show (U ++ x :: V) ++ x :: T = U ++ x :: (V ++ x :: T) by simp] at h1
  exact h1.put hi y hy
theorem Pat.two {U V T : List Nat} {x y : Nat} (h : Pat W g N D P S (U ++ x :: (V ++ y :: T)) w) {i j : Nat} (hi : i = P.length + U.length) (hj : j = P.length + U.length + 1 + V.length) :
    (w.cell? ⟨g, i, none⟩ = some (.int .i64 (x : Int)) ∧ w.frozen? ⟨g, i, none⟩ = false) ∧ (w.cell? ⟨g, j, none⟩ = some (.int .i64 (y : Int)) ∧ w.frozen? ⟨g, j, none⟩ = false) := by
  refine ⟨h.cell hi, ?_⟩
  rw [show U ++ x :: (V ++ y :: T) = (U ++ x :: V) ++ y :: T by simp] at h
  exact h.cell (by simp; omega)

end Go.Proofs.Ythkbjbbffkgpfaa
