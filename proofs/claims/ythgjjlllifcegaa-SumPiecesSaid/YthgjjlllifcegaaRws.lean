/- A slice of slices of bytes that came in. -/
import Derived.Test.YthgjjlllifcegaaBas
namespace Go.Proofs.Ythgjjlllifcegaa
open Go.RowKit

/-- A slice of slices of bytes that came in. -/
def RowsIn (w : World) (O : Option Addr) (LL : List (List UInt8)) : Prop :=
  ∀ i, (h : i < LL.length) → ∃ a A c, O = some a ∧ a.block < w.heap.size ∧ w.cell? (a.add i) = some (.slice A LL[i].length c) ∧ Rd w A c (bs LL[i])

theorem flat_succ (LL : List (List UInt8)) (i : Nat) (h : i < LL.length) : (LL.take (i + 1)).flatten = (LL.take i).flatten ++ LL[i] := by
  rw [List.take_succ_eq_append_getElem h, List.flatten_append]; simp
theorem flat_le (LL : List (List UInt8)) (i : Nat) (h : i < LL.length) : (LL.take i).flatten.length + LL[i].length ≤ LL.flatten.length := by
  have h1 := flat_succ LL i h
  have h2 : LL.flatten = (LL.take (i + 1)).flatten ++ (LL.drop (i + 1)).flatten := by rw [← List.flatten_append, List.take_append_drop]
  have h3 := congrArg List.length h1
  have h4 := congrArg List.length h2
  rw [List.length_append] at h3 h4
  omega

end Go.Proofs.Ythgjjlllifcegaa
