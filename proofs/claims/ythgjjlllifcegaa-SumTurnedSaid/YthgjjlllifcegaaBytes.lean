/- code.Bytes and the document's Bytes: the bytes of numbers, one behind the other. -/
import Derived.Test.YthgjjlllifcegaaPut
import Derived.Test.YthgjjlllifcegaaAwake
import Derived.Test.YthgjjlllifcegaaRput
import Derived.Test.YthgjjlllifcegaaBas
import Derived.Test.YthgjjlllifcegaaUtg
namespace Go.Proofs.Ythgjjlllifcegaa
open Go.RowKit

theorem Up.grownBy {w w' : World} (h : Up w w') : w.grownBy w' none := ⟨h.os, h.tape, h.output, h.size, fun k hk _ => h.block k hk⟩
theorem Up.grown {w wr w' : World} {row : Option Nat} (h : Up w wr) (hg : wr.grownBy w' row) (hr : ∀ k, row = some k → w.heap.size ≤ k) : Up w w' := Below.grown h hg h.size hr

/-- What both leave. -/
def BytesP (l : List Nat) (w : World) (e : Ending) (w' : World) : Prop :=
  Up w w' ∧ ((U.Cps l ∧ ∃ A c, e = .returned (.tuple #[.slice A (U.encs l).length c, .int .i64 0]) ∧ w'.ownsRow w.heap.size 5 1 (.slice A (U.encs l).length c) (U.encs l).length (bs (U.encs l))) ∨
    (¬ U.Cps l ∧ e = .returned (.tuple #[.slice none 0 0, .int .i64 2])))

theorem U.take_snoc {l : List Nat} {k : Nat} (h : k < l.length) : l.take (k + 1) = l.take k ++ [l[k]] := by
  rw [List.take_succ_eq_append_getElem h]
theorem U.encs_snoc {l : List Nat} {k : Nat} (h : k < l.length) : U.encs (l.take (k + 1)) = U.encs (l.take k) ++ U.enc l[k] := by
  rw [U.take_snoc h, U.encs_append]; simp [U.encs]
theorem U.Cps_snoc {l : List Nat} {k : Nat} (h : k < l.length) (h1 : U.Cps (l.take k)) (h2 : U.isCp l[k]) : U.Cps (l.take (k + 1)) := by
  rw [U.take_snoc h]
  exact h1.append fun x hx => by rw [List.mem_singleton.1 hx]; exact h2
theorem U.not_Cps {l : List Nat} {k : Nat} (h : k < l.length) (h2 : ¬ U.isCp l[k]) : ¬ U.Cps l := fun hh => h2 (hh _ (List.getElem_mem h))

theorem isB_of {c : Nat} (hc : U.isCp c) : isB (c : Int) = true := by have h1 := hc.1; have h2 := hc.2; unfold isB; simp; omega
theorem isB_not {c : Nat} (hc : ¬ U.isCp c) : isB (c : Int) = false := by unfold U.isCp at hc; unfold isB; simp; omega

end Go.Proofs.Ythgjjlllifcegaa
