/- The widths: code.Width, and the document's own Is and Width, as plain functions of a number. -/
import Derived.Test.YthkbjbbffkgpfaaRows
import Derived.WalkKit
import Derived.ProofKit
import Derived.Lib.Hide
import Derived.Outline
import Derived.Deep.QuietTactic
import Derived.BigQuiet
namespace Go.Proofs.Ythkbjbbffkgpfaa
open Go.RowKit

theorem ret_int {k : IntKind} {a b : Int} (h : a = b) : Ending.returned (.int k a) = .returned (.int k b) := by rw [h]
theorem ret_bool {a b : Bool} (h : a = b) : Ending.returned (.bool a) = .returned (.bool b) := by rw [h]

/-- Is a number a code point? -/
def isB (c : Int) : Bool := decide (c ≤ 1114111) && (decide (c < 55296) || decide (57343 < c))

/-- How many bytes a code point has; 0 of other numbers. -/
def widthI (c : Int) : Int := if c < 128 then 1 else if c < 2048 then 2 else if (55296 ≤ c ∧ c ≤ 57343) ∨ 1114111 < c then 0 else if c < 65536 then 3 else 4




end Go.Proofs.Ythkbjbbffkgpfaa
