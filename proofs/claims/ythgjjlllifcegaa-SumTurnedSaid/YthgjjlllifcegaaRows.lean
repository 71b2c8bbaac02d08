/-
  No cell of these rows narrows 'for every input' (looked for: loops, veiled, ifaces, maps, wideKeys, modest, calm, conditions, laid).
  DERIVED. THE GIVEN ROWS OF THIS SEAT. 6 by the template 'for every input the law returns true; each argument reads behind the call as it read before'; 0 by the template 'total and deterministic' (their statements: YthgjjlllifcegaaTotals.lean).
  GIVEN WITH THE SEED: the statements are not yours to turn. If you find one false, say at which input.
  Laid BY PROGRAM, IN A SANDBOX (cutbox-rows.mjs): the forced cells as the released guide's own fill.sh prints them over the translation ed2afded6ffab7e5… (all of the seat's roots in one cut). By AI agents, Wed Nov 11 2026. No macro, syntax, notation, axiom, sorry.
-/
import Derived.Test.YthgjjlllifcegaaChecked
import GoSem.Claim
import GoSem.ClaimJoined
import GoSem.ClaimMapViews
import Derived.JoinedTies
import Derived.KernelRfl
namespace Go.Proofs.Ythgjjlllifcegaa
/- THE CELL 'sum', in the pinned program and in every row, IS THE sha256 OF THE DUMP (.gsa) THAT YthgjjlllifcegaaProg.lean LOADS. Nothing in Lean hashes anything: it is a label: what it is worth is what the hold of that sum in a sandbox is worth. -/
noncomputable def Try.pinned : Pinned := { name := "ythgjjlllifcegaa", sum := "ed2afded6ffab7e5d774f3b21a94e807ac0667977238ab6983f1a37fa3035d74", checked := Try.checked }
namespace Rows
def none {H : Type} : Left H := { results := [], args := [] }

/-- 'gessolaw09.SumOfs': WHATEVER THE INPUT: true; the input reads as it did. -/
def sumOfsSpec : ChangeSpec := { name := "sumOfs", fn := fun _ => fun
  | [d] => { results := [.lit (.bool true)], args := [d] }
  | _ => none }
def sumOfsRow : OpenClaim := { program := "ythgjjlllifcegaa", sum := "ed2afded6ffab7e5d774f3b21a94e807ac0667977238ab6983f1a37fa3035d74", func := "gesso/gessolaw09.SumOfs", spec := "sumOfs", unfollowed := true, recurses := true, apart := false }
def SumOfsSaid : Prop := sumOfsRow.holds Try.pinned (OpenSpec.ofChange sumOfsSpec)

/-- ITS FALSE NEIGHBOUR: 'it returns false'. Refute it at one input. -/
def sumOfsWrong : ChangeSpec := { name := "sumOfs", fn := fun _ => fun
  | [d] => { results := [.lit (.bool false)], args := [d] }
  | _ => none }
def SumOfsWrongFalsely : Prop := sumOfsRow.holds Try.pinned (OpenSpec.ofChange sumOfsWrong)

/-- 'gessolaw09.SumGoes': WHATEVER THE INPUT: true; the input reads as it did. -/
def sumGoesSpec : ChangeSpec := { name := "sumGoes", fn := fun _ => fun
  | [d1, d2] => { results := [.lit (.bool true)], args := [d1, d2] }
  | _ => none }
def sumGoesRow : OpenClaim := { program := "ythgjjlllifcegaa", sum := "ed2afded6ffab7e5d774f3b21a94e807ac0667977238ab6983f1a37fa3035d74", func := "gesso/gessolaw09.SumGoes", spec := "sumGoes", unfollowed := true, recurses := true, apart := false }
def SumGoesSaid : Prop := sumGoesRow.holds Try.pinned (OpenSpec.ofChange sumGoesSpec)

/-- ITS FALSE NEIGHBOUR: 'it returns false'. Refute it at one input. -/
def sumGoesWrong : ChangeSpec := { name := "sumGoes", fn := fun _ => fun
  | [d1, d2] => { results := [.lit (.bool false)], args := [d1, d2] }
  | _ => none }
def SumGoesWrongFalsely : Prop := sumGoesRow.holds Try.pinned (OpenSpec.ofChange sumGoesWrong)

/-- 'gessolaw09.SumCuts': WHATEVER THE INPUT: true; the input reads as it did. -/
def sumCutsSpec : ChangeSpec := { name := "sumCuts", fn := fun _ => fun
  | [d1, d2] => { results := [.lit (.bool true)], args := [d1, d2] }
  | _ => none }
def sumCutsRow : OpenClaim := { program := "ythgjjlllifcegaa", sum := "ed2afded6ffab7e5d774f3b21a94e807ac0667977238ab6983f1a37fa3035d74", func := "gesso/gessolaw09.SumCuts", spec := "sumCuts", unfollowed := true, recurses := true, apart := false }
def SumCutsSaid : Prop := sumCutsRow.holds Try.pinned (OpenSpec.ofChange sumCutsSpec)

/-- ITS FALSE NEIGHBOUR: 'it returns false'. Refute it at one input. -/
def sumCutsWrong : ChangeSpec := { name := "sumCuts", fn := fun _ => fun
  | [d1, d2] => { results := [.lit (.bool false)], args := [d1, d2] }
  | _ => none }
def SumCutsWrongFalsely : Prop := sumCutsRow.holds Try.pinned (OpenSpec.ofChange sumCutsWrong)

/-- 'gessolaw09.SumTurned': WHATEVER THE INPUT: true; the input reads as it did. -/
def sumTurnedSpec : ChangeSpec := { name := "sumTurned", fn := fun _ => fun
  | [d1, d2, d3] => { results := [.lit (.bool true)], args := [d1, d2, d3] }
  | _ => none }
def sumTurnedRow : OpenClaim := { program := "ythgjjlllifcegaa", sum := "ed2afded6ffab7e5d774f3b21a94e807ac0667977238ab6983f1a37fa3035d74", func := "gesso/gessolaw09.SumTurned", spec := "sumTurned", unfollowed := true, recurses := true, apart := false }
def SumTurnedSaid : Prop := sumTurnedRow.holds Try.pinned (OpenSpec.ofChange sumTurnedSpec)

/-- ITS FALSE NEIGHBOUR: 'it returns false'. Refute it at one input. -/
def sumTurnedWrong : ChangeSpec := { name := "sumTurned", fn := fun _ => fun
  | [d1, d2, d3] => { results := [.lit (.bool false)], args := [d1, d2, d3] }
  | _ => none }
def SumTurnedWrongFalsely : Prop := sumTurnedRow.holds Try.pinned (OpenSpec.ofChange sumTurnedWrong)

/-- 'gessolaw09.SumLinear': WHATEVER THE INPUT: true; the input reads as it did. -/
def sumLinearSpec : ChangeSpec := { name := "sumLinear", fn := fun _ => fun
  | [d1, d2, d3] => { results := [.lit (.bool true)], args := [d1, d2, d3] }
  | _ => none }
def sumLinearRow : OpenClaim := { program := "ythgjjlllifcegaa", sum := "ed2afded6ffab7e5d774f3b21a94e807ac0667977238ab6983f1a37fa3035d74", func := "gesso/gessolaw09.SumLinear", spec := "sumLinear", unfollowed := true, recurses := true, apart := false }
def SumLinearSaid : Prop := sumLinearRow.holds Try.pinned (OpenSpec.ofChange sumLinearSpec)

/-- ITS FALSE NEIGHBOUR: 'it returns false'. Refute it at one input. -/
def sumLinearWrong : ChangeSpec := { name := "sumLinear", fn := fun _ => fun
  | [d1, d2, d3] => { results := [.lit (.bool false)], args := [d1, d2, d3] }
  | _ => none }
def SumLinearWrongFalsely : Prop := sumLinearRow.holds Try.pinned (OpenSpec.ofChange sumLinearWrong)

/-- 'gessolaw09.SumPieces': WHATEVER THE INPUT: true; the input reads as it did. -/
def sumPiecesSpec : ChangeSpec := { name := "sumPieces", fn := fun _ => fun
  | [d] => { results := [.lit (.bool true)], args := [d] }
  | _ => none }
def sumPiecesRow : OpenClaim := { program := "ythgjjlllifcegaa", sum := "ed2afded6ffab7e5d774f3b21a94e807ac0667977238ab6983f1a37fa3035d74", func := "gesso/gessolaw09.SumPieces", spec := "sumPieces", unfollowed := true, recurses := true, apart := false }
def SumPiecesSaid : Prop := sumPiecesRow.holds Try.pinned (OpenSpec.ofChange sumPiecesSpec)

/-- ITS FALSE NEIGHBOUR: 'it returns false'. Refute it at one input. -/
def sumPiecesWrong : ChangeSpec := { name := "sumPieces", fn := fun _ => fun
  | [d] => { results := [.lit (.bool false)], args := [d] }
  | _ => none }
def SumPiecesWrongFalsely : Prop := sumPiecesRow.holds Try.pinned (OpenSpec.ofChange sumPiecesWrong)

/- THE SECOND FORM. 'bulk': how many values and letters a reading holds, each counted each time it is reached (what is shared counts as often as it is met; a slice's spare places count too). A statement '..UptoSaid' is the law's where the arguments, and the package variables that the reading takes, are together of bulk at most 1048576: NARROWER than '..Said'. Prove '..Said' where nothing that the law and all that it calls make is longer than what came in: it says more and counts as full. Else prove '..UptoSaid'. A law counts once. -/
mutual
def uptoBulk {H : Type} : DataW H → Nat
  | .lit (.string bytes) => bytes.length + 1
  | .lit _ => 1
  | .nil => 1
  | .ptr d => uptoBulk d + 1
  | .slice elems spare => uptoBulkAll elems + uptoBulkAll spare + 1
  | .agg parts => uptoBulkAll parts + 1
  | .iface _ d => uptoBulk d + 1
  | .map entries => uptoBulkEntries entries + 1
  | .held _ => 1
def uptoBulkAll {H : Type} : List (DataW H) → Nat
  | [] => 0
  | d :: r => uptoBulk d + uptoBulkAll r
def uptoBulkEntries {H : Type} : List (Lit × DataW H) → Nat
  | [] => 0
  | x :: r => uptoBulkEntry x + uptoBulkEntries r
def uptoBulkEntry {H : Type} : Lit × DataW H → Nat
  | (.string bytes, d) => bytes.length + uptoBulk d + 1
  | (_, d) => uptoBulk d + 1
 end
def uptoSmall : (H : Type) → List (DataW H) → Bool := fun _ ds => decide (uptoBulkAll ds ≤ 1048576)
def OpenSpec.upto (s : _root_.Go.ChangeSpec) : _root_.Go.OpenSpec := { _root_.Go.OpenSpec.ofChange s with cond := some uptoSmall }

/-- 'gessolaw09.SumOfs', WHERE WHAT IT READS IS OF BULK AT MOST 1048576: true; the input reads as it did. -/
def sumOfsUptoRow : OpenClaim := { program := "ythgjjlllifcegaa", sum := "ed2afded6ffab7e5d774f3b21a94e807ac0667977238ab6983f1a37fa3035d74", func := "gesso/gessolaw09.SumOfs", spec := "sumOfs", unfollowed := true, recurses := true, apart := false, narrowed := true }
def SumOfsUptoSaid : Prop := sumOfsUptoRow.holds Try.pinned (OpenSpec.upto sumOfsSpec)

/-- 'gessolaw09.SumGoes', WHERE WHAT IT READS IS OF BULK AT MOST 1048576: true; the input reads as it did. -/
def sumGoesUptoRow : OpenClaim := { program := "ythgjjlllifcegaa", sum := "ed2afded6ffab7e5d774f3b21a94e807ac0667977238ab6983f1a37fa3035d74", func := "gesso/gessolaw09.SumGoes", spec := "sumGoes", unfollowed := true, recurses := true, apart := false, narrowed := true }
def SumGoesUptoSaid : Prop := sumGoesUptoRow.holds Try.pinned (OpenSpec.upto sumGoesSpec)

/-- 'gessolaw09.SumCuts', WHERE WHAT IT READS IS OF BULK AT MOST 1048576: true; the input reads as it did. -/
def sumCutsUptoRow : OpenClaim := { program := "ythgjjlllifcegaa", sum := "ed2afded6ffab7e5d774f3b21a94e807ac0667977238ab6983f1a37fa3035d74", func := "gesso/gessolaw09.SumCuts", spec := "sumCuts", unfollowed := true, recurses := true, apart := false, narrowed := true }
def SumCutsUptoSaid : Prop := sumCutsUptoRow.holds Try.pinned (OpenSpec.upto sumCutsSpec)

/-- 'gessolaw09.SumTurned', WHERE WHAT IT READS IS OF BULK AT MOST 1048576: true; the input reads as it did. -/
def sumTurnedUptoRow : OpenClaim := { program := "ythgjjlllifcegaa", sum := "ed2afded6ffab7e5d774f3b21a94e807ac0667977238ab6983f1a37fa3035d74", func := "gesso/gessolaw09.SumTurned", spec := "sumTurned", unfollowed := true, recurses := true, apart := false, narrowed := true }
def SumTurnedUptoSaid : Prop := sumTurnedUptoRow.holds Try.pinned (OpenSpec.upto sumTurnedSpec)

/-- 'gessolaw09.SumLinear', WHERE WHAT IT READS IS OF BULK AT MOST 1048576: true; the input reads as it did. -/
def sumLinearUptoRow : OpenClaim := { program := "ythgjjlllifcegaa", sum := "ed2afded6ffab7e5d774f3b21a94e807ac0667977238ab6983f1a37fa3035d74", func := "gesso/gessolaw09.SumLinear", spec := "sumLinear", unfollowed := true, recurses := true, apart := false, narrowed := true }
def SumLinearUptoSaid : Prop := sumLinearUptoRow.holds Try.pinned (OpenSpec.upto sumLinearSpec)

/-- 'gessolaw09.SumPieces', WHERE WHAT IT READS IS OF BULK AT MOST 1048576: true; the input reads as it did. -/
def sumPiecesUptoRow : OpenClaim := { program := "ythgjjlllifcegaa", sum := "ed2afded6ffab7e5d774f3b21a94e807ac0667977238ab6983f1a37fa3035d74", func := "gesso/gessolaw09.SumPieces", spec := "sumPieces", unfollowed := true, recurses := true, apart := false, narrowed := true }
def SumPiecesUptoSaid : Prop := sumPiecesUptoRow.holds Try.pinned (OpenSpec.upto sumPiecesSpec)

end Rows
end Go.Proofs.Ythgjjlllifcegaa
