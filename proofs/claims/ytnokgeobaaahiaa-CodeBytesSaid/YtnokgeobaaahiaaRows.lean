/-
  No cell of these rows narrows 'for every input' (looked for: loops, veiled, ifaces, maps, wideKeys, modest, calm, conditions, laid).
  DERIVED. THE GIVEN ROWS OF THIS SEAT. 8 by the template 'for every input the law returns true; each argument reads behind the call as it read before'; 0 by the template 'total and deterministic' (their statements: YtnokgeobaaahiaaTotals.lean).
  GIVEN WITH THE SEED: the statements are not yours to turn. If you find one false, say at which input.
  Laid BY PROGRAM, IN A SANDBOX (cutbox-rows.mjs): the forced cells as the released guide's own fill.sh prints them over the translation 9f50b45ded60bb54… (all of the seat's roots in one cut). By AI agents, Wed Nov 11 2026. No macro, syntax, notation, axiom, sorry.
-/
import Derived.Test.YtnokgeobaaahiaaChecked
import GoSem.Claim
import GoSem.ClaimJoined
import GoSem.ClaimMapViews
import Derived.JoinedTies
import Derived.KernelRfl
namespace Go.Proofs.Ytnokgeobaaahiaa
/- THE CELL 'sum', in the pinned program and in every row, IS THE sha256 OF THE DUMP (.gsa) THAT YtnokgeobaaahiaaProg.lean LOADS. Nothing in Lean hashes anything: it is a label: what it is worth is what the hold of that sum in a sandbox is worth. -/
noncomputable def Try.pinned : Pinned := { name := "ytnokgeobaaahiaa", sum := "9f50b45ded60bb54cd5fc415f6285f6355971b6dcc039023927f2d9878f7c6c9", checked := Try.checked }
namespace Rows
def none {H : Type} : Left H := { results := [], args := [] }

/-- 'gessolaw01.CodePuts': WHATEVER THE INPUT: true; the input reads as it did. -/
def codePutsSpec : ChangeSpec := { name := "codePuts", fn := fun _ => fun
  | [d] => { results := [.lit (.bool true)], args := [d] }
  | _ => none }
def codePutsRow : OpenClaim := { program := "ytnokgeobaaahiaa", sum := "9f50b45ded60bb54cd5fc415f6285f6355971b6dcc039023927f2d9878f7c6c9", func := "gesso/gessolaw01.CodePuts", spec := "codePuts", apart := false }
def CodePutsSaid : Prop := codePutsRow.holds Try.pinned (OpenSpec.ofChange codePutsSpec)

/-- ITS FALSE NEIGHBOUR: 'it returns false'. Refute it at one input. -/
def codePutsWrong : ChangeSpec := { name := "codePuts", fn := fun _ => fun
  | [d] => { results := [.lit (.bool false)], args := [d] }
  | _ => none }
def CodePutsWrongFalsely : Prop := codePutsRow.holds Try.pinned (OpenSpec.ofChange codePutsWrong)

/-- 'gessolaw01.CodeOnes': WHATEVER THE INPUT: true; the input reads as it did. -/
def codeOnesSpec : ChangeSpec := { name := "codeOnes", fn := fun _ => fun
  | [d] => { results := [.lit (.bool true)], args := [d] }
  | _ => none }
def codeOnesRow : OpenClaim := { program := "ytnokgeobaaahiaa", sum := "9f50b45ded60bb54cd5fc415f6285f6355971b6dcc039023927f2d9878f7c6c9", func := "gesso/gessolaw01.CodeOnes", spec := "codeOnes", apart := false }
def CodeOnesSaid : Prop := codeOnesRow.holds Try.pinned (OpenSpec.ofChange codeOnesSpec)

/-- ITS FALSE NEIGHBOUR: 'it returns false'. Refute it at one input. -/
def codeOnesWrong : ChangeSpec := { name := "codeOnes", fn := fun _ => fun
  | [d] => { results := [.lit (.bool false)], args := [d] }
  | _ => none }
def CodeOnesWrongFalsely : Prop := codeOnesRow.holds Try.pinned (OpenSpec.ofChange codeOnesWrong)

/-- 'gessolaw01.CodeCodes': WHATEVER THE INPUT: true; the input reads as it did. -/
def codeCodesSpec : ChangeSpec := { name := "codeCodes", fn := fun _ => fun
  | [d] => { results := [.lit (.bool true)], args := [d] }
  | _ => none }
def codeCodesRow : OpenClaim := { program := "ytnokgeobaaahiaa", sum := "9f50b45ded60bb54cd5fc415f6285f6355971b6dcc039023927f2d9878f7c6c9", func := "gesso/gessolaw01.CodeCodes", spec := "codeCodes", apart := false }
def CodeCodesSaid : Prop := codeCodesRow.holds Try.pinned (OpenSpec.ofChange codeCodesSpec)

/-- ITS FALSE NEIGHBOUR: 'it returns false'. Refute it at one input. -/
def codeCodesWrong : ChangeSpec := { name := "codeCodes", fn := fun _ => fun
  | [d] => { results := [.lit (.bool false)], args := [d] }
  | _ => none }
def CodeCodesWrongFalsely : Prop := codeCodesRow.holds Try.pinned (OpenSpec.ofChange codeCodesWrong)

/-- 'gessolaw01.CodeBytes': WHATEVER THE INPUT: true; the input reads as it did. -/
def codeBytesSpec : ChangeSpec := { name := "codeBytes", fn := fun _ => fun
  | [d] => { results := [.lit (.bool true)], args := [d] }
  | _ => none }
def codeBytesRow : OpenClaim := { program := "ytnokgeobaaahiaa", sum := "9f50b45ded60bb54cd5fc415f6285f6355971b6dcc039023927f2d9878f7c6c9", func := "gesso/gessolaw01.CodeBytes", spec := "codeBytes", apart := false }
def CodeBytesSaid : Prop := codeBytesRow.holds Try.pinned (OpenSpec.ofChange codeBytesSpec)

/-- ITS FALSE NEIGHBOUR: 'it returns false'. Refute it at one input. -/
def codeBytesWrong : ChangeSpec := { name := "codeBytes", fn := fun _ => fun
  | [d] => { results := [.lit (.bool false)], args := [d] }
  | _ => none }
def CodeBytesWrongFalsely : Prop := codeBytesRow.holds Try.pinned (OpenSpec.ofChange codeBytesWrong)

/-- 'gessolaw01.CodeBack': WHATEVER THE INPUT: true; the input reads as it did. -/
def codeBackSpec : ChangeSpec := { name := "codeBack", fn := fun _ => fun
  | [d1, d2] => { results := [.lit (.bool true)], args := [d1, d2] }
  | _ => none }
def codeBackRow : OpenClaim := { program := "ytnokgeobaaahiaa", sum := "9f50b45ded60bb54cd5fc415f6285f6355971b6dcc039023927f2d9878f7c6c9", func := "gesso/gessolaw01.CodeBack", spec := "codeBack", apart := false }
def CodeBackSaid : Prop := codeBackRow.holds Try.pinned (OpenSpec.ofChange codeBackSpec)

/-- ITS FALSE NEIGHBOUR: 'it returns false'. Refute it at one input. -/
def codeBackWrong : ChangeSpec := { name := "codeBack", fn := fun _ => fun
  | [d1, d2] => { results := [.lit (.bool false)], args := [d1, d2] }
  | _ => none }
def CodeBackWrongFalsely : Prop := codeBackRow.holds Try.pinned (OpenSpec.ofChange codeBackWrong)

/-- 'gessolaw01.CodeJoins': WHATEVER THE INPUT: true; the input reads as it did. -/
def codeJoinsSpec : ChangeSpec := { name := "codeJoins", fn := fun _ => fun
  | [d1, d2] => { results := [.lit (.bool true)], args := [d1, d2] }
  | _ => none }
def codeJoinsRow : OpenClaim := { program := "ytnokgeobaaahiaa", sum := "9f50b45ded60bb54cd5fc415f6285f6355971b6dcc039023927f2d9878f7c6c9", func := "gesso/gessolaw01.CodeJoins", spec := "codeJoins", apart := false }
def CodeJoinsSaid : Prop := codeJoinsRow.holds Try.pinned (OpenSpec.ofChange codeJoinsSpec)

/-- ITS FALSE NEIGHBOUR: 'it returns false'. Refute it at one input. -/
def codeJoinsWrong : ChangeSpec := { name := "codeJoins", fn := fun _ => fun
  | [d1, d2] => { results := [.lit (.bool false)], args := [d1, d2] }
  | _ => none }
def CodeJoinsWrongFalsely : Prop := codeJoinsRow.holds Try.pinned (OpenSpec.ofChange codeJoinsWrong)

/-- 'gessolaw01.CodeWidths': WHATEVER THE INPUT: true; the input reads as it did. -/
def codeWidthsSpec : ChangeSpec := { name := "codeWidths", fn := fun _ => fun
  | [d1, d2] => { results := [.lit (.bool true)], args := [d1, d2] }
  | _ => none }
def codeWidthsRow : OpenClaim := { program := "ytnokgeobaaahiaa", sum := "9f50b45ded60bb54cd5fc415f6285f6355971b6dcc039023927f2d9878f7c6c9", func := "gesso/gessolaw01.CodeWidths", spec := "codeWidths", apart := false }
def CodeWidthsSaid : Prop := codeWidthsRow.holds Try.pinned (OpenSpec.ofChange codeWidthsSpec)

/-- ITS FALSE NEIGHBOUR: 'it returns false'. Refute it at one input. -/
def codeWidthsWrong : ChangeSpec := { name := "codeWidths", fn := fun _ => fun
  | [d1, d2] => { results := [.lit (.bool false)], args := [d1, d2] }
  | _ => none }
def CodeWidthsWrongFalsely : Prop := codeWidthsRow.holds Try.pinned (OpenSpec.ofChange codeWidthsWrong)

/-- 'gessolaw01.CodeCuts': WHATEVER THE INPUT: true; the input reads as it did. -/
def codeCutsSpec : ChangeSpec := { name := "codeCuts", fn := fun _ => fun
  | [d1, d2] => { results := [.lit (.bool true)], args := [d1, d2] }
  | _ => none }
def codeCutsRow : OpenClaim := { program := "ytnokgeobaaahiaa", sum := "9f50b45ded60bb54cd5fc415f6285f6355971b6dcc039023927f2d9878f7c6c9", func := "gesso/gessolaw01.CodeCuts", spec := "codeCuts", apart := false }
def CodeCutsSaid : Prop := codeCutsRow.holds Try.pinned (OpenSpec.ofChange codeCutsSpec)

/-- ITS FALSE NEIGHBOUR: 'it returns false'. Refute it at one input. -/
def codeCutsWrong : ChangeSpec := { name := "codeCuts", fn := fun _ => fun
  | [d1, d2] => { results := [.lit (.bool false)], args := [d1, d2] }
  | _ => none }
def CodeCutsWrongFalsely : Prop := codeCutsRow.holds Try.pinned (OpenSpec.ofChange codeCutsWrong)

/- THE SECOND FORM. 'bulk': how many values and letters a reading holds, each counted each time it is reached (what is shared counts as often as it is met; a slice's spare places count too). A statement '..UptoSaid' is the law's where the arguments, and the package variables that the reading takes, are together of bulk at most 1048576: NARROWER than '..Said'. Prove '..Said' where nothing that the law and all that it calls make is longer than what came in: it says more and counts as full. Else prove '..UptoSaid'. A law counts once. -/
mutual
def uptoBulk {H : Type} : DataW H → Nat
  | .lit (.string bytes) => bytes.length + 1
  | .lit _ => 1
  | .nil => 1
  | .ptr d => uptoBulk d + 1
  | .slice elems spare => uptoBulkAll elems + uptoBulkAll spare + 1
  | .agg parts => uptoBulkAll parts + 1
  | .iface _ d => uptoBulk d + 1
  | .map entries => uptoBulkEntries entries + 1
  | .held _ => 1
def uptoBulkAll {H : Type} : List (DataW H) → Nat
  | [] => 0
  | d :: r => uptoBulk d + uptoBulkAll r
def uptoBulkEntries {H : Type} : List (Lit × DataW H) → Nat
  | [] => 0
  | x :: r => uptoBulkEntry x + uptoBulkEntries r
def uptoBulkEntry {H : Type} : Lit × DataW H → Nat
  | (.string bytes, d) => bytes.length + uptoBulk d + 1
  | (_, d) => uptoBulk d + 1
 end
def uptoSmall : (H : Type) → List (DataW H) → Bool := fun _ ds => decide (uptoBulkAll ds ≤ 1048576)
def OpenSpec.upto (s : _root_.Go.ChangeSpec) : _root_.Go.OpenSpec := { _root_.Go.OpenSpec.ofChange s with cond := some uptoSmall }

/-- 'gessolaw01.CodePuts', WHERE WHAT IT READS IS OF BULK AT MOST 1048576: true; the input reads as it did. -/
def codePutsUptoRow : OpenClaim := { program := "ytnokgeobaaahiaa", sum := "9f50b45ded60bb54cd5fc415f6285f6355971b6dcc039023927f2d9878f7c6c9", func := "gesso/gessolaw01.CodePuts", spec := "codePuts", apart := false, narrowed := true }
def CodePutsUptoSaid : Prop := codePutsUptoRow.holds Try.pinned (OpenSpec.upto codePutsSpec)

/-- 'gessolaw01.CodeOnes', WHERE WHAT IT READS IS OF BULK AT MOST 1048576: true; the input reads as it did. -/
def codeOnesUptoRow : OpenClaim := { program := "ytnokgeobaaahiaa", sum := "9f50b45ded60bb54cd5fc415f6285f6355971b6dcc039023927f2d9878f7c6c9", func := "gesso/gessolaw01.CodeOnes", spec := "codeOnes", apart := false, narrowed := true }
def CodeOnesUptoSaid : Prop := codeOnesUptoRow.holds Try.pinned (OpenSpec.upto codeOnesSpec)

/-- 'gessolaw01.CodeCodes', WHERE WHAT IT READS IS OF BULK AT MOST 1048576: true; the input reads as it did. -/
def codeCodesUptoRow : OpenClaim := { program := "ytnokgeobaaahiaa", sum := "9f50b45ded60bb54cd5fc415f6285f6355971b6dcc039023927f2d9878f7c6c9", func := "gesso/gessolaw01.CodeCodes", spec := "codeCodes", apart := false, narrowed := true }
def CodeCodesUptoSaid : Prop := codeCodesUptoRow.holds Try.pinned (OpenSpec.upto codeCodesSpec)

/-- 'gessolaw01.CodeBytes', WHERE WHAT IT READS IS OF BULK AT MOST 1048576: true; the input reads as it did. -/
def codeBytesUptoRow : OpenClaim := { program := "ytnokgeobaaahiaa", sum := "9f50b45ded60bb54cd5fc415f6285f6355971b6dcc039023927f2d9878f7c6c9", func := "gesso/gessolaw01.CodeBytes", spec := "codeBytes", apart := false, narrowed := true }
def CodeBytesUptoSaid : Prop := codeBytesUptoRow.holds Try.pinned (OpenSpec.upto codeBytesSpec)

/-- 'gessolaw01.CodeBack', WHERE WHAT IT READS IS OF BULK AT MOST 1048576: true; the input reads as it did. -/
def codeBackUptoRow : OpenClaim := { program := "ytnokgeobaaahiaa", sum := "9f50b45ded60bb54cd5fc415f6285f6355971b6dcc039023927f2d9878f7c6c9", func := "gesso/gessolaw01.CodeBack", spec := "codeBack", apart := false, narrowed := true }
def CodeBackUptoSaid : Prop := codeBackUptoRow.holds Try.pinned (OpenSpec.upto codeBackSpec)

/-- 'gessolaw01.CodeJoins', WHERE WHAT IT READS IS OF BULK AT MOST 1048576: true; the input reads as it did. -/
def codeJoinsUptoRow : OpenClaim := { program := "ytnokgeobaaahiaa", sum := "9f50b45ded60bb54cd5fc415f6285f6355971b6dcc039023927f2d9878f7c6c9", func := "gesso/gessolaw01.CodeJoins", spec := "codeJoins", apart := false, narrowed := true }
def CodeJoinsUptoSaid : Prop := codeJoinsUptoRow.holds Try.pinned (OpenSpec.upto codeJoinsSpec)

/-- 'gessolaw01.CodeWidths', WHERE WHAT IT READS IS OF BULK AT MOST 1048576: true; the input reads as it did. -/
def codeWidthsUptoRow : OpenClaim := { program := "ytnokgeobaaahiaa", sum := "9f50b45ded60bb54cd5fc415f6285f6355971b6dcc039023927f2d9878f7c6c9", func := "gesso/gessolaw01.CodeWidths", spec := "codeWidths", apart := false, narrowed := true }
def CodeWidthsUptoSaid : Prop := codeWidthsUptoRow.holds Try.pinned (OpenSpec.upto codeWidthsSpec)

/-- 'gessolaw01.CodeCuts', WHERE WHAT IT READS IS OF BULK AT MOST 1048576: true; the input reads as it did. -/
def codeCutsUptoRow : OpenClaim := { program := "ytnokgeobaaahiaa", sum := "9f50b45ded60bb54cd5fc415f6285f6355971b6dcc039023927f2d9878f7c6c9", func := "gesso/gessolaw01.CodeCuts", spec := "codeCuts", apart := false, narrowed := true }
def CodeCutsUptoSaid : Prop := codeCutsUptoRow.holds Try.pinned (OpenSpec.upto codeCutsSpec)

end Rows
end Go.Proofs.Ytnokgeobaaahiaa
