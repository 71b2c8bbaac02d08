/-
  No cell of these rows narrows 'for every input' (looked for: loops, veiled, ifaces, maps, wideKeys, modest, calm, conditions, laid).
  DERIVED. THE GIVEN ROWS OF THIS SEAT. 7 by the template 'for every input the law returns true; each argument reads behind the call as it read before'; 0 by the template 'total and deterministic' (their statements: YtlneepmpieikeaaTotals.lean).
  GIVEN WITH THE SEED: the statements are not yours to turn. If you find one false, say at which input.
  Laid BY PROGRAM, IN A SANDBOX (cutbox-rows.mjs): the forced cells as the released guide's own fill.sh prints them over the translation dfcac5bb93fdf0bd… (all of the seat's roots in one cut). By AI agents, Wed Nov 11 2026. No macro, syntax, notation, axiom, sorry.
-/
import Derived.Test.YtlneepmpieikeaaChecked
import GoSem.Claim
import GoSem.ClaimJoined
import GoSem.ClaimMapViews
import Derived.JoinedTies
import Derived.KernelRfl
namespace Go.Proofs.Ytlneepmpieikeaa
/- THE CELL 'sum', in the pinned program and in every row, IS THE sha256 OF THE DUMP (.gsa) THAT YtlneepmpieikeaaProg.lean LOADS. Nothing in Lean hashes anything: it is a label: what it is worth is what the hold of that sum in a sandbox is worth. -/
noncomputable def Try.pinned : Pinned := { name := "ytlneepmpieikeaa", sum := "dfcac5bb93fdf0bd89e90d051a69418e0b96b5adcff86b8ddeb39feff79aef2d", checked := Try.checked }
namespace Rows
def none {H : Type} : Left H := { results := [], args := [] }

/-- 'gessolaw03.UcdClasses': WHATEVER THE INPUT: true; the input reads as it did. -/
def ucdClassesSpec : ChangeSpec := { name := "ucdClasses", fn := fun _ => fun
  | [d] => { results := [.lit (.bool true)], args := [d] }
  | _ => none }
def ucdClassesRow : OpenClaim := { program := "ytlneepmpieikeaa", sum := "dfcac5bb93fdf0bd89e90d051a69418e0b96b5adcff86b8ddeb39feff79aef2d", func := "gesso/gessolaw03.UcdClasses", spec := "ucdClasses", unfollowed := true, recurses := true, apart := false }
def UcdClassesSaid : Prop := ucdClassesRow.holds Try.pinned (OpenSpec.ofChange ucdClassesSpec)

/-- ITS FALSE NEIGHBOUR: 'it returns false'. Refute it at one input. -/
def ucdClassesWrong : ChangeSpec := { name := "ucdClasses", fn := fun _ => fun
  | [d] => { results := [.lit (.bool false)], args := [d] }
  | _ => none }
def UcdClassesWrongFalsely : Prop := ucdClassesRow.holds Try.pinned (OpenSpec.ofChange ucdClassesWrong)

/-- 'gessolaw03.UcdDecomps': WHATEVER THE INPUT: true; the input reads as it did. -/
def ucdDecompsSpec : ChangeSpec := { name := "ucdDecomps", fn := fun _ => fun
  | [d] => { results := [.lit (.bool true)], args := [d] }
  | _ => none }
def ucdDecompsRow : OpenClaim := { program := "ytlneepmpieikeaa", sum := "dfcac5bb93fdf0bd89e90d051a69418e0b96b5adcff86b8ddeb39feff79aef2d", func := "gesso/gessolaw03.UcdDecomps", spec := "ucdDecomps", unfollowed := true, recurses := true, apart := false }
def UcdDecompsSaid : Prop := ucdDecompsRow.holds Try.pinned (OpenSpec.ofChange ucdDecompsSpec)

/-- ITS FALSE NEIGHBOUR: 'it returns false'. Refute it at one input. -/
def ucdDecompsWrong : ChangeSpec := { name := "ucdDecomps", fn := fun _ => fun
  | [d] => { results := [.lit (.bool false)], args := [d] }
  | _ => none }
def UcdDecompsWrongFalsely : Prop := ucdDecompsRow.holds Try.pinned (OpenSpec.ofChange ucdDecompsWrong)

/-- 'gessolaw03.UcdPairs': WHATEVER THE INPUT: true; the input reads as it did. -/
def ucdPairsSpec : ChangeSpec := { name := "ucdPairs", fn := fun _ => fun
  | [d1, d2] => { results := [.lit (.bool true)], args := [d1, d2] }
  | _ => none }
def ucdPairsRow : OpenClaim := { program := "ytlneepmpieikeaa", sum := "dfcac5bb93fdf0bd89e90d051a69418e0b96b5adcff86b8ddeb39feff79aef2d", func := "gesso/gessolaw03.UcdPairs", spec := "ucdPairs", unfollowed := true, recurses := true, apart := false }
def UcdPairsSaid : Prop := ucdPairsRow.holds Try.pinned (OpenSpec.ofChange ucdPairsSpec)

/-- ITS FALSE NEIGHBOUR: 'it returns false'. Refute it at one input. -/
def ucdPairsWrong : ChangeSpec := { name := "ucdPairs", fn := fun _ => fun
  | [d1, d2] => { results := [.lit (.bool false)], args := [d1, d2] }
  | _ => none }
def UcdPairsWrongFalsely : Prop := ucdPairsRow.holds Try.pinned (OpenSpec.ofChange ucdPairsWrong)

/-- 'gessolaw03.UcdQuicks': WHATEVER THE INPUT: true; the input reads as it did. -/
def ucdQuicksSpec : ChangeSpec := { name := "ucdQuicks", fn := fun _ => fun
  | [d] => { results := [.lit (.bool true)], args := [d] }
  | _ => none }
def ucdQuicksRow : OpenClaim := { program := "ytlneepmpieikeaa", sum := "dfcac5bb93fdf0bd89e90d051a69418e0b96b5adcff86b8ddeb39feff79aef2d", func := "gesso/gessolaw03.UcdQuicks", spec := "ucdQuicks", unfollowed := true, recurses := true, apart := false }
def UcdQuicksSaid : Prop := ucdQuicksRow.holds Try.pinned (OpenSpec.ofChange ucdQuicksSpec)

/-- ITS FALSE NEIGHBOUR: 'it returns false'. Refute it at one input. -/
def ucdQuicksWrong : ChangeSpec := { name := "ucdQuicks", fn := fun _ => fun
  | [d] => { results := [.lit (.bool false)], args := [d] }
  | _ => none }
def UcdQuicksWrongFalsely : Prop := ucdQuicksRow.holds Try.pinned (OpenSpec.ofChange ucdQuicksWrong)

/-- 'gessolaw03.UcdBack': WHATEVER THE INPUT: true; the input reads as it did. -/
def ucdBackSpec : ChangeSpec := { name := "ucdBack", fn := fun _ => fun
  | [d1, d2, d3] => { results := [.lit (.bool true)], args := [d1, d2, d3] }
  | _ => none }
def ucdBackRow : OpenClaim := { program := "ytlneepmpieikeaa", sum := "dfcac5bb93fdf0bd89e90d051a69418e0b96b5adcff86b8ddeb39feff79aef2d", func := "gesso/gessolaw03.UcdBack", spec := "ucdBack", unfollowed := true, recurses := true, apart := false }
def UcdBackSaid : Prop := ucdBackRow.holds Try.pinned (OpenSpec.ofChange ucdBackSpec)

/-- ITS FALSE NEIGHBOUR: 'it returns false'. Refute it at one input. -/
def ucdBackWrong : ChangeSpec := { name := "ucdBack", fn := fun _ => fun
  | [d1, d2, d3] => { results := [.lit (.bool false)], args := [d1, d2, d3] }
  | _ => none }
def UcdBackWrongFalsely : Prop := ucdBackRow.holds Try.pinned (OpenSpec.ofChange ucdBackWrong)

/-- 'gessolaw03.UcdFirsts': WHATEVER THE INPUT: true; the input reads as it did. -/
def ucdFirstsSpec : ChangeSpec := { name := "ucdFirsts", fn := fun _ => fun
  | [d1, d2] => { results := [.lit (.bool true)], args := [d1, d2] }
  | _ => none }
def ucdFirstsRow : OpenClaim := { program := "ytlneepmpieikeaa", sum := "dfcac5bb93fdf0bd89e90d051a69418e0b96b5adcff86b8ddeb39feff79aef2d", func := "gesso/gessolaw03.UcdFirsts", spec := "ucdFirsts", unfollowed := true, recurses := true, apart := false }
def UcdFirstsSaid : Prop := ucdFirstsRow.holds Try.pinned (OpenSpec.ofChange ucdFirstsSpec)

/-- ITS FALSE NEIGHBOUR: 'it returns false'. Refute it at one input. -/
def ucdFirstsWrong : ChangeSpec := { name := "ucdFirsts", fn := fun _ => fun
  | [d1, d2] => { results := [.lit (.bool false)], args := [d1, d2] }
  | _ => none }
def UcdFirstsWrongFalsely : Prop := ucdFirstsRow.holds Try.pinned (OpenSpec.ofChange ucdFirstsWrong)

/-- 'gessolaw03.UcdDeep': WHATEVER THE INPUT: true; the input reads as it did. -/
def ucdDeepSpec : ChangeSpec := { name := "ucdDeep", fn := fun _ => fun
  | [d] => { results := [.lit (.bool true)], args := [d] }
  | _ => none }
def ucdDeepRow : OpenClaim := { program := "ytlneepmpieikeaa", sum := "dfcac5bb93fdf0bd89e90d051a69418e0b96b5adcff86b8ddeb39feff79aef2d", func := "gesso/gessolaw03.UcdDeep", spec := "ucdDeep", unfollowed := true, recurses := true, apart := false }
def UcdDeepSaid : Prop := ucdDeepRow.holds Try.pinned (OpenSpec.ofChange ucdDeepSpec)

/-- ITS FALSE NEIGHBOUR: 'it returns false'. Refute it at one input. -/
def ucdDeepWrong : ChangeSpec := { name := "ucdDeep", fn := fun _ => fun
  | [d] => { results := [.lit (.bool false)], args := [d] }
  | _ => none }
def UcdDeepWrongFalsely : Prop := ucdDeepRow.holds Try.pinned (OpenSpec.ofChange ucdDeepWrong)

/- THE SECOND FORM. 'bulk': how many values and letters a reading holds, each counted each time it is reached (what is shared counts as often as it is met; a slice's spare places count too). A statement '..UptoSaid' is the law's where the arguments, and the package variables that the reading takes, are together of bulk at most 1048576: NARROWER than '..Said'. Prove '..Said' where nothing that the law and all that it calls make is longer than what came in: it says more and counts as full. Else prove '..UptoSaid'. A law counts once. -/
mutual
def uptoBulk {H : Type} : DataW H → Nat
  | .lit (.string bytes) => bytes.length + 1
  | .lit _ => 1
  | .nil => 1
  | .ptr d => uptoBulk d + 1
  | .slice elems spare => uptoBulkAll elems + uptoBulkAll spare + 1
  | .agg parts => uptoBulkAll parts + 1
  | .iface _ d => uptoBulk d + 1
  | .map entries => uptoBulkEntries entries + 1
  | .held _ => 1
def uptoBulkAll {H : Type} : List (DataW H) → Nat
  | [] => 0
  | d :: r => uptoBulk d + uptoBulkAll r
def uptoBulkEntries {H : Type} : List (Lit × DataW H) → Nat
  | [] => 0
  | x :: r => uptoBulkEntry x + uptoBulkEntries r
def uptoBulkEntry {H : Type} : Lit × DataW H → Nat
  | (.string bytes, d) => bytes.length + uptoBulk d + 1
  | (_, d) => uptoBulk d + 1
 end
def uptoSmall : (H : Type) → List (DataW H) → Bool := fun _ ds => decide (uptoBulkAll ds ≤ 1048576)
def OpenSpec.upto (s : _root_.Go.ChangeSpec) : _root_.Go.OpenSpec := { _root_.Go.OpenSpec.ofChange s with cond := some uptoSmall }

/-- 'gessolaw03.UcdClasses', WHERE WHAT IT READS IS OF BULK AT MOST 1048576: true; the input reads as it did. -/
def ucdClassesUptoRow : OpenClaim := { program := "ytlneepmpieikeaa", sum := "dfcac5bb93fdf0bd89e90d051a69418e0b96b5adcff86b8ddeb39feff79aef2d", func := "gesso/gessolaw03.UcdClasses", spec := "ucdClasses", unfollowed := true, recurses := true, apart := false, narrowed := true }
def UcdClassesUptoSaid : Prop := ucdClassesUptoRow.holds Try.pinned (OpenSpec.upto ucdClassesSpec)

/-- 'gessolaw03.UcdDecomps', WHERE WHAT IT READS IS OF BULK AT MOST 1048576: true; the input reads as it did. -/
def ucdDecompsUptoRow : OpenClaim := { program := "ytlneepmpieikeaa", sum := "dfcac5bb93fdf0bd89e90d051a69418e0b96b5adcff86b8ddeb39feff79aef2d", func := "gesso/gessolaw03.UcdDecomps", spec := "ucdDecomps", unfollowed := true, recurses := true, apart := false, narrowed := true }
def UcdDecompsUptoSaid : Prop := ucdDecompsUptoRow.holds Try.pinned (OpenSpec.upto ucdDecompsSpec)

/-- 'gessolaw03.UcdPairs', WHERE WHAT IT READS IS OF BULK AT MOST 1048576: true; the input reads as it did. -/
def ucdPairsUptoRow : OpenClaim := { program := "ytlneepmpieikeaa", sum := "dfcac5bb93fdf0bd89e90d051a69418e0b96b5adcff86b8ddeb39feff79aef2d", func := "gesso/gessolaw03.UcdPairs", spec := "ucdPairs", unfollowed := true, recurses := true, apart := false, narrowed := true }
def UcdPairsUptoSaid : Prop := ucdPairsUptoRow.holds Try.pinned (OpenSpec.upto ucdPairsSpec)

/-- 'gessolaw03.UcdQuicks', WHERE WHAT IT READS IS OF BULK AT MOST 1048576: true; the input reads as it did. -/
def ucdQuicksUptoRow : OpenClaim := { program := "ytlneepmpieikeaa", sum := "dfcac5bb93fdf0bd89e90d051a69418e0b96b5adcff86b8ddeb39feff79aef2d", func := "gesso/gessolaw03.UcdQuicks", spec := "ucdQuicks", unfollowed := true, recurses := true, apart := false, narrowed := true }
def UcdQuicksUptoSaid : Prop := ucdQuicksUptoRow.holds Try.pinned (OpenSpec.upto ucdQuicksSpec)

/-- 'gessolaw03.UcdBack', WHERE WHAT IT READS IS OF BULK AT MOST 1048576: true; the input reads as it did. -/
def ucdBackUptoRow : OpenClaim := { program := "ytlneepmpieikeaa", sum := "dfcac5bb93fdf0bd89e90d051a69418e0b96b5adcff86b8ddeb39feff79aef2d", func := "gesso/gessolaw03.UcdBack", spec := "ucdBack", unfollowed := true, recurses := true, apart := false, narrowed := true }
def UcdBackUptoSaid : Prop := ucdBackUptoRow.holds Try.pinned (OpenSpec.upto ucdBackSpec)

/-- 'gessolaw03.UcdFirsts', WHERE WHAT IT READS IS OF BULK AT MOST 1048576: true; the input reads as it did. -/
def ucdFirstsUptoRow : OpenClaim := { program := "ytlneepmpieikeaa", sum := "dfcac5bb93fdf0bd89e90d051a69418e0b96b5adcff86b8ddeb39feff79aef2d", func := "gesso/gessolaw03.UcdFirsts", spec := "ucdFirsts", unfollowed := true, recurses := true, apart := false, narrowed := true }
def UcdFirstsUptoSaid : Prop := ucdFirstsUptoRow.holds Try.pinned (OpenSpec.upto ucdFirstsSpec)

/-- 'gessolaw03.UcdDeep', WHERE WHAT IT READS IS OF BULK AT MOST 1048576: true; the input reads as it did. -/
def ucdDeepUptoRow : OpenClaim := { program := "ytlneepmpieikeaa", sum := "dfcac5bb93fdf0bd89e90d051a69418e0b96b5adcff86b8ddeb39feff79aef2d", func := "gesso/gessolaw03.UcdDeep", spec := "ucdDeep", unfollowed := true, recurses := true, apart := false, narrowed := true }
def UcdDeepUptoSaid : Prop := ucdDeepUptoRow.holds Try.pinned (OpenSpec.upto ucdDeepSpec)

end Rows
end Go.Proofs.Ytlneepmpieikeaa
