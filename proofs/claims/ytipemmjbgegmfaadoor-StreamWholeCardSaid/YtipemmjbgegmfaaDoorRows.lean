/-
  NARROWER THAN 'FOR EVERY INPUT', by the rows' own cells (each row's printed sentence says how): DecompLists: laid · OrderFull: laid · ComposeFull: laid · NormForms: laid · NormTexts: laid · NormSafes: laid · StreamWhole: laid · StreamMarks: laid · StreamHolds: laid.
  DERIVED. THE GIVEN ROWS OF THIS SEAT. 9 by the template 'for every input the law returns true; each argument reads behind the call as it read before'; 0 by the template 'total and deterministic' (their statements: YtipemmjbgegmfaaDoorTotals.lean).
  GIVEN WITH THE SEED: the statements are not yours to turn. If you find one false, say at which input.
  Laid BY PROGRAM, IN A SANDBOX (cutbox-rows.mjs): the forced cells as the released guide's own fill.sh prints them over the translation 0c2478d8368de511… (all of the seat's roots in one cut). By AI agents, Wed Nov 11 2026. No macro, syntax, notation, axiom, sorry.
-/
import Derived.Test.YtipemmjbgegmfaaDoorChecked
import GoSem.Claim
import GoSem.ClaimJoined
import GoSem.ClaimMapViews
import Derived.JoinedTies
import Derived.KernelRfl
namespace Go.Proofs.YtipemmjbgegmfaaDoor
/- THE CELL 'sum', in the pinned program and in every row, IS THE sha256 OF THE DUMP (.gsa) THAT YtipemmjbgegmfaaDoorProg.lean LOADS. Nothing in Lean hashes anything: it is a label: what it is worth is what the hold of that sum in a sandbox is worth. -/
noncomputable def Tryd.pinned : Pinned := { name := "ytipemmjbgegmfaadoor", sum := "0c2478d8368de511e004562f017242243392e501b60309e6f17db2cf1b859bb1", checked := Tryd.checked }
namespace Rows
def none {H : Type} : Left H := { results := [], args := [] }

/- WHAT THE LISTED PACKAGE-LEVEL VARIABLES READ AS WHEN THE CALL BEGINS. Each datum BY PROGRAM (the guide's laid-datum.mjs) off the statement by which the dump's own 'gosem.cut.vars' lays the variable. In a bare row this is a premise. The card (YtipemmjbgegmfaaDoorCards.lean) ties it to the program's text. -/
def laid_gesso_hangul_rows {H : Type} : DataW H := .agg [.agg [.lit (.int .u32 4352), .lit (.int .u32 4370)], .agg [.lit (.int .u32 4449), .lit (.int .u32 4469)], .agg [.lit (.int .u32 4520), .lit (.int .u32 4546)], .agg [.lit (.int .u32 44032), .lit (.int .u32 55203)]]

/-- 'gessolaw05.DecompLists': WHATEVER THE INPUT: true; the input reads as it did. -/
def decompListsSpec : ChangeSpec := { name := "decompLists", fn := fun _ => fun
  | [d] => { results := [.lit (.bool true)], args := [d] }
  | _ => none }
def decompListsRow : OpenClaim := { program := "ytipemmjbgegmfaadoor", sum := "0c2478d8368de511e004562f017242243392e501b60309e6f17db2cf1b859bb1", func := "gesso/gessolaw05.DecompLists", spec := "decompLists", unfollowed := true, recurses := true, named := ["gesso/hangul.rows"], apart := false, laid := [("gesso/hangul.rows", laid_gesso_hangul_rows)] }
def DecompListsSaid : Prop := decompListsRow.holds Tryd.pinned (OpenSpec.ofChange decompListsSpec)

/-- ITS FALSE NEIGHBOUR: 'it returns false'. Refute it at one input. -/
def decompListsWrong : ChangeSpec := { name := "decompLists", fn := fun _ => fun
  | [d] => { results := [.lit (.bool false)], args := [d] }
  | _ => none }
def DecompListsWrongFalsely : Prop := decompListsRow.holds Tryd.pinned (OpenSpec.ofChange decompListsWrong)

/-- 'gessolaw06.OrderFull': WHATEVER THE INPUT: true; the input reads as it did. -/
def orderFullSpec : ChangeSpec := { name := "orderFull", fn := fun _ => fun
  | [d] => { results := [.lit (.bool true)], args := [d] }
  | _ => none }
def orderFullRow : OpenClaim := { program := "ytipemmjbgegmfaadoor", sum := "0c2478d8368de511e004562f017242243392e501b60309e6f17db2cf1b859bb1", func := "gesso/gessolaw06.OrderFull", spec := "orderFull", unfollowed := true, recurses := true, named := ["gesso/hangul.rows"], apart := false, laid := [("gesso/hangul.rows", laid_gesso_hangul_rows)] }
def OrderFullSaid : Prop := orderFullRow.holds Tryd.pinned (OpenSpec.ofChange orderFullSpec)

/-- ITS FALSE NEIGHBOUR: 'it returns false'. Refute it at one input. -/
def orderFullWrong : ChangeSpec := { name := "orderFull", fn := fun _ => fun
  | [d] => { results := [.lit (.bool false)], args := [d] }
  | _ => none }
def OrderFullWrongFalsely : Prop := orderFullRow.holds Tryd.pinned (OpenSpec.ofChange orderFullWrong)

/-- 'gessolaw07.ComposeFull': WHATEVER THE INPUT: true; the input reads as it did. -/
def composeFullSpec : ChangeSpec := { name := "composeFull", fn := fun _ => fun
  | [d] => { results := [.lit (.bool true)], args := [d] }
  | _ => none }
def composeFullRow : OpenClaim := { program := "ytipemmjbgegmfaadoor", sum := "0c2478d8368de511e004562f017242243392e501b60309e6f17db2cf1b859bb1", func := "gesso/gessolaw07.ComposeFull", spec := "composeFull", unfollowed := true, recurses := true, named := ["gesso/hangul.rows"], apart := false, laid := [("gesso/hangul.rows", laid_gesso_hangul_rows)] }
def ComposeFullSaid : Prop := composeFullRow.holds Tryd.pinned (OpenSpec.ofChange composeFullSpec)

/-- ITS FALSE NEIGHBOUR: 'it returns false'. Refute it at one input. -/
def composeFullWrong : ChangeSpec := { name := "composeFull", fn := fun _ => fun
  | [d] => { results := [.lit (.bool false)], args := [d] }
  | _ => none }
def ComposeFullWrongFalsely : Prop := composeFullRow.holds Tryd.pinned (OpenSpec.ofChange composeFullWrong)

/-- 'gessolaw08.NormForms': WHATEVER THE INPUT: true; the input reads as it did. -/
def normFormsSpec : ChangeSpec := { name := "normForms", fn := fun _ => fun
  | [d] => { results := [.lit (.bool true)], args := [d] }
  | _ => none }
def normFormsRow : OpenClaim := { program := "ytipemmjbgegmfaadoor", sum := "0c2478d8368de511e004562f017242243392e501b60309e6f17db2cf1b859bb1", func := "gesso/gessolaw08.NormForms", spec := "normForms", unfollowed := true, recurses := true, named := ["gesso/hangul.rows"], apart := false, laid := [("gesso/hangul.rows", laid_gesso_hangul_rows)] }
def NormFormsSaid : Prop := normFormsRow.holds Tryd.pinned (OpenSpec.ofChange normFormsSpec)

/-- ITS FALSE NEIGHBOUR: 'it returns false'. Refute it at one input. -/
def normFormsWrong : ChangeSpec := { name := "normForms", fn := fun _ => fun
  | [d] => { results := [.lit (.bool false)], args := [d] }
  | _ => none }
def NormFormsWrongFalsely : Prop := normFormsRow.holds Tryd.pinned (OpenSpec.ofChange normFormsWrong)

/-- 'gessolaw08.NormTexts': WHATEVER THE INPUT: true; the input reads as it did. -/
def normTextsSpec : ChangeSpec := { name := "normTexts", fn := fun _ => fun
  | [d] => { results := [.lit (.bool true)], args := [d] }
  | _ => none }
def normTextsRow : OpenClaim := { program := "ytipemmjbgegmfaadoor", sum := "0c2478d8368de511e004562f017242243392e501b60309e6f17db2cf1b859bb1", func := "gesso/gessolaw08.NormTexts", spec := "normTexts", unfollowed := true, recurses := true, named := ["gesso/hangul.rows"], apart := false, laid := [("gesso/hangul.rows", laid_gesso_hangul_rows)] }
def NormTextsSaid : Prop := normTextsRow.holds Tryd.pinned (OpenSpec.ofChange normTextsSpec)

/-- ITS FALSE NEIGHBOUR: 'it returns false'. Refute it at one input. -/
def normTextsWrong : ChangeSpec := { name := "normTexts", fn := fun _ => fun
  | [d] => { results := [.lit (.bool false)], args := [d] }
  | _ => none }
def NormTextsWrongFalsely : Prop := normTextsRow.holds Tryd.pinned (OpenSpec.ofChange normTextsWrong)

/-- 'gessolaw08.NormSafes': WHATEVER THE INPUT: true; the input reads as it did. -/
def normSafesSpec : ChangeSpec := { name := "normSafes", fn := fun _ => fun
  | [d] => { results := [.lit (.bool true)], args := [d] }
  | _ => none }
def normSafesRow : OpenClaim := { program := "ytipemmjbgegmfaadoor", sum := "0c2478d8368de511e004562f017242243392e501b60309e6f17db2cf1b859bb1", func := "gesso/gessolaw08.NormSafes", spec := "normSafes", unfollowed := true, recurses := true, named := ["gesso/hangul.rows"], apart := false, laid := [("gesso/hangul.rows", laid_gesso_hangul_rows)] }
def NormSafesSaid : Prop := normSafesRow.holds Tryd.pinned (OpenSpec.ofChange normSafesSpec)

/-- ITS FALSE NEIGHBOUR: 'it returns false'. Refute it at one input. -/
def normSafesWrong : ChangeSpec := { name := "normSafes", fn := fun _ => fun
  | [d] => { results := [.lit (.bool false)], args := [d] }
  | _ => none }
def NormSafesWrongFalsely : Prop := normSafesRow.holds Tryd.pinned (OpenSpec.ofChange normSafesWrong)

/-- 'gessolaw10.StreamWhole': WHATEVER THE INPUT: true; the input reads as it did. -/
def streamWholeSpec : ChangeSpec := { name := "streamWhole", fn := fun _ => fun
  | [d] => { results := [.lit (.bool true)], args := [d] }
  | _ => none }
def streamWholeRow : OpenClaim := { program := "ytipemmjbgegmfaadoor", sum := "0c2478d8368de511e004562f017242243392e501b60309e6f17db2cf1b859bb1", func := "gesso/gessolaw10.StreamWhole", spec := "streamWhole", unfollowed := true, recurses := true, named := ["gesso/hangul.rows"], apart := false, laid := [("gesso/hangul.rows", laid_gesso_hangul_rows)] }
def StreamWholeSaid : Prop := streamWholeRow.holds Tryd.pinned (OpenSpec.ofChange streamWholeSpec)

/-- ITS FALSE NEIGHBOUR: 'it returns false'. Refute it at one input. -/
def streamWholeWrong : ChangeSpec := { name := "streamWhole", fn := fun _ => fun
  | [d] => { results := [.lit (.bool false)], args := [d] }
  | _ => none }
def StreamWholeWrongFalsely : Prop := streamWholeRow.holds Tryd.pinned (OpenSpec.ofChange streamWholeWrong)

/-- 'gessolaw10.StreamMarks': WHATEVER THE INPUT: true; the input reads as it did. -/
def streamMarksSpec : ChangeSpec := { name := "streamMarks", fn := fun _ => fun
  | [d1, d2, d3] => { results := [.lit (.bool true)], args := [d1, d2, d3] }
  | _ => none }
def streamMarksRow : OpenClaim := { program := "ytipemmjbgegmfaadoor", sum := "0c2478d8368de511e004562f017242243392e501b60309e6f17db2cf1b859bb1", func := "gesso/gessolaw10.StreamMarks", spec := "streamMarks", unfollowed := true, recurses := true, named := ["gesso/hangul.rows"], apart := false, laid := [("gesso/hangul.rows", laid_gesso_hangul_rows)] }
def StreamMarksSaid : Prop := streamMarksRow.holds Tryd.pinned (OpenSpec.ofChange streamMarksSpec)

/-- ITS FALSE NEIGHBOUR: 'it returns false'. Refute it at one input. -/
def streamMarksWrong : ChangeSpec := { name := "streamMarks", fn := fun _ => fun
  | [d1, d2, d3] => { results := [.lit (.bool false)], args := [d1, d2, d3] }
  | _ => none }
def StreamMarksWrongFalsely : Prop := streamMarksRow.holds Tryd.pinned (OpenSpec.ofChange streamMarksWrong)

/-- 'gessolaw10.StreamHolds': WHATEVER THE INPUT: true; the input reads as it did. -/
def streamHoldsSpec : ChangeSpec := { name := "streamHolds", fn := fun _ => fun
  | [d] => { results := [.lit (.bool true)], args := [d] }
  | _ => none }
def streamHoldsRow : OpenClaim := { program := "ytipemmjbgegmfaadoor", sum := "0c2478d8368de511e004562f017242243392e501b60309e6f17db2cf1b859bb1", func := "gesso/gessolaw10.StreamHolds", spec := "streamHolds", unfollowed := true, recurses := true, named := ["gesso/hangul.rows"], apart := false, laid := [("gesso/hangul.rows", laid_gesso_hangul_rows)] }
def StreamHoldsSaid : Prop := streamHoldsRow.holds Tryd.pinned (OpenSpec.ofChange streamHoldsSpec)

/-- ITS FALSE NEIGHBOUR: 'it returns false'. Refute it at one input. -/
def streamHoldsWrong : ChangeSpec := { name := "streamHolds", fn := fun _ => fun
  | [d] => { results := [.lit (.bool false)], args := [d] }
  | _ => none }
def StreamHoldsWrongFalsely : Prop := streamHoldsRow.holds Tryd.pinned (OpenSpec.ofChange streamHoldsWrong)

/- THE SECOND FORM. 'bulk': how many values and letters a reading holds, each counted each time it is reached (what is shared counts as often as it is met; a slice's spare places count too). A statement '..UptoSaid' is the law's where the arguments, and the package variables that the reading takes, are together of bulk at most 1048576: NARROWER than '..Said'. Prove '..Said' where nothing that the law and all that it calls make is longer than what came in: it says more and counts as full. Else prove '..UptoSaid'. A law counts once. -/
mutual
def uptoBulk {H : Type} : DataW H → Nat
  | .lit (.string bytes) => bytes.length + 1
  | .lit _ => 1
  | .nil => 1
  | .ptr d => uptoBulk d + 1
  | .slice elems spare => uptoBulkAll elems + uptoBulkAll spare + 1
  | .agg parts => uptoBulkAll parts + 1
  | .iface _ d => uptoBulk d + 1
  | .map entries => uptoBulkEntries entries + 1
  | .held _ => 1
def uptoBulkAll {H : Type} : List (DataW H) → Nat
  | [] => 0
  | d :: r => uptoBulk d + uptoBulkAll r
def uptoBulkEntries {H : Type} : List (Lit × DataW H) → Nat
  | [] => 0
  | x :: r => uptoBulkEntry x + uptoBulkEntries r
def uptoBulkEntry {H : Type} : Lit × DataW H → Nat
  | (.string bytes, d) => bytes.length + uptoBulk d + 1
  | (_, d) => uptoBulk d + 1
 end
def uptoSmall : (H : Type) → List (DataW H) → Bool := fun _ ds => decide (uptoBulkAll ds ≤ 1048576)
def OpenSpec.upto (s : _root_.Go.ChangeSpec) : _root_.Go.OpenSpec := { _root_.Go.OpenSpec.ofChange s with cond := some uptoSmall }

/-- 'gessolaw05.DecompLists', WHERE WHAT IT READS IS OF BULK AT MOST 1048576: true; the input reads as it did. -/
def decompListsUptoRow : OpenClaim := { program := "ytipemmjbgegmfaadoor", sum := "0c2478d8368de511e004562f017242243392e501b60309e6f17db2cf1b859bb1", func := "gesso/gessolaw05.DecompLists", spec := "decompLists", unfollowed := true, recurses := true, named := ["gesso/hangul.rows"], apart := false, laid := [("gesso/hangul.rows", laid_gesso_hangul_rows)], narrowed := true }
def DecompListsUptoSaid : Prop := decompListsUptoRow.holds Tryd.pinned (OpenSpec.upto decompListsSpec)

/-- 'gessolaw06.OrderFull', WHERE WHAT IT READS IS OF BULK AT MOST 1048576: true; the input reads as it did. -/
def orderFullUptoRow : OpenClaim := { program := "ytipemmjbgegmfaadoor", sum := "0c2478d8368de511e004562f017242243392e501b60309e6f17db2cf1b859bb1", func := "gesso/gessolaw06.OrderFull", spec := "orderFull", unfollowed := true, recurses := true, named := ["gesso/hangul.rows"], apart := false, laid := [("gesso/hangul.rows", laid_gesso_hangul_rows)], narrowed := true }
def OrderFullUptoSaid : Prop := orderFullUptoRow.holds Tryd.pinned (OpenSpec.upto orderFullSpec)

/-- 'gessolaw07.ComposeFull', WHERE WHAT IT READS IS OF BULK AT MOST 1048576: true; the input reads as it did. -/
def composeFullUptoRow : OpenClaim := { program := "ytipemmjbgegmfaadoor", sum := "0c2478d8368de511e004562f017242243392e501b60309e6f17db2cf1b859bb1", func := "gesso/gessolaw07.ComposeFull", spec := "composeFull", unfollowed := true, recurses := true, named := ["gesso/hangul.rows"], apart := false, laid := [("gesso/hangul.rows", laid_gesso_hangul_rows)], narrowed := true }
def ComposeFullUptoSaid : Prop := composeFullUptoRow.holds Tryd.pinned (OpenSpec.upto composeFullSpec)

/-- 'gessolaw08.NormForms', WHERE WHAT IT READS IS OF BULK AT MOST 1048576: true; the input reads as it did. -/
def normFormsUptoRow : OpenClaim := { program := "ytipemmjbgegmfaadoor", sum := "0c2478d8368de511e004562f017242243392e501b60309e6f17db2cf1b859bb1", func := "gesso/gessolaw08.NormForms", spec := "normForms", unfollowed := true, recurses := true, named := ["gesso/hangul.rows"], apart := false, laid := [("gesso/hangul.rows", laid_gesso_hangul_rows)], narrowed := true }
def NormFormsUptoSaid : Prop := normFormsUptoRow.holds Tryd.pinned (OpenSpec.upto normFormsSpec)

/-- 'gessolaw08.NormTexts', WHERE WHAT IT READS IS OF BULK AT MOST 1048576: true; the input reads as it did. -/
def normTextsUptoRow : OpenClaim := { program := "ytipemmjbgegmfaadoor", sum := "0c2478d8368de511e004562f017242243392e501b60309e6f17db2cf1b859bb1", func := "gesso/gessolaw08.NormTexts", spec := "normTexts", unfollowed := true, recurses := true, named := ["gesso/hangul.rows"], apart := false, laid := [("gesso/hangul.rows", laid_gesso_hangul_rows)], narrowed := true }
def NormTextsUptoSaid : Prop := normTextsUptoRow.holds Tryd.pinned (OpenSpec.upto normTextsSpec)

/-- 'gessolaw08.NormSafes', WHERE WHAT IT READS IS OF BULK AT MOST 1048576: true; the input reads as it did. -/
def normSafesUptoRow : OpenClaim := { program := "ytipemmjbgegmfaadoor", sum := "0c2478d8368de511e004562f017242243392e501b60309e6f17db2cf1b859bb1", func := "gesso/gessolaw08.NormSafes", spec := "normSafes", unfollowed := true, recurses := true, named := ["gesso/hangul.rows"], apart := false, laid := [("gesso/hangul.rows", laid_gesso_hangul_rows)], narrowed := true }
def NormSafesUptoSaid : Prop := normSafesUptoRow.holds Tryd.pinned (OpenSpec.upto normSafesSpec)

/-- 'gessolaw10.StreamWhole', WHERE WHAT IT READS IS OF BULK AT MOST 1048576: true; the input reads as it did. -/
def streamWholeUptoRow : OpenClaim := { program := "ytipemmjbgegmfaadoor", sum := "0c2478d8368de511e004562f017242243392e501b60309e6f17db2cf1b859bb1", func := "gesso/gessolaw10.StreamWhole", spec := "streamWhole", unfollowed := true, recurses := true, named := ["gesso/hangul.rows"], apart := false, laid := [("gesso/hangul.rows", laid_gesso_hangul_rows)], narrowed := true }
def StreamWholeUptoSaid : Prop := streamWholeUptoRow.holds Tryd.pinned (OpenSpec.upto streamWholeSpec)

/-- 'gessolaw10.StreamMarks', WHERE WHAT IT READS IS OF BULK AT MOST 1048576: true; the input reads as it did. -/
def streamMarksUptoRow : OpenClaim := { program := "ytipemmjbgegmfaadoor", sum := "0c2478d8368de511e004562f017242243392e501b60309e6f17db2cf1b859bb1", func := "gesso/gessolaw10.StreamMarks", spec := "streamMarks", unfollowed := true, recurses := true, named := ["gesso/hangul.rows"], apart := false, laid := [("gesso/hangul.rows", laid_gesso_hangul_rows)], narrowed := true }
def StreamMarksUptoSaid : Prop := streamMarksUptoRow.holds Tryd.pinned (OpenSpec.upto streamMarksSpec)

/-- 'gessolaw10.StreamHolds', WHERE WHAT IT READS IS OF BULK AT MOST 1048576: true; the input reads as it did. -/
def streamHoldsUptoRow : OpenClaim := { program := "ytipemmjbgegmfaadoor", sum := "0c2478d8368de511e004562f017242243392e501b60309e6f17db2cf1b859bb1", func := "gesso/gessolaw10.StreamHolds", spec := "streamHolds", unfollowed := true, recurses := true, named := ["gesso/hangul.rows"], apart := false, laid := [("gesso/hangul.rows", laid_gesso_hangul_rows)], narrowed := true }
def StreamHoldsUptoSaid : Prop := streamHoldsUptoRow.holds Tryd.pinned (OpenSpec.upto streamHoldsSpec)

end Rows
end Go.Proofs.YtipemmjbgegmfaaDoor
