/-
  NARROWER THAN 'FOR EVERY INPUT', by the rows' own cells (each row's printed sentence says how): NormForms: laid · NormSames: laid · NormTexts: laid · NormSafes: laid · NormAgain: laid · NormParts: laid · NormEqual: laid · NormBytes: laid · NormMarks: laid · DecompLists: laid · OrderFull: laid · ComposeFull: laid.
  DERIVED. THE GIVEN ROWS OF THIS SEAT. 12 by the template 'for every input the law returns true; each argument reads behind the call as it read before'; 0 by the template 'total and deterministic' (their statements: YtdhnjfkpehigiaaDoorTotals.lean).
  GIVEN WITH THE SEED: the statements are not yours to turn. If you find one false, say at which input.
  Laid BY PROGRAM, IN A SANDBOX (cutbox-rows.mjs): the forced cells as the released guide's own fill.sh prints them over the translation 51e3321ed23ed8a9… (all of the seat's roots in one cut). By AI agents, Wed Nov 11 2026. No macro, syntax, notation, axiom, sorry.
-/
import Derived.Test.YtdhnjfkpehigiaaDoorChecked
import GoSem.Claim
import GoSem.ClaimJoined
import GoSem.ClaimMapViews
import Derived.JoinedTies
import Derived.KernelRfl
namespace Go.Proofs.YtdhnjfkpehigiaaDoor
/- THE CELL 'sum', in the pinned program and in every row, IS THE sha256 OF THE DUMP (.gsa) THAT YtdhnjfkpehigiaaDoorProg.lean LOADS. Nothing in Lean hashes anything: it is a label: what it is worth is what the hold of that sum in a sandbox is worth. -/
noncomputable def Tryd.pinned : Pinned := { name := "ytdhnjfkpehigiaadoor", sum := "51e3321ed23ed8a90b86e19a6310d7c7baf4736c1b5536a82fb37a36dd54d63c", checked := Tryd.checked }
namespace Rows
def none {H : Type} : Left H := { results := [], args := [] }

/- WHAT THE LISTED PACKAGE-LEVEL VARIABLES READ AS WHEN THE CALL BEGINS. Each datum BY PROGRAM (the guide's laid-datum.mjs) off the statement by which the dump's own 'gosem.cut.vars' lays the variable. In a bare row this is a premise. The card (YtdhnjfkpehigiaaDoorCards.lean) ties it to the program's text. -/
def laid_gesso_hangul_rows {H : Type} : DataW H := .agg [.agg [.lit (.int .u32 4352), .lit (.int .u32 4370)], .agg [.lit (.int .u32 4449), .lit (.int .u32 4469)], .agg [.lit (.int .u32 4520), .lit (.int .u32 4546)], .agg [.lit (.int .u32 44032), .lit (.int .u32 55203)]]

/-- 'gessolaw08.NormForms': WHATEVER THE INPUT: true; the input reads as it did. -/
def normFormsSpec : ChangeSpec := { name := "normForms", fn := fun _ => fun
  | [d] => { results := [.lit (.bool true)], args := [d] }
  | _ => none }
def normFormsRow : OpenClaim := { program := "ytdhnjfkpehigiaadoor", sum := "51e3321ed23ed8a90b86e19a6310d7c7baf4736c1b5536a82fb37a36dd54d63c", func := "gesso/gessolaw08.NormForms", spec := "normForms", unfollowed := true, recurses := true, named := ["gesso/hangul.rows"], apart := false, laid := [("gesso/hangul.rows", laid_gesso_hangul_rows)] }
def NormFormsSaid : Prop := normFormsRow.holds Tryd.pinned (OpenSpec.ofChange normFormsSpec)

/-- ITS FALSE NEIGHBOUR: 'it returns false'. Refute it at one input. -/
def normFormsWrong : ChangeSpec := { name := "normForms", fn := fun _ => fun
  | [d] => { results := [.lit (.bool false)], args := [d] }
  | _ => none }
def NormFormsWrongFalsely : Prop := normFormsRow.holds Tryd.pinned (OpenSpec.ofChange normFormsWrong)

/-- 'gessolaw08.NormSames': WHATEVER THE INPUT: true; the input reads as it did. -/
def normSamesSpec : ChangeSpec := { name := "normSames", fn := fun _ => fun
  | [d1, d2] => { results := [.lit (.bool true)], args := [d1, d2] }
  | _ => none }
def normSamesRow : OpenClaim := { program := "ytdhnjfkpehigiaadoor", sum := "51e3321ed23ed8a90b86e19a6310d7c7baf4736c1b5536a82fb37a36dd54d63c", func := "gesso/gessolaw08.NormSames", spec := "normSames", unfollowed := true, recurses := true, named := ["gesso/hangul.rows"], apart := false, laid := [("gesso/hangul.rows", laid_gesso_hangul_rows)] }
def NormSamesSaid : Prop := normSamesRow.holds Tryd.pinned (OpenSpec.ofChange normSamesSpec)

/-- ITS FALSE NEIGHBOUR: 'it returns false'. Refute it at one input. -/
def normSamesWrong : ChangeSpec := { name := "normSames", fn := fun _ => fun
  | [d1, d2] => { results := [.lit (.bool false)], args := [d1, d2] }
  | _ => none }
def NormSamesWrongFalsely : Prop := normSamesRow.holds Tryd.pinned (OpenSpec.ofChange normSamesWrong)

/-- 'gessolaw08.NormTexts': WHATEVER THE INPUT: true; the input reads as it did. -/
def normTextsSpec : ChangeSpec := { name := "normTexts", fn := fun _ => fun
  | [d] => { results := [.lit (.bool true)], args := [d] }
  | _ => none }
def normTextsRow : OpenClaim := { program := "ytdhnjfkpehigiaadoor", sum := "51e3321ed23ed8a90b86e19a6310d7c7baf4736c1b5536a82fb37a36dd54d63c", func := "gesso/gessolaw08.NormTexts", spec := "normTexts", unfollowed := true, recurses := true, named := ["gesso/hangul.rows"], apart := false, laid := [("gesso/hangul.rows", laid_gesso_hangul_rows)] }
def NormTextsSaid : Prop := normTextsRow.holds Tryd.pinned (OpenSpec.ofChange normTextsSpec)

/-- ITS FALSE NEIGHBOUR: 'it returns false'. Refute it at one input. -/
def normTextsWrong : ChangeSpec := { name := "normTexts", fn := fun _ => fun
  | [d] => { results := [.lit (.bool false)], args := [d] }
  | _ => none }
def NormTextsWrongFalsely : Prop := normTextsRow.holds Tryd.pinned (OpenSpec.ofChange normTextsWrong)

/-- 'gessolaw08.NormSafes': WHATEVER THE INPUT: true; the input reads as it did. -/
def normSafesSpec : ChangeSpec := { name := "normSafes", fn := fun _ => fun
  | [d] => { results := [.lit (.bool true)], args := [d] }
  | _ => none }
def normSafesRow : OpenClaim := { program := "ytdhnjfkpehigiaadoor", sum := "51e3321ed23ed8a90b86e19a6310d7c7baf4736c1b5536a82fb37a36dd54d63c", func := "gesso/gessolaw08.NormSafes", spec := "normSafes", unfollowed := true, recurses := true, named := ["gesso/hangul.rows"], apart := false, laid := [("gesso/hangul.rows", laid_gesso_hangul_rows)] }
def NormSafesSaid : Prop := normSafesRow.holds Tryd.pinned (OpenSpec.ofChange normSafesSpec)

/-- ITS FALSE NEIGHBOUR: 'it returns false'. Refute it at one input. -/
def normSafesWrong : ChangeSpec := { name := "normSafes", fn := fun _ => fun
  | [d] => { results := [.lit (.bool false)], args := [d] }
  | _ => none }
def NormSafesWrongFalsely : Prop := normSafesRow.holds Tryd.pinned (OpenSpec.ofChange normSafesWrong)

/-- 'gessolaw08.NormAgain': WHATEVER THE INPUT: true; the input reads as it did. -/
def normAgainSpec : ChangeSpec := { name := "normAgain", fn := fun _ => fun
  | [d] => { results := [.lit (.bool true)], args := [d] }
  | _ => none }
def normAgainRow : OpenClaim := { program := "ytdhnjfkpehigiaadoor", sum := "51e3321ed23ed8a90b86e19a6310d7c7baf4736c1b5536a82fb37a36dd54d63c", func := "gesso/gessolaw08.NormAgain", spec := "normAgain", unfollowed := true, recurses := true, named := ["gesso/hangul.rows"], apart := false, laid := [("gesso/hangul.rows", laid_gesso_hangul_rows)] }
def NormAgainSaid : Prop := normAgainRow.holds Tryd.pinned (OpenSpec.ofChange normAgainSpec)

/-- ITS FALSE NEIGHBOUR: 'it returns false'. Refute it at one input. -/
def normAgainWrong : ChangeSpec := { name := "normAgain", fn := fun _ => fun
  | [d] => { results := [.lit (.bool false)], args := [d] }
  | _ => none }
def NormAgainWrongFalsely : Prop := normAgainRow.holds Tryd.pinned (OpenSpec.ofChange normAgainWrong)

/-- 'gessolaw08.NormParts': WHATEVER THE INPUT: true; the input reads as it did. -/
def normPartsSpec : ChangeSpec := { name := "normParts", fn := fun _ => fun
  | [d] => { results := [.lit (.bool true)], args := [d] }
  | _ => none }
def normPartsRow : OpenClaim := { program := "ytdhnjfkpehigiaadoor", sum := "51e3321ed23ed8a90b86e19a6310d7c7baf4736c1b5536a82fb37a36dd54d63c", func := "gesso/gessolaw08.NormParts", spec := "normParts", unfollowed := true, recurses := true, named := ["gesso/hangul.rows"], apart := false, laid := [("gesso/hangul.rows", laid_gesso_hangul_rows)] }
def NormPartsSaid : Prop := normPartsRow.holds Tryd.pinned (OpenSpec.ofChange normPartsSpec)

/-- ITS FALSE NEIGHBOUR: 'it returns false'. Refute it at one input. -/
def normPartsWrong : ChangeSpec := { name := "normParts", fn := fun _ => fun
  | [d] => { results := [.lit (.bool false)], args := [d] }
  | _ => none }
def NormPartsWrongFalsely : Prop := normPartsRow.holds Tryd.pinned (OpenSpec.ofChange normPartsWrong)

/-- 'gessolaw08.NormEqual': WHATEVER THE INPUT: true; the input reads as it did. -/
def normEqualSpec : ChangeSpec := { name := "normEqual", fn := fun _ => fun
  | [d1, d2] => { results := [.lit (.bool true)], args := [d1, d2] }
  | _ => none }
def normEqualRow : OpenClaim := { program := "ytdhnjfkpehigiaadoor", sum := "51e3321ed23ed8a90b86e19a6310d7c7baf4736c1b5536a82fb37a36dd54d63c", func := "gesso/gessolaw08.NormEqual", spec := "normEqual", unfollowed := true, recurses := true, named := ["gesso/hangul.rows"], apart := false, laid := [("gesso/hangul.rows", laid_gesso_hangul_rows)] }
def NormEqualSaid : Prop := normEqualRow.holds Tryd.pinned (OpenSpec.ofChange normEqualSpec)

/-- ITS FALSE NEIGHBOUR: 'it returns false'. Refute it at one input. -/
def normEqualWrong : ChangeSpec := { name := "normEqual", fn := fun _ => fun
  | [d1, d2] => { results := [.lit (.bool false)], args := [d1, d2] }
  | _ => none }
def NormEqualWrongFalsely : Prop := normEqualRow.holds Tryd.pinned (OpenSpec.ofChange normEqualWrong)

/-- 'gessolaw08.NormBytes': WHATEVER THE INPUT: true; the input reads as it did. -/
def normBytesSpec : ChangeSpec := { name := "normBytes", fn := fun _ => fun
  | [d] => { results := [.lit (.bool true)], args := [d] }
  | _ => none }
def normBytesRow : OpenClaim := { program := "ytdhnjfkpehigiaadoor", sum := "51e3321ed23ed8a90b86e19a6310d7c7baf4736c1b5536a82fb37a36dd54d63c", func := "gesso/gessolaw08.NormBytes", spec := "normBytes", unfollowed := true, recurses := true, named := ["gesso/hangul.rows"], apart := false, laid := [("gesso/hangul.rows", laid_gesso_hangul_rows)] }
def NormBytesSaid : Prop := normBytesRow.holds Tryd.pinned (OpenSpec.ofChange normBytesSpec)

/-- ITS FALSE NEIGHBOUR: 'it returns false'. Refute it at one input. -/
def normBytesWrong : ChangeSpec := { name := "normBytes", fn := fun _ => fun
  | [d] => { results := [.lit (.bool false)], args := [d] }
  | _ => none }
def NormBytesWrongFalsely : Prop := normBytesRow.holds Tryd.pinned (OpenSpec.ofChange normBytesWrong)

/-- 'gessolaw08.NormMarks': WHATEVER THE INPUT: true; the input reads as it did. -/
def normMarksSpec : ChangeSpec := { name := "normMarks", fn := fun _ => fun
  | [d1, d2] => { results := [.lit (.bool true)], args := [d1, d2] }
  | _ => none }
def normMarksRow : OpenClaim := { program := "ytdhnjfkpehigiaadoor", sum := "51e3321ed23ed8a90b86e19a6310d7c7baf4736c1b5536a82fb37a36dd54d63c", func := "gesso/gessolaw08.NormMarks", spec := "normMarks", unfollowed := true, recurses := true, named := ["gesso/hangul.rows"], apart := false, laid := [("gesso/hangul.rows", laid_gesso_hangul_rows)] }
def NormMarksSaid : Prop := normMarksRow.holds Tryd.pinned (OpenSpec.ofChange normMarksSpec)

/-- ITS FALSE NEIGHBOUR: 'it returns false'. Refute it at one input. -/
def normMarksWrong : ChangeSpec := { name := "normMarks", fn := fun _ => fun
  | [d1, d2] => { results := [.lit (.bool false)], args := [d1, d2] }
  | _ => none }
def NormMarksWrongFalsely : Prop := normMarksRow.holds Tryd.pinned (OpenSpec.ofChange normMarksWrong)

/-- 'gessolaw05.DecompLists': WHATEVER THE INPUT: true; the input reads as it did. -/
def decompListsSpec : ChangeSpec := { name := "decompLists", fn := fun _ => fun
  | [d] => { results := [.lit (.bool true)], args := [d] }
  | _ => none }
def decompListsRow : OpenClaim := { program := "ytdhnjfkpehigiaadoor", sum := "51e3321ed23ed8a90b86e19a6310d7c7baf4736c1b5536a82fb37a36dd54d63c", func := "gesso/gessolaw05.DecompLists", spec := "decompLists", unfollowed := true, recurses := true, named := ["gesso/hangul.rows"], apart := false, laid := [("gesso/hangul.rows", laid_gesso_hangul_rows)] }
def DecompListsSaid : Prop := decompListsRow.holds Tryd.pinned (OpenSpec.ofChange decompListsSpec)

/-- ITS FALSE NEIGHBOUR: 'it returns false'. Refute it at one input. -/
def decompListsWrong : ChangeSpec := { name := "decompLists", fn := fun _ => fun
  | [d] => { results := [.lit (.bool false)], args := [d] }
  | _ => none }
def DecompListsWrongFalsely : Prop := decompListsRow.holds Tryd.pinned (OpenSpec.ofChange decompListsWrong)

/-- 'gessolaw06.OrderFull': WHATEVER THE INPUT: true; the input reads as it did. -/
def orderFullSpec : ChangeSpec := { name := "orderFull", fn := fun _ => fun
  | [d] => { results := [.lit (.bool true)], args := [d] }
  | _ => none }
def orderFullRow : OpenClaim := { program := "ytdhnjfkpehigiaadoor", sum := "51e3321ed23ed8a90b86e19a6310d7c7baf4736c1b5536a82fb37a36dd54d63c", func := "gesso/gessolaw06.OrderFull", spec := "orderFull", unfollowed := true, recurses := true, named := ["gesso/hangul.rows"], apart := false, laid := [("gesso/hangul.rows", laid_gesso_hangul_rows)] }
def OrderFullSaid : Prop := orderFullRow.holds Tryd.pinned (OpenSpec.ofChange orderFullSpec)

/-- ITS FALSE NEIGHBOUR: 'it returns false'. Refute it at one input. -/
def orderFullWrong : ChangeSpec := { name := "orderFull", fn := fun _ => fun
  | [d] => { results := [.lit (.bool false)], args := [d] }
  | _ => none }
def OrderFullWrongFalsely : Prop := orderFullRow.holds Tryd.pinned (OpenSpec.ofChange orderFullWrong)

/-- 'gessolaw07.ComposeFull': WHATEVER THE INPUT: true; the input reads as it did. -/
def composeFullSpec : ChangeSpec := { name := "composeFull", fn := fun _ => fun
  | [d] => { results := [.lit (.bool true)], args := [d] }
  | _ => none }
def composeFullRow : OpenClaim := { program := "ytdhnjfkpehigiaadoor", sum := "51e3321ed23ed8a90b86e19a6310d7c7baf4736c1b5536a82fb37a36dd54d63c", func := "gesso/gessolaw07.ComposeFull", spec := "composeFull", unfollowed := true, recurses := true, named := ["gesso/hangul.rows"], apart := false, laid := [("gesso/hangul.rows", laid_gesso_hangul_rows)] }
def ComposeFullSaid : Prop := composeFullRow.holds Tryd.pinned (OpenSpec.ofChange composeFullSpec)

/-- ITS FALSE NEIGHBOUR: 'it returns false'. Refute it at one input. -/
def composeFullWrong : ChangeSpec := { name := "composeFull", fn := fun _ => fun
  | [d] => { results := [.lit (.bool false)], args := [d] }
  | _ => none }
def ComposeFullWrongFalsely : Prop := composeFullRow.holds Tryd.pinned (OpenSpec.ofChange composeFullWrong)

/- THE SECOND FORM. 'bulk': how many values and letters a reading holds, each counted each time it is reached (what is shared counts as often as it is met; a slice's spare places count too). A statement '..UptoSaid' is the law's where the arguments, and the package variables that the reading takes, are together of bulk at most 1048576: NARROWER than '..Said'. Prove '..Said' where nothing that the law and all that it calls make is longer than what came in: it says more and counts as full. Else prove '..UptoSaid'. A law counts once. -/
mutual
def uptoBulk {H : Type} : DataW H → Nat
  | .lit (.string bytes) => bytes.length + 1
  | .lit _ => 1
  | .nil => 1
  | .ptr d => uptoBulk d + 1
  | .slice elems spare => uptoBulkAll elems + uptoBulkAll spare + 1
  | .agg parts => uptoBulkAll parts + 1
  | .iface _ d => uptoBulk d + 1
  | .map entries => uptoBulkEntries entries + 1
  | .held _ => 1
def uptoBulkAll {H : Type} : List (DataW H) → Nat
  | [] => 0
  | d :: r => uptoBulk d + uptoBulkAll r
def uptoBulkEntries {H : Type} : List (Lit × DataW H) → Nat
  | [] => 0
  | x :: r => uptoBulkEntry x + uptoBulkEntries r
def uptoBulkEntry {H : Type} : Lit × DataW H → Nat
  | (.string bytes, d) => bytes.length + uptoBulk d + 1
  | (_, d) => uptoBulk d + 1
 end
def uptoSmall : (H : Type) → List (DataW H) → Bool := fun _ ds => decide (uptoBulkAll ds ≤ 1048576)
def OpenSpec.upto (s : _root_.Go.ChangeSpec) : _root_.Go.OpenSpec := { _root_.Go.OpenSpec.ofChange s with cond := some uptoSmall }

/-- 'gessolaw08.NormForms', WHERE WHAT IT READS IS OF BULK AT MOST 1048576: true; the input reads as it did. -/
def normFormsUptoRow : OpenClaim := { program := "ytdhnjfkpehigiaadoor", sum := "51e3321ed23ed8a90b86e19a6310d7c7baf4736c1b5536a82fb37a36dd54d63c", func := "gesso/gessolaw08.NormForms", spec := "normForms", unfollowed := true, recurses := true, named := ["gesso/hangul.rows"], apart := false, laid := [("gesso/hangul.rows", laid_gesso_hangul_rows)], narrowed := true }
def NormFormsUptoSaid : Prop := normFormsUptoRow.holds Tryd.pinned (OpenSpec.upto normFormsSpec)

/-- 'gessolaw08.NormSames', WHERE WHAT IT READS IS OF BULK AT MOST 1048576: true; the input reads as it did. -/
def normSamesUptoRow : OpenClaim := { program := "ytdhnjfkpehigiaadoor", sum := "51e3321ed23ed8a90b86e19a6310d7c7baf4736c1b5536a82fb37a36dd54d63c", func := "gesso/gessolaw08.NormSames", spec := "normSames", unfollowed := true, recurses := true, named := ["gesso/hangul.rows"], apart := false, laid := [("gesso/hangul.rows", laid_gesso_hangul_rows)], narrowed := true }
def NormSamesUptoSaid : Prop := normSamesUptoRow.holds Tryd.pinned (OpenSpec.upto normSamesSpec)

/-- 'gessolaw08.NormTexts', WHERE WHAT IT READS IS OF BULK AT MOST 1048576: true; the input reads as it did. -/
def normTextsUptoRow : OpenClaim := { program := "ytdhnjfkpehigiaadoor", sum := "51e3321ed23ed8a90b86e19a6310d7c7baf4736c1b5536a82fb37a36dd54d63c", func := "gesso/gessolaw08.NormTexts", spec := "normTexts", unfollowed := true, recurses := true, named := ["gesso/hangul.rows"], apart := false, laid := [("gesso/hangul.rows", laid_gesso_hangul_rows)], narrowed := true }
def NormTextsUptoSaid : Prop := normTextsUptoRow.holds Tryd.pinned (OpenSpec.upto normTextsSpec)

/-- 'gessolaw08.NormSafes', WHERE WHAT IT READS IS OF BULK AT MOST 1048576: true; the input reads as it did. -/
def normSafesUptoRow : OpenClaim := { program := "ytdhnjfkpehigiaadoor", sum := "51e3321ed23ed8a90b86e19a6310d7c7baf4736c1b5536a82fb37a36dd54d63c", func := "gesso/gessolaw08.NormSafes", spec := "normSafes", unfollowed := true, recurses := true, named := ["gesso/hangul.rows"], apart := false, laid := [("gesso/hangul.rows", laid_gesso_hangul_rows)], narrowed := true }
def NormSafesUptoSaid : Prop := normSafesUptoRow.holds Tryd.pinned (OpenSpec.upto normSafesSpec)

/-- 'gessolaw08.NormAgain', WHERE WHAT IT READS IS OF BULK AT MOST 1048576: true; the input reads as it did. -/
def normAgainUptoRow : OpenClaim := { program := "ytdhnjfkpehigiaadoor", sum := "51e3321ed23ed8a90b86e19a6310d7c7baf4736c1b5536a82fb37a36dd54d63c", func := "gesso/gessolaw08.NormAgain", spec := "normAgain", unfollowed := true, recurses := true, named := ["gesso/hangul.rows"], apart := false, laid := [("gesso/hangul.rows", laid_gesso_hangul_rows)], narrowed := true }
def NormAgainUptoSaid : Prop := normAgainUptoRow.holds Tryd.pinned (OpenSpec.upto normAgainSpec)

/-- 'gessolaw08.NormParts', WHERE WHAT IT READS IS OF BULK AT MOST 1048576: true; the input reads as it did. -/
def normPartsUptoRow : OpenClaim := { program := "ytdhnjfkpehigiaadoor", sum := "51e3321ed23ed8a90b86e19a6310d7c7baf4736c1b5536a82fb37a36dd54d63c", func := "gesso/gessolaw08.NormParts", spec := "normParts", unfollowed := true, recurses := true, named := ["gesso/hangul.rows"], apart := false, laid := [("gesso/hangul.rows", laid_gesso_hangul_rows)], narrowed := true }
def NormPartsUptoSaid : Prop := normPartsUptoRow.holds Tryd.pinned (OpenSpec.upto normPartsSpec)

/-- 'gessolaw08.NormEqual', WHERE WHAT IT READS IS OF BULK AT MOST 1048576: true; the input reads as it did. -/
def normEqualUptoRow : OpenClaim := { program := "ytdhnjfkpehigiaadoor", sum := "51e3321ed23ed8a90b86e19a6310d7c7baf4736c1b5536a82fb37a36dd54d63c", func := "gesso/gessolaw08.NormEqual", spec := "normEqual", unfollowed := true, recurses := true, named := ["gesso/hangul.rows"], apart := false, laid := [("gesso/hangul.rows", laid_gesso_hangul_rows)], narrowed := true }
def NormEqualUptoSaid : Prop := normEqualUptoRow.holds Tryd.pinned (OpenSpec.upto normEqualSpec)

/-- 'gessolaw08.NormBytes', WHERE WHAT IT READS IS OF BULK AT MOST 1048576: true; the input reads as it did. -/
def normBytesUptoRow : OpenClaim := { program := "ytdhnjfkpehigiaadoor", sum := "51e3321ed23ed8a90b86e19a6310d7c7baf4736c1b5536a82fb37a36dd54d63c", func := "gesso/gessolaw08.NormBytes", spec := "normBytes", unfollowed := true, recurses := true, named := ["gesso/hangul.rows"], apart := false, laid := [("gesso/hangul.rows", laid_gesso_hangul_rows)], narrowed := true }
def NormBytesUptoSaid : Prop := normBytesUptoRow.holds Tryd.pinned (OpenSpec.upto normBytesSpec)

/-- 'gessolaw08.NormMarks', WHERE WHAT IT READS IS OF BULK AT MOST 1048576: true; the input reads as it did. -/
def normMarksUptoRow : OpenClaim := { program := "ytdhnjfkpehigiaadoor", sum := "51e3321ed23ed8a90b86e19a6310d7c7baf4736c1b5536a82fb37a36dd54d63c", func := "gesso/gessolaw08.NormMarks", spec := "normMarks", unfollowed := true, recurses := true, named := ["gesso/hangul.rows"], apart := false, laid := [("gesso/hangul.rows", laid_gesso_hangul_rows)], narrowed := true }
def NormMarksUptoSaid : Prop := normMarksUptoRow.holds Tryd.pinned (OpenSpec.upto normMarksSpec)

/-- 'gessolaw05.DecompLists', WHERE WHAT IT READS IS OF BULK AT MOST 1048576: true; the input reads as it did. -/
def decompListsUptoRow : OpenClaim := { program := "ytdhnjfkpehigiaadoor", sum := "51e3321ed23ed8a90b86e19a6310d7c7baf4736c1b5536a82fb37a36dd54d63c", func := "gesso/gessolaw05.DecompLists", spec := "decompLists", unfollowed := true, recurses := true, named := ["gesso/hangul.rows"], apart := false, laid := [("gesso/hangul.rows", laid_gesso_hangul_rows)], narrowed := true }
def DecompListsUptoSaid : Prop := decompListsUptoRow.holds Tryd.pinned (OpenSpec.upto decompListsSpec)

/-- 'gessolaw06.OrderFull', WHERE WHAT IT READS IS OF BULK AT MOST 1048576: true; the input reads as it did. -/
def orderFullUptoRow : OpenClaim := { program := "ytdhnjfkpehigiaadoor", sum := "51e3321ed23ed8a90b86e19a6310d7c7baf4736c1b5536a82fb37a36dd54d63c", func := "gesso/gessolaw06.OrderFull", spec := "orderFull", unfollowed := true, recurses := true, named := ["gesso/hangul.rows"], apart := false, laid := [("gesso/hangul.rows", laid_gesso_hangul_rows)], narrowed := true }
def OrderFullUptoSaid : Prop := orderFullUptoRow.holds Tryd.pinned (OpenSpec.upto orderFullSpec)

/-- 'gessolaw07.ComposeFull', WHERE WHAT IT READS IS OF BULK AT MOST 1048576: true; the input reads as it did. -/
def composeFullUptoRow : OpenClaim := { program := "ytdhnjfkpehigiaadoor", sum := "51e3321ed23ed8a90b86e19a6310d7c7baf4736c1b5536a82fb37a36dd54d63c", func := "gesso/gessolaw07.ComposeFull", spec := "composeFull", unfollowed := true, recurses := true, named := ["gesso/hangul.rows"], apart := false, laid := [("gesso/hangul.rows", laid_gesso_hangul_rows)], narrowed := true }
def ComposeFullUptoSaid : Prop := composeFullUptoRow.holds Tryd.pinned (OpenSpec.upto composeFullSpec)

end Rows
end Go.Proofs.YtdhnjfkpehigiaaDoor
