/-
  NARROWER THAN 'FOR EVERY INPUT', by the rows' own cells (each row's printed sentence says how): DecompFulls: laid · DecompLists: laid · DecompAgain: laid · DecompJoins: laid · DecompHangul: laid · OrderFull: laid · ComposeTwos: laid · ComposeLists: laid · ComposeBack: laid · ComposeAgain: laid · ComposeParts: laid · ComposeFull: laid.
  DERIVED. THE GIVEN ROWS OF THIS SEAT. 12 by the template 'for every input the law returns true; each argument reads behind the call as it read before'; 0 by the template 'total and deterministic' (their statements: YtnmcdiiiikbkaaaDoorTotals.lean).
  GIVEN WITH THE SEED: the statements are not yours to turn. If you find one false, say at which input.
  Laid BY PROGRAM, IN A SANDBOX (cutbox-rows.mjs): the forced cells as the released guide's own fill.sh prints them over the translation 6c02021415fbc3ec… (all of the seat's roots in one cut). By AI agents, Wed Nov 11 2026. No macro, syntax, notation, axiom, sorry.
-/
import Derived.Test.YtnmcdiiiikbkaaaDoorChecked
import GoSem.Claim
import GoSem.ClaimJoined
import GoSem.ClaimMapViews
import Derived.JoinedTies
import Derived.KernelRfl
namespace Go.Proofs.YtnmcdiiiikbkaaaDoor
/- THE CELL 'sum', in the pinned program and in every row, IS THE sha256 OF THE DUMP (.gsa) THAT YtnmcdiiiikbkaaaDoorProg.lean LOADS. Nothing in Lean hashes anything: it is a label: what it is worth is what the hold of that sum in a sandbox is worth. -/
noncomputable def Tryd.pinned : Pinned := { name := "ytnmcdiiiikbkaaadoor", sum := "6c02021415fbc3eca79e500adf25a5364532cdb5330819da1548dc8e6bf613b8", checked := Tryd.checked }
namespace Rows
def none {H : Type} : Left H := { results := [], args := [] }

/- WHAT THE LISTED PACKAGE-LEVEL VARIABLES READ AS WHEN THE CALL BEGINS. Each datum BY PROGRAM (the guide's laid-datum.mjs) off the statement by which the dump's own 'gosem.cut.vars' lays the variable. In a bare row this is a premise. The card (YtnmcdiiiikbkaaaDoorCards.lean) ties it to the program's text. -/
def laid_gesso_hangul_rows {H : Type} : DataW H := .agg [.agg [.lit (.int .u32 4352), .lit (.int .u32 4370)], .agg [.lit (.int .u32 4449), .lit (.int .u32 4469)], .agg [.lit (.int .u32 4520), .lit (.int .u32 4546)], .agg [.lit (.int .u32 44032), .lit (.int .u32 55203)]]

/-- 'gessolaw05.DecompFulls': WHATEVER THE INPUT: true; the input reads as it did. -/
def decompFullsSpec : ChangeSpec := { name := "decompFulls", fn := fun _ => fun
  | [d] => { results := [.lit (.bool true)], args := [d] }
  | _ => none }
def decompFullsRow : OpenClaim := { program := "ytnmcdiiiikbkaaadoor", sum := "6c02021415fbc3eca79e500adf25a5364532cdb5330819da1548dc8e6bf613b8", func := "gesso/gessolaw05.DecompFulls", spec := "decompFulls", unfollowed := true, recurses := true, named := ["gesso/hangul.rows"], apart := false, laid := [("gesso/hangul.rows", laid_gesso_hangul_rows)] }
def DecompFullsSaid : Prop := decompFullsRow.holds Tryd.pinned (OpenSpec.ofChange decompFullsSpec)

/-- ITS FALSE NEIGHBOUR: 'it returns false'. Refute it at one input. -/
def decompFullsWrong : ChangeSpec := { name := "decompFulls", fn := fun _ => fun
  | [d] => { results := [.lit (.bool false)], args := [d] }
  | _ => none }
def DecompFullsWrongFalsely : Prop := decompFullsRow.holds Tryd.pinned (OpenSpec.ofChange decompFullsWrong)

/-- 'gessolaw05.DecompLists': WHATEVER THE INPUT: true; the input reads as it did. -/
def decompListsSpec : ChangeSpec := { name := "decompLists", fn := fun _ => fun
  | [d] => { results := [.lit (.bool true)], args := [d] }
  | _ => none }
def decompListsRow : OpenClaim := { program := "ytnmcdiiiikbkaaadoor", sum := "6c02021415fbc3eca79e500adf25a5364532cdb5330819da1548dc8e6bf613b8", func := "gesso/gessolaw05.DecompLists", spec := "decompLists", unfollowed := true, recurses := true, named := ["gesso/hangul.rows"], apart := false, laid := [("gesso/hangul.rows", laid_gesso_hangul_rows)] }
def DecompListsSaid : Prop := decompListsRow.holds Tryd.pinned (OpenSpec.ofChange decompListsSpec)

/-- ITS FALSE NEIGHBOUR: 'it returns false'. Refute it at one input. -/
def decompListsWrong : ChangeSpec := { name := "decompLists", fn := fun _ => fun
  | [d] => { results := [.lit (.bool false)], args := [d] }
  | _ => none }
def DecompListsWrongFalsely : Prop := decompListsRow.holds Tryd.pinned (OpenSpec.ofChange decompListsWrong)

/-- 'gessolaw05.DecompAgain': WHATEVER THE INPUT: true; the input reads as it did. -/
def decompAgainSpec : ChangeSpec := { name := "decompAgain", fn := fun _ => fun
  | [d] => { results := [.lit (.bool true)], args := [d] }
  | _ => none }
def decompAgainRow : OpenClaim := { program := "ytnmcdiiiikbkaaadoor", sum := "6c02021415fbc3eca79e500adf25a5364532cdb5330819da1548dc8e6bf613b8", func := "gesso/gessolaw05.DecompAgain", spec := "decompAgain", unfollowed := true, recurses := true, named := ["gesso/hangul.rows"], apart := false, laid := [("gesso/hangul.rows", laid_gesso_hangul_rows)] }
def DecompAgainSaid : Prop := decompAgainRow.holds Tryd.pinned (OpenSpec.ofChange decompAgainSpec)

/-- ITS FALSE NEIGHBOUR: 'it returns false'. Refute it at one input. -/
def decompAgainWrong : ChangeSpec := { name := "decompAgain", fn := fun _ => fun
  | [d] => { results := [.lit (.bool false)], args := [d] }
  | _ => none }
def DecompAgainWrongFalsely : Prop := decompAgainRow.holds Tryd.pinned (OpenSpec.ofChange decompAgainWrong)

/-- 'gessolaw05.DecompJoins': WHATEVER THE INPUT: true; the input reads as it did. -/
def decompJoinsSpec : ChangeSpec := { name := "decompJoins", fn := fun _ => fun
  | [d1, d2] => { results := [.lit (.bool true)], args := [d1, d2] }
  | _ => none }
def decompJoinsRow : OpenClaim := { program := "ytnmcdiiiikbkaaadoor", sum := "6c02021415fbc3eca79e500adf25a5364532cdb5330819da1548dc8e6bf613b8", func := "gesso/gessolaw05.DecompJoins", spec := "decompJoins", unfollowed := true, recurses := true, named := ["gesso/hangul.rows"], apart := false, laid := [("gesso/hangul.rows", laid_gesso_hangul_rows)] }
def DecompJoinsSaid : Prop := decompJoinsRow.holds Tryd.pinned (OpenSpec.ofChange decompJoinsSpec)

/-- ITS FALSE NEIGHBOUR: 'it returns false'. Refute it at one input. -/
def decompJoinsWrong : ChangeSpec := { name := "decompJoins", fn := fun _ => fun
  | [d1, d2] => { results := [.lit (.bool false)], args := [d1, d2] }
  | _ => none }
def DecompJoinsWrongFalsely : Prop := decompJoinsRow.holds Tryd.pinned (OpenSpec.ofChange decompJoinsWrong)

/-- 'gessolaw05.DecompHangul': WHATEVER THE INPUT: true; the input reads as it did. -/
def decompHangulSpec : ChangeSpec := { name := "decompHangul", fn := fun _ => fun
  | [d] => { results := [.lit (.bool true)], args := [d] }
  | _ => none }
def decompHangulRow : OpenClaim := { program := "ytnmcdiiiikbkaaadoor", sum := "6c02021415fbc3eca79e500adf25a5364532cdb5330819da1548dc8e6bf613b8", func := "gesso/gessolaw05.DecompHangul", spec := "decompHangul", unfollowed := true, recurses := true, named := ["gesso/hangul.rows"], apart := false, laid := [("gesso/hangul.rows", laid_gesso_hangul_rows)] }
def DecompHangulSaid : Prop := decompHangulRow.holds Tryd.pinned (OpenSpec.ofChange decompHangulSpec)

/-- ITS FALSE NEIGHBOUR: 'it returns false'. Refute it at one input. -/
def decompHangulWrong : ChangeSpec := { name := "decompHangul", fn := fun _ => fun
  | [d] => { results := [.lit (.bool false)], args := [d] }
  | _ => none }
def DecompHangulWrongFalsely : Prop := decompHangulRow.holds Tryd.pinned (OpenSpec.ofChange decompHangulWrong)

/-- 'gessolaw06.OrderFull': WHATEVER THE INPUT: true; the input reads as it did. -/
def orderFullSpec : ChangeSpec := { name := "orderFull", fn := fun _ => fun
  | [d] => { results := [.lit (.bool true)], args := [d] }
  | _ => none }
def orderFullRow : OpenClaim := { program := "ytnmcdiiiikbkaaadoor", sum := "6c02021415fbc3eca79e500adf25a5364532cdb5330819da1548dc8e6bf613b8", func := "gesso/gessolaw06.OrderFull", spec := "orderFull", unfollowed := true, recurses := true, named := ["gesso/hangul.rows"], apart := false, laid := [("gesso/hangul.rows", laid_gesso_hangul_rows)] }
def OrderFullSaid : Prop := orderFullRow.holds Tryd.pinned (OpenSpec.ofChange orderFullSpec)

/-- ITS FALSE NEIGHBOUR: 'it returns false'. Refute it at one input. -/
def orderFullWrong : ChangeSpec := { name := "orderFull", fn := fun _ => fun
  | [d] => { results := [.lit (.bool false)], args := [d] }
  | _ => none }
def OrderFullWrongFalsely : Prop := orderFullRow.holds Tryd.pinned (OpenSpec.ofChange orderFullWrong)

/-- 'gessolaw07.ComposeTwos': WHATEVER THE INPUT: true; the input reads as it did. -/
def composeTwosSpec : ChangeSpec := { name := "composeTwos", fn := fun _ => fun
  | [d1, d2] => { results := [.lit (.bool true)], args := [d1, d2] }
  | _ => none }
def composeTwosRow : OpenClaim := { program := "ytnmcdiiiikbkaaadoor", sum := "6c02021415fbc3eca79e500adf25a5364532cdb5330819da1548dc8e6bf613b8", func := "gesso/gessolaw07.ComposeTwos", spec := "composeTwos", unfollowed := true, recurses := true, named := ["gesso/hangul.rows"], apart := false, laid := [("gesso/hangul.rows", laid_gesso_hangul_rows)] }
def ComposeTwosSaid : Prop := composeTwosRow.holds Tryd.pinned (OpenSpec.ofChange composeTwosSpec)

/-- ITS FALSE NEIGHBOUR: 'it returns false'. Refute it at one input. -/
def composeTwosWrong : ChangeSpec := { name := "composeTwos", fn := fun _ => fun
  | [d1, d2] => { results := [.lit (.bool false)], args := [d1, d2] }
  | _ => none }
def ComposeTwosWrongFalsely : Prop := composeTwosRow.holds Tryd.pinned (OpenSpec.ofChange composeTwosWrong)

/-- 'gessolaw07.ComposeLists': WHATEVER THE INPUT: true; the input reads as it did. -/
def composeListsSpec : ChangeSpec := { name := "composeLists", fn := fun _ => fun
  | [d] => { results := [.lit (.bool true)], args := [d] }
  | _ => none }
def composeListsRow : OpenClaim := { program := "ytnmcdiiiikbkaaadoor", sum := "6c02021415fbc3eca79e500adf25a5364532cdb5330819da1548dc8e6bf613b8", func := "gesso/gessolaw07.ComposeLists", spec := "composeLists", unfollowed := true, recurses := true, named := ["gesso/hangul.rows"], apart := false, laid := [("gesso/hangul.rows", laid_gesso_hangul_rows)] }
def ComposeListsSaid : Prop := composeListsRow.holds Tryd.pinned (OpenSpec.ofChange composeListsSpec)

/-- ITS FALSE NEIGHBOUR: 'it returns false'. Refute it at one input. -/
def composeListsWrong : ChangeSpec := { name := "composeLists", fn := fun _ => fun
  | [d] => { results := [.lit (.bool false)], args := [d] }
  | _ => none }
def ComposeListsWrongFalsely : Prop := composeListsRow.holds Tryd.pinned (OpenSpec.ofChange composeListsWrong)

/-- 'gessolaw07.ComposeBack': WHATEVER THE INPUT: true; the input reads as it did. -/
def composeBackSpec : ChangeSpec := { name := "composeBack", fn := fun _ => fun
  | [d] => { results := [.lit (.bool true)], args := [d] }
  | _ => none }
def composeBackRow : OpenClaim := { program := "ytnmcdiiiikbkaaadoor", sum := "6c02021415fbc3eca79e500adf25a5364532cdb5330819da1548dc8e6bf613b8", func := "gesso/gessolaw07.ComposeBack", spec := "composeBack", unfollowed := true, recurses := true, named := ["gesso/hangul.rows"], apart := false, laid := [("gesso/hangul.rows", laid_gesso_hangul_rows)] }
def ComposeBackSaid : Prop := composeBackRow.holds Tryd.pinned (OpenSpec.ofChange composeBackSpec)

/-- ITS FALSE NEIGHBOUR: 'it returns false'. Refute it at one input. -/
def composeBackWrong : ChangeSpec := { name := "composeBack", fn := fun _ => fun
  | [d] => { results := [.lit (.bool false)], args := [d] }
  | _ => none }
def ComposeBackWrongFalsely : Prop := composeBackRow.holds Tryd.pinned (OpenSpec.ofChange composeBackWrong)

/-- 'gessolaw07.ComposeAgain': WHATEVER THE INPUT: true; the input reads as it did. -/
def composeAgainSpec : ChangeSpec := { name := "composeAgain", fn := fun _ => fun
  | [d] => { results := [.lit (.bool true)], args := [d] }
  | _ => none }
def composeAgainRow : OpenClaim := { program := "ytnmcdiiiikbkaaadoor", sum := "6c02021415fbc3eca79e500adf25a5364532cdb5330819da1548dc8e6bf613b8", func := "gesso/gessolaw07.ComposeAgain", spec := "composeAgain", unfollowed := true, recurses := true, named := ["gesso/hangul.rows"], apart := false, laid := [("gesso/hangul.rows", laid_gesso_hangul_rows)] }
def ComposeAgainSaid : Prop := composeAgainRow.holds Tryd.pinned (OpenSpec.ofChange composeAgainSpec)

/-- ITS FALSE NEIGHBOUR: 'it returns false'. Refute it at one input. -/
def composeAgainWrong : ChangeSpec := { name := "composeAgain", fn := fun _ => fun
  | [d] => { results := [.lit (.bool false)], args := [d] }
  | _ => none }
def ComposeAgainWrongFalsely : Prop := composeAgainRow.holds Tryd.pinned (OpenSpec.ofChange composeAgainWrong)

/-- 'gessolaw07.ComposeParts': WHATEVER THE INPUT: true; the input reads as it did. -/
def composePartsSpec : ChangeSpec := { name := "composeParts", fn := fun _ => fun
  | [d1, d2] => { results := [.lit (.bool true)], args := [d1, d2] }
  | _ => none }
def composePartsRow : OpenClaim := { program := "ytnmcdiiiikbkaaadoor", sum := "6c02021415fbc3eca79e500adf25a5364532cdb5330819da1548dc8e6bf613b8", func := "gesso/gessolaw07.ComposeParts", spec := "composeParts", unfollowed := true, recurses := true, named := ["gesso/hangul.rows"], apart := false, laid := [("gesso/hangul.rows", laid_gesso_hangul_rows)] }
def ComposePartsSaid : Prop := composePartsRow.holds Tryd.pinned (OpenSpec.ofChange composePartsSpec)

/-- ITS FALSE NEIGHBOUR: 'it returns false'. Refute it at one input. -/
def composePartsWrong : ChangeSpec := { name := "composeParts", fn := fun _ => fun
  | [d1, d2] => { results := [.lit (.bool false)], args := [d1, d2] }
  | _ => none }
def ComposePartsWrongFalsely : Prop := composePartsRow.holds Tryd.pinned (OpenSpec.ofChange composePartsWrong)

/-- 'gessolaw07.ComposeFull': WHATEVER THE INPUT: true; the input reads as it did. -/
def composeFullSpec : ChangeSpec := { name := "composeFull", fn := fun _ => fun
  | [d] => { results := [.lit (.bool true)], args := [d] }
  | _ => none }
def composeFullRow : OpenClaim := { program := "ytnmcdiiiikbkaaadoor", sum := "6c02021415fbc3eca79e500adf25a5364532cdb5330819da1548dc8e6bf613b8", func := "gesso/gessolaw07.ComposeFull", spec := "composeFull", unfollowed := true, recurses := true, named := ["gesso/hangul.rows"], apart := false, laid := [("gesso/hangul.rows", laid_gesso_hangul_rows)] }
def ComposeFullSaid : Prop := composeFullRow.holds Tryd.pinned (OpenSpec.ofChange composeFullSpec)

/-- ITS FALSE NEIGHBOUR: 'it returns false'. Refute it at one input. -/
def composeFullWrong : ChangeSpec := { name := "composeFull", fn := fun _ => fun
  | [d] => { results := [.lit (.bool false)], args := [d] }
  | _ => none }
def ComposeFullWrongFalsely : Prop := composeFullRow.holds Tryd.pinned (OpenSpec.ofChange composeFullWrong)

/- THE SECOND FORM. 'bulk': how many values and letters a reading holds, each counted each time it is reached (what is shared counts as often as it is met; a slice's spare places count too). A statement '..UptoSaid' is the law's where the arguments, and the package variables that the reading takes, are together of bulk at most 1048576: NARROWER than '..Said'. Prove '..Said' where nothing that the law and all that it calls make is longer than what came in: it says more and counts as full. Else prove '..UptoSaid'. A law counts once. -/
mutual
def uptoBulk {H : Type} : DataW H → Nat
  | .lit (.string bytes) => bytes.length + 1
  | .lit _ => 1
  | .nil => 1
  | .ptr d => uptoBulk d + 1
  | .slice elems spare => uptoBulkAll elems + uptoBulkAll spare + 1
  | .agg parts => uptoBulkAll parts + 1
  | .iface _ d => uptoBulk d + 1
  | .map entries => uptoBulkEntries entries + 1
  | .held _ => 1
def uptoBulkAll {H : Type} : List (DataW H) → Nat
  | [] => 0
  | d :: r => uptoBulk d + uptoBulkAll r
def uptoBulkEntries {H : Type} : List (Lit × DataW H) → Nat
  | [] => 0
  | x :: r => uptoBulkEntry x + uptoBulkEntries r
def uptoBulkEntry {H : Type} : Lit × DataW H → Nat
  | (.string bytes, d) => bytes.length + uptoBulk d + 1
  | (_, d) => uptoBulk d + 1
 end
def uptoSmall : (H : Type) → List (DataW H) → Bool := fun _ ds => decide (uptoBulkAll ds ≤ 1048576)
def OpenSpec.upto (s : _root_.Go.ChangeSpec) : _root_.Go.OpenSpec := { _root_.Go.OpenSpec.ofChange s with cond := some uptoSmall }

/-- 'gessolaw05.DecompFulls', WHERE WHAT IT READS IS OF BULK AT MOST 1048576: true; the input reads as it did. -/
def decompFullsUptoRow : OpenClaim := { program := "ytnmcdiiiikbkaaadoor", sum := "6c02021415fbc3eca79e500adf25a5364532cdb5330819da1548dc8e6bf613b8", func := "gesso/gessolaw05.DecompFulls", spec := "decompFulls", unfollowed := true, recurses := true, named := ["gesso/hangul.rows"], apart := false, laid := [("gesso/hangul.rows", laid_gesso_hangul_rows)], narrowed := true }
def DecompFullsUptoSaid : Prop := decompFullsUptoRow.holds Tryd.pinned (OpenSpec.upto decompFullsSpec)

/-- 'gessolaw05.DecompLists', WHERE WHAT IT READS IS OF BULK AT MOST 1048576: true; the input reads as it did. -/
def decompListsUptoRow : OpenClaim := { program := "ytnmcdiiiikbkaaadoor", sum := "6c02021415fbc3eca79e500adf25a5364532cdb5330819da1548dc8e6bf613b8", func := "gesso/gessolaw05.DecompLists", spec := "decompLists", unfollowed := true, recurses := true, named := ["gesso/hangul.rows"], apart := false, laid := [("gesso/hangul.rows", laid_gesso_hangul_rows)], narrowed := true }
def DecompListsUptoSaid : Prop := decompListsUptoRow.holds Tryd.pinned (OpenSpec.upto decompListsSpec)

/-- 'gessolaw05.DecompAgain', WHERE WHAT IT READS IS OF BULK AT MOST 1048576: true; the input reads as it did. -/
def decompAgainUptoRow : OpenClaim := { program := "ytnmcdiiiikbkaaadoor", sum := "6c02021415fbc3eca79e500adf25a5364532cdb5330819da1548dc8e6bf613b8", func := "gesso/gessolaw05.DecompAgain", spec := "decompAgain", unfollowed := true, recurses := true, named := ["gesso/hangul.rows"], apart := false, laid := [("gesso/hangul.rows", laid_gesso_hangul_rows)], narrowed := true }
def DecompAgainUptoSaid : Prop := decompAgainUptoRow.holds Tryd.pinned (OpenSpec.upto decompAgainSpec)

/-- 'gessolaw05.DecompJoins', WHERE WHAT IT READS IS OF BULK AT MOST 1048576: true; the input reads as it did. -/
def decompJoinsUptoRow : OpenClaim := { program := "ytnmcdiiiikbkaaadoor", sum := "6c02021415fbc3eca79e500adf25a5364532cdb5330819da1548dc8e6bf613b8", func := "gesso/gessolaw05.DecompJoins", spec := "decompJoins", unfollowed := true, recurses := true, named := ["gesso/hangul.rows"], apart := false, laid := [("gesso/hangul.rows", laid_gesso_hangul_rows)], narrowed := true }
def DecompJoinsUptoSaid : Prop := decompJoinsUptoRow.holds Tryd.pinned (OpenSpec.upto decompJoinsSpec)

/-- 'gessolaw05.DecompHangul', WHERE WHAT IT READS IS OF BULK AT MOST 1048576: true; the input reads as it did. -/
def decompHangulUptoRow : OpenClaim := { program := "ytnmcdiiiikbkaaadoor", sum := "6c02021415fbc3eca79e500adf25a5364532cdb5330819da1548dc8e6bf613b8", func := "gesso/gessolaw05.DecompHangul", spec := "decompHangul", unfollowed := true, recurses := true, named := ["gesso/hangul.rows"], apart := false, laid := [("gesso/hangul.rows", laid_gesso_hangul_rows)], narrowed := true }
def DecompHangulUptoSaid : Prop := decompHangulUptoRow.holds Tryd.pinned (OpenSpec.upto decompHangulSpec)

/-- 'gessolaw06.OrderFull', WHERE WHAT IT READS IS OF BULK AT MOST 1048576: true; the input reads as it did. -/
def orderFullUptoRow : OpenClaim := { program := "ytnmcdiiiikbkaaadoor", sum := "6c02021415fbc3eca79e500adf25a5364532cdb5330819da1548dc8e6bf613b8", func := "gesso/gessolaw06.OrderFull", spec := "orderFull", unfollowed := true, recurses := true, named := ["gesso/hangul.rows"], apart := false, laid := [("gesso/hangul.rows", laid_gesso_hangul_rows)], narrowed := true }
def OrderFullUptoSaid : Prop := orderFullUptoRow.holds Tryd.pinned (OpenSpec.upto orderFullSpec)

/-- 'gessolaw07.ComposeTwos', WHERE WHAT IT READS IS OF BULK AT MOST 1048576: true; the input reads as it did. -/
def composeTwosUptoRow : OpenClaim := { program := "ytnmcdiiiikbkaaadoor", sum := "6c02021415fbc3eca79e500adf25a5364532cdb5330819da1548dc8e6bf613b8", func := "gesso/gessolaw07.ComposeTwos", spec := "composeTwos", unfollowed := true, recurses := true, named := ["gesso/hangul.rows"], apart := false, laid := [("gesso/hangul.rows", laid_gesso_hangul_rows)], narrowed := true }
def ComposeTwosUptoSaid : Prop := composeTwosUptoRow.holds Tryd.pinned (OpenSpec.upto composeTwosSpec)

/-- 'gessolaw07.ComposeLists', WHERE WHAT IT READS IS OF BULK AT MOST 1048576: true; the input reads as it did. -/
def composeListsUptoRow : OpenClaim := { program := "ytnmcdiiiikbkaaadoor", sum := "6c02021415fbc3eca79e500adf25a5364532cdb5330819da1548dc8e6bf613b8", func := "gesso/gessolaw07.ComposeLists", spec := "composeLists", unfollowed := true, recurses := true, named := ["gesso/hangul.rows"], apart := false, laid := [("gesso/hangul.rows", laid_gesso_hangul_rows)], narrowed := true }
def ComposeListsUptoSaid : Prop := composeListsUptoRow.holds Tryd.pinned (OpenSpec.upto composeListsSpec)

/-- 'gessolaw07.ComposeBack', WHERE WHAT IT READS IS OF BULK AT MOST 1048576: true; the input reads as it did. -/
def composeBackUptoRow : OpenClaim := { program := "ytnmcdiiiikbkaaadoor", sum := "6c02021415fbc3eca79e500adf25a5364532cdb5330819da1548dc8e6bf613b8", func := "gesso/gessolaw07.ComposeBack", spec := "composeBack", unfollowed := true, recurses := true, named := ["gesso/hangul.rows"], apart := false, laid := [("gesso/hangul.rows", laid_gesso_hangul_rows)], narrowed := true }
def ComposeBackUptoSaid : Prop := composeBackUptoRow.holds Tryd.pinned (OpenSpec.upto composeBackSpec)

/-- 'gessolaw07.ComposeAgain', WHERE WHAT IT READS IS OF BULK AT MOST 1048576: true; the input reads as it did. -/
def composeAgainUptoRow : OpenClaim := { program := "ytnmcdiiiikbkaaadoor", sum := "6c02021415fbc3eca79e500adf25a5364532cdb5330819da1548dc8e6bf613b8", func := "gesso/gessolaw07.ComposeAgain", spec := "composeAgain", unfollowed := true, recurses := true, named := ["gesso/hangul.rows"], apart := false, laid := [("gesso/hangul.rows", laid_gesso_hangul_rows)], narrowed := true }
def ComposeAgainUptoSaid : Prop := composeAgainUptoRow.holds Tryd.pinned (OpenSpec.upto composeAgainSpec)

/-- 'gessolaw07.ComposeParts', WHERE WHAT IT READS IS OF BULK AT MOST 1048576: true; the input reads as it did. -/
def composePartsUptoRow : OpenClaim := { program := "ytnmcdiiiikbkaaadoor", sum := "6c02021415fbc3eca79e500adf25a5364532cdb5330819da1548dc8e6bf613b8", func := "gesso/gessolaw07.ComposeParts", spec := "composeParts", unfollowed := true, recurses := true, named := ["gesso/hangul.rows"], apart := false, laid := [("gesso/hangul.rows", laid_gesso_hangul_rows)], narrowed := true }
def ComposePartsUptoSaid : Prop := composePartsUptoRow.holds Tryd.pinned (OpenSpec.upto composePartsSpec)

/-- 'gessolaw07.ComposeFull', WHERE WHAT IT READS IS OF BULK AT MOST 1048576: true; the input reads as it did. -/
def composeFullUptoRow : OpenClaim := { program := "ytnmcdiiiikbkaaadoor", sum := "6c02021415fbc3eca79e500adf25a5364532cdb5330819da1548dc8e6bf613b8", func := "gesso/gessolaw07.ComposeFull", spec := "composeFull", unfollowed := true, recurses := true, named := ["gesso/hangul.rows"], apart := false, laid := [("gesso/hangul.rows", laid_gesso_hangul_rows)], narrowed := true }
def ComposeFullUptoSaid : Prop := composeFullUptoRow.holds Tryd.pinned (OpenSpec.upto composeFullSpec)

end Rows
end Go.Proofs.YtnmcdiiiikbkaaaDoor
