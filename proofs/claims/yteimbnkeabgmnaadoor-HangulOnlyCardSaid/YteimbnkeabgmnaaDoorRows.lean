/-
  NARROWER THAN 'FOR EVERY INPUT', by the rows' own cells (each row's printed sentence says how): HangulSplits: laid · HangulPuts: laid · HangulJoins: laid · HangulBack: laid · HangulRow: laid · HangulOnly: laid.
  DERIVED. THE GIVEN ROWS OF THIS SEAT. 6 by the template 'for every input the law returns true; each argument reads behind the call as it read before'; 0 by the template 'total and deterministic' (their statements: YteimbnkeabgmnaaDoorTotals.lean).
  GIVEN WITH THE SEED: the statements are not yours to turn. If you find one false, say at which input.
  Laid BY PROGRAM, IN A SANDBOX (cutbox-rows.mjs): the forced cells as the released guide's own fill.sh prints them over the translation 59c1d559f33793c3… (all of the seat's roots in one cut). By AI agents, Wed Nov 11 2026. No macro, syntax, notation, axiom, sorry.
-/
import Derived.Test.YteimbnkeabgmnaaDoorChecked
import GoSem.Claim
import GoSem.ClaimJoined
import GoSem.ClaimMapViews
import Derived.JoinedTies
import Derived.KernelRfl
namespace Go.Proofs.YteimbnkeabgmnaaDoor
/- THE CELL 'sum', in the pinned program and in every row, IS THE sha256 OF THE DUMP (.gsa) THAT YteimbnkeabgmnaaDoorProg.lean LOADS. Nothing in Lean hashes anything: it is a label: what it is worth is what the hold of that sum in a sandbox is worth. -/
noncomputable def Tryd.pinned : Pinned := { name := "yteimbnkeabgmnaadoor", sum := "59c1d559f33793c3f0f57fade1d13819fa8e31003675a1463e05f150b80ff61f", checked := Tryd.checked }
namespace Rows
def none {H : Type} : Left H := { results := [], args := [] }

/- WHAT THE LISTED PACKAGE-LEVEL VARIABLES READ AS WHEN THE CALL BEGINS. Each datum BY PROGRAM (the guide's laid-datum.mjs) off the statement by which the dump's own 'gosem.cut.vars' lays the variable. In a bare row this is a premise. The card (YteimbnkeabgmnaaDoorCards.lean) ties it to the program's text. -/
def laid_gesso_hangul_rows {H : Type} : DataW H := .agg [.agg [.lit (.int .u32 4352), .lit (.int .u32 4370)], .agg [.lit (.int .u32 4449), .lit (.int .u32 4469)], .agg [.lit (.int .u32 4520), .lit (.int .u32 4546)], .agg [.lit (.int .u32 44032), .lit (.int .u32 55203)]]

/-- 'gessolaw04.HangulSplits': WHATEVER THE INPUT: true; the input reads as it did. -/
def hangulSplitsSpec : ChangeSpec := { name := "hangulSplits", fn := fun _ => fun
  | [d] => { results := [.lit (.bool true)], args := [d] }
  | _ => none }
def hangulSplitsRow : OpenClaim := { program := "yteimbnkeabgmnaadoor", sum := "59c1d559f33793c3f0f57fade1d13819fa8e31003675a1463e05f150b80ff61f", func := "gesso/gessolaw04.HangulSplits", spec := "hangulSplits", named := ["gesso/hangul.rows"], apart := false, laid := [("gesso/hangul.rows", laid_gesso_hangul_rows)] }
def HangulSplitsSaid : Prop := hangulSplitsRow.holds Tryd.pinned (OpenSpec.ofChange hangulSplitsSpec)

/-- ITS FALSE NEIGHBOUR: 'it returns false'. Refute it at one input. -/
def hangulSplitsWrong : ChangeSpec := { name := "hangulSplits", fn := fun _ => fun
  | [d] => { results := [.lit (.bool false)], args := [d] }
  | _ => none }
def HangulSplitsWrongFalsely : Prop := hangulSplitsRow.holds Tryd.pinned (OpenSpec.ofChange hangulSplitsWrong)

/-- 'gessolaw04.HangulPuts': WHATEVER THE INPUT: true; the input reads as it did. -/
def hangulPutsSpec : ChangeSpec := { name := "hangulPuts", fn := fun _ => fun
  | [d1, d2, d3] => { results := [.lit (.bool true)], args := [d1, d2, d3] }
  | _ => none }
def hangulPutsRow : OpenClaim := { program := "yteimbnkeabgmnaadoor", sum := "59c1d559f33793c3f0f57fade1d13819fa8e31003675a1463e05f150b80ff61f", func := "gesso/gessolaw04.HangulPuts", spec := "hangulPuts", named := ["gesso/hangul.rows"], apart := false, laid := [("gesso/hangul.rows", laid_gesso_hangul_rows)] }
def HangulPutsSaid : Prop := hangulPutsRow.holds Tryd.pinned (OpenSpec.ofChange hangulPutsSpec)

/-- ITS FALSE NEIGHBOUR: 'it returns false'. Refute it at one input. -/
def hangulPutsWrong : ChangeSpec := { name := "hangulPuts", fn := fun _ => fun
  | [d1, d2, d3] => { results := [.lit (.bool false)], args := [d1, d2, d3] }
  | _ => none }
def HangulPutsWrongFalsely : Prop := hangulPutsRow.holds Tryd.pinned (OpenSpec.ofChange hangulPutsWrong)

/-- 'gessolaw04.HangulJoins': WHATEVER THE INPUT: true; the input reads as it did. -/
def hangulJoinsSpec : ChangeSpec := { name := "hangulJoins", fn := fun _ => fun
  | [d1, d2] => { results := [.lit (.bool true)], args := [d1, d2] }
  | _ => none }
def hangulJoinsRow : OpenClaim := { program := "yteimbnkeabgmnaadoor", sum := "59c1d559f33793c3f0f57fade1d13819fa8e31003675a1463e05f150b80ff61f", func := "gesso/gessolaw04.HangulJoins", spec := "hangulJoins", named := ["gesso/hangul.rows"], apart := false, laid := [("gesso/hangul.rows", laid_gesso_hangul_rows)] }
def HangulJoinsSaid : Prop := hangulJoinsRow.holds Tryd.pinned (OpenSpec.ofChange hangulJoinsSpec)

/-- ITS FALSE NEIGHBOUR: 'it returns false'. Refute it at one input. -/
def hangulJoinsWrong : ChangeSpec := { name := "hangulJoins", fn := fun _ => fun
  | [d1, d2] => { results := [.lit (.bool false)], args := [d1, d2] }
  | _ => none }
def HangulJoinsWrongFalsely : Prop := hangulJoinsRow.holds Tryd.pinned (OpenSpec.ofChange hangulJoinsWrong)

/-- 'gessolaw04.HangulBack': WHATEVER THE INPUT: true; the input reads as it did. -/
def hangulBackSpec : ChangeSpec := { name := "hangulBack", fn := fun _ => fun
  | [d1, d2] => { results := [.lit (.bool true)], args := [d1, d2] }
  | _ => none }
def hangulBackRow : OpenClaim := { program := "yteimbnkeabgmnaadoor", sum := "59c1d559f33793c3f0f57fade1d13819fa8e31003675a1463e05f150b80ff61f", func := "gesso/gessolaw04.HangulBack", spec := "hangulBack", named := ["gesso/hangul.rows"], apart := false, laid := [("gesso/hangul.rows", laid_gesso_hangul_rows)] }
def HangulBackSaid : Prop := hangulBackRow.holds Tryd.pinned (OpenSpec.ofChange hangulBackSpec)

/-- ITS FALSE NEIGHBOUR: 'it returns false'. Refute it at one input. -/
def hangulBackWrong : ChangeSpec := { name := "hangulBack", fn := fun _ => fun
  | [d1, d2] => { results := [.lit (.bool false)], args := [d1, d2] }
  | _ => none }
def HangulBackWrongFalsely : Prop := hangulBackRow.holds Tryd.pinned (OpenSpec.ofChange hangulBackWrong)

/-- 'gessolaw04.HangulRow': WHATEVER THE INPUT: true; the input reads as it did. -/
def hangulRowSpec : ChangeSpec := { name := "hangulRow", fn := fun _ => fun
  | [d] => { results := [.lit (.bool true)], args := [d] }
  | _ => none }
def hangulRowRow : OpenClaim := { program := "yteimbnkeabgmnaadoor", sum := "59c1d559f33793c3f0f57fade1d13819fa8e31003675a1463e05f150b80ff61f", func := "gesso/gessolaw04.HangulRow", spec := "hangulRow", named := ["gesso/hangul.rows"], apart := false, laid := [("gesso/hangul.rows", laid_gesso_hangul_rows)] }
def HangulRowSaid : Prop := hangulRowRow.holds Tryd.pinned (OpenSpec.ofChange hangulRowSpec)

/-- ITS FALSE NEIGHBOUR: 'it returns false'. Refute it at one input. -/
def hangulRowWrong : ChangeSpec := { name := "hangulRow", fn := fun _ => fun
  | [d] => { results := [.lit (.bool false)], args := [d] }
  | _ => none }
def HangulRowWrongFalsely : Prop := hangulRowRow.holds Tryd.pinned (OpenSpec.ofChange hangulRowWrong)

/-- 'gessolaw04.HangulOnly': WHATEVER THE INPUT: true; the input reads as it did. -/
def hangulOnlySpec : ChangeSpec := { name := "hangulOnly", fn := fun _ => fun
  | [d1, d2] => { results := [.lit (.bool true)], args := [d1, d2] }
  | _ => none }
def hangulOnlyRow : OpenClaim := { program := "yteimbnkeabgmnaadoor", sum := "59c1d559f33793c3f0f57fade1d13819fa8e31003675a1463e05f150b80ff61f", func := "gesso/gessolaw04.HangulOnly", spec := "hangulOnly", named := ["gesso/hangul.rows"], apart := false, laid := [("gesso/hangul.rows", laid_gesso_hangul_rows)] }
def HangulOnlySaid : Prop := hangulOnlyRow.holds Tryd.pinned (OpenSpec.ofChange hangulOnlySpec)

/-- ITS FALSE NEIGHBOUR: 'it returns false'. Refute it at one input. -/
def hangulOnlyWrong : ChangeSpec := { name := "hangulOnly", fn := fun _ => fun
  | [d1, d2] => { results := [.lit (.bool false)], args := [d1, d2] }
  | _ => none }
def HangulOnlyWrongFalsely : Prop := hangulOnlyRow.holds Tryd.pinned (OpenSpec.ofChange hangulOnlyWrong)

/- THE SECOND FORM. 'bulk': how many values and letters a reading holds, each counted each time it is reached (what is shared counts as often as it is met; a slice's spare places count too). A statement '..UptoSaid' is the law's where the arguments, and the package variables that the reading takes, are together of bulk at most 1048576: NARROWER than '..Said'. Prove '..Said' where nothing that the law and all that it calls make is longer than what came in: it says more and counts as full. Else prove '..UptoSaid'. A law counts once. -/
mutual
def uptoBulk {H : Type} : DataW H → Nat
  | .lit (.string bytes) => bytes.length + 1
  | .lit _ => 1
  | .nil => 1
  | .ptr d => uptoBulk d + 1
  | .slice elems spare => uptoBulkAll elems + uptoBulkAll spare + 1
  | .agg parts => uptoBulkAll parts + 1
  | .iface _ d => uptoBulk d + 1
  | .map entries => uptoBulkEntries entries + 1
  | .held _ => 1
def uptoBulkAll {H : Type} : List (DataW H) → Nat
  | [] => 0
  | d :: r => uptoBulk d + uptoBulkAll r
def uptoBulkEntries {H : Type} : List (Lit × DataW H) → Nat
  | [] => 0
  | x :: r => uptoBulkEntry x + uptoBulkEntries r
def uptoBulkEntry {H : Type} : Lit × DataW H → Nat
  | (.string bytes, d) => bytes.length + uptoBulk d + 1
  | (_, d) => uptoBulk d + 1
 end
def uptoSmall : (H : Type) → List (DataW H) → Bool := fun _ ds => decide (uptoBulkAll ds ≤ 1048576)
def OpenSpec.upto (s : _root_.Go.ChangeSpec) : _root_.Go.OpenSpec := { _root_.Go.OpenSpec.ofChange s with cond := some uptoSmall }

/-- 'gessolaw04.HangulSplits', WHERE WHAT IT READS IS OF BULK AT MOST 1048576: true; the input reads as it did. -/
def hangulSplitsUptoRow : OpenClaim := { program := "yteimbnkeabgmnaadoor", sum := "59c1d559f33793c3f0f57fade1d13819fa8e31003675a1463e05f150b80ff61f", func := "gesso/gessolaw04.HangulSplits", spec := "hangulSplits", named := ["gesso/hangul.rows"], apart := false, laid := [("gesso/hangul.rows", laid_gesso_hangul_rows)], narrowed := true }
def HangulSplitsUptoSaid : Prop := hangulSplitsUptoRow.holds Tryd.pinned (OpenSpec.upto hangulSplitsSpec)

/-- 'gessolaw04.HangulPuts', WHERE WHAT IT READS IS OF BULK AT MOST 1048576: true; the input reads as it did. -/
def hangulPutsUptoRow : OpenClaim := { program := "yteimbnkeabgmnaadoor", sum := "59c1d559f33793c3f0f57fade1d13819fa8e31003675a1463e05f150b80ff61f", func := "gesso/gessolaw04.HangulPuts", spec := "hangulPuts", named := ["gesso/hangul.rows"], apart := false, laid := [("gesso/hangul.rows", laid_gesso_hangul_rows)], narrowed := true }
def HangulPutsUptoSaid : Prop := hangulPutsUptoRow.holds Tryd.pinned (OpenSpec.upto hangulPutsSpec)

/-- 'gessolaw04.HangulJoins', WHERE WHAT IT READS IS OF BULK AT MOST 1048576: true; the input reads as it did. -/
def hangulJoinsUptoRow : OpenClaim := { program := "yteimbnkeabgmnaadoor", sum := "59c1d559f33793c3f0f57fade1d13819fa8e31003675a1463e05f150b80ff61f", func := "gesso/gessolaw04.HangulJoins", spec := "hangulJoins", named := ["gesso/hangul.rows"], apart := false, laid := [("gesso/hangul.rows", laid_gesso_hangul_rows)], narrowed := true }
def HangulJoinsUptoSaid : Prop := hangulJoinsUptoRow.holds Tryd.pinned (OpenSpec.upto hangulJoinsSpec)

/-- 'gessolaw04.HangulBack', WHERE WHAT IT READS IS OF BULK AT MOST 1048576: true; the input reads as it did. -/
def hangulBackUptoRow : OpenClaim := { program := "yteimbnkeabgmnaadoor", sum := "59c1d559f33793c3f0f57fade1d13819fa8e31003675a1463e05f150b80ff61f", func := "gesso/gessolaw04.HangulBack", spec := "hangulBack", named := ["gesso/hangul.rows"], apart := false, laid := [("gesso/hangul.rows", laid_gesso_hangul_rows)], narrowed := true }
def HangulBackUptoSaid : Prop := hangulBackUptoRow.holds Tryd.pinned (OpenSpec.upto hangulBackSpec)

/-- 'gessolaw04.HangulRow', WHERE WHAT IT READS IS OF BULK AT MOST 1048576: true; the input reads as it did. -/
def hangulRowUptoRow : OpenClaim := { program := "yteimbnkeabgmnaadoor", sum := "59c1d559f33793c3f0f57fade1d13819fa8e31003675a1463e05f150b80ff61f", func := "gesso/gessolaw04.HangulRow", spec := "hangulRow", named := ["gesso/hangul.rows"], apart := false, laid := [("gesso/hangul.rows", laid_gesso_hangul_rows)], narrowed := true }
def HangulRowUptoSaid : Prop := hangulRowUptoRow.holds Tryd.pinned (OpenSpec.upto hangulRowSpec)

/-- 'gessolaw04.HangulOnly', WHERE WHAT IT READS IS OF BULK AT MOST 1048576: true; the input reads as it did. -/
def hangulOnlyUptoRow : OpenClaim := { program := "yteimbnkeabgmnaadoor", sum := "59c1d559f33793c3f0f57fade1d13819fa8e31003675a1463e05f150b80ff61f", func := "gesso/gessolaw04.HangulOnly", spec := "hangulOnly", named := ["gesso/hangul.rows"], apart := false, laid := [("gesso/hangul.rows", laid_gesso_hangul_rows)], narrowed := true }
def HangulOnlyUptoSaid : Prop := hangulOnlyUptoRow.holds Tryd.pinned (OpenSpec.upto hangulOnlySpec)

end Rows
end Go.Proofs.YteimbnkeabgmnaaDoor
