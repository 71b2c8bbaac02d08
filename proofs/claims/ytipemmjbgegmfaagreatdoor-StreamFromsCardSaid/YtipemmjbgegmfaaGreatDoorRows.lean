/-
  NARROWER THAN 'FOR EVERY INPUT', by the rows' own cells (each row's printed sentence says how): StreamWrites: laid · StreamFroms: laid.
  DERIVED. THE GIVEN ROWS OF THIS SEAT. 2 by the template 'for every input the law returns true; each argument reads behind the call as it read before'; 0 by the template 'total and deterministic' (their statements: YtipemmjbgegmfaaGreatDoorTotals.lean).
  GIVEN WITH THE SEED: the statements are not yours to turn. If you find one false, say at which input.
  Laid BY PROGRAM, IN A SANDBOX (cutbox-rows.mjs): the forced cells as the released guide's own fill.sh prints them over the translation c642e78b53accaaa… (all of the seat's roots in one cut). By AI agents, Wed Nov 11 2026. No macro, syntax, notation, axiom, sorry.
-/
import Derived.Test.YtipemmjbgegmfaaGreatDoorChecked
import GoSem.Claim
import GoSem.ClaimJoined
import GoSem.ClaimMapViews
import Derived.JoinedTies
import Derived.KernelRfl
namespace Go.Proofs.YtipemmjbgegmfaaGreatDoor
/- THE CELL 'sum', in the pinned program and in every row, IS THE sha256 OF THE DUMP (.gsa) THAT YtipemmjbgegmfaaGreatDoorProg.lean LOADS. Nothing in Lean hashes anything: it is a label: what it is worth is what the hold of that sum in a sandbox is worth. -/
noncomputable def Tryz.pinned : Pinned := { name := "ytipemmjbgegmfaagreatdoor", sum := "c642e78b53accaaa7e1355d29d20e3ad2b0cd4eacaf7d68a282270583b00c835", checked := Tryz.checked }
namespace Rows
def none {H : Type} : Left H := { results := [], args := [] }

/- WHAT THE LISTED PACKAGE-LEVEL VARIABLES READ AS WHEN THE CALL BEGINS. Each datum BY PROGRAM (the guide's laid-datum.mjs) off the statement by which the dump's own 'gosem.cut.vars' lays the variable. In a bare row this is a premise. The card (YtipemmjbgegmfaaGreatDoorCards.lean) ties it to the program's text. -/
def laid_gesso_hangul_rows {H : Type} : DataW H := .agg [.agg [.lit (.int .u32 4352), .lit (.int .u32 4370)], .agg [.lit (.int .u32 4449), .lit (.int .u32 4469)], .agg [.lit (.int .u32 4520), .lit (.int .u32 4546)], .agg [.lit (.int .u32 44032), .lit (.int .u32 55203)]]

/-- 'gessolaw10.StreamWrites': WHATEVER THE INPUT: true; the input reads as it did. -/
def streamWritesSpec : ChangeSpec := { name := "streamWrites", fn := fun _ => fun
  | [d1, d2] => { results := [.lit (.bool true)], args := [d1, d2] }
  | _ => none }
def streamWritesRow : OpenClaim := { program := "ytipemmjbgegmfaagreatdoor", sum := "c642e78b53accaaa7e1355d29d20e3ad2b0cd4eacaf7d68a282270583b00c835", func := "gesso/gessolaw10.StreamWrites", spec := "streamWrites", unfollowed := true, recurses := true, named := ["gesso/hangul.rows"], apart := false, laid := [("gesso/hangul.rows", laid_gesso_hangul_rows)] }
def StreamWritesSaid : Prop := streamWritesRow.holds Tryz.pinned (OpenSpec.ofChange streamWritesSpec)

/-- ITS FALSE NEIGHBOUR: 'it returns false'. Refute it at one input. -/
def streamWritesWrong : ChangeSpec := { name := "streamWrites", fn := fun _ => fun
  | [d1, d2] => { results := [.lit (.bool false)], args := [d1, d2] }
  | _ => none }
def StreamWritesWrongFalsely : Prop := streamWritesRow.holds Tryz.pinned (OpenSpec.ofChange streamWritesWrong)

/-- 'gessolaw10.StreamFroms': WHATEVER THE INPUT: true; the input reads as it did. -/
def streamFromsSpec : ChangeSpec := { name := "streamFroms", fn := fun _ => fun
  | [d1, d2] => { results := [.lit (.bool true)], args := [d1, d2] }
  | _ => none }
def streamFromsRow : OpenClaim := { program := "ytipemmjbgegmfaagreatdoor", sum := "c642e78b53accaaa7e1355d29d20e3ad2b0cd4eacaf7d68a282270583b00c835", func := "gesso/gessolaw10.StreamFroms", spec := "streamFroms", unfollowed := true, recurses := true, named := ["gesso/hangul.rows"], apart := false, laid := [("gesso/hangul.rows", laid_gesso_hangul_rows)] }
def StreamFromsSaid : Prop := streamFromsRow.holds Tryz.pinned (OpenSpec.ofChange streamFromsSpec)

/-- ITS FALSE NEIGHBOUR: 'it returns false'. Refute it at one input. -/
def streamFromsWrong : ChangeSpec := { name := "streamFroms", fn := fun _ => fun
  | [d1, d2] => { results := [.lit (.bool false)], args := [d1, d2] }
  | _ => none }
def StreamFromsWrongFalsely : Prop := streamFromsRow.holds Tryz.pinned (OpenSpec.ofChange streamFromsWrong)

/- THE SECOND FORM. 'bulk': how many values and letters a reading holds, each counted each time it is reached (what is shared counts as often as it is met; a slice's spare places count too). A statement '..UptoSaid' is the law's where the arguments, and the package variables that the reading takes, are together of bulk at most 1048576: NARROWER than '..Said'. Prove '..Said' where nothing that the law and all that it calls make is longer than what came in: it says more and counts as full. Else prove '..UptoSaid'. A law counts once. -/
mutual
def uptoBulk {H : Type} : DataW H → Nat
  | .lit (.string bytes) => bytes.length + 1
  | .lit _ => 1
  | .nil => 1
  | .ptr d => uptoBulk d + 1
  | .slice elems spare => uptoBulkAll elems + uptoBulkAll spare + 1
  | .agg parts => uptoBulkAll parts + 1
  | .iface _ d => uptoBulk d + 1
  | .map entries => uptoBulkEntries entries + 1
  | .held _ => 1
def uptoBulkAll {H : Type} : List (DataW H) → Nat
  | [] => 0
  | d :: r => uptoBulk d + uptoBulkAll r
def uptoBulkEntries {H : Type} : List (Lit × DataW H) → Nat
  | [] => 0
  | x :: r => uptoBulkEntry x + uptoBulkEntries r
def uptoBulkEntry {H : Type} : Lit × DataW H → Nat
  | (.string bytes, d) => bytes.length + uptoBulk d + 1
  | (_, d) => uptoBulk d + 1
 end
def uptoSmall : (H : Type) → List (DataW H) → Bool := fun _ ds => decide (uptoBulkAll ds ≤ 1048576)
def OpenSpec.upto (s : _root_.Go.ChangeSpec) : _root_.Go.OpenSpec := { _root_.Go.OpenSpec.ofChange s with cond := some uptoSmall }

/-- 'gessolaw10.StreamWrites', WHERE WHAT IT READS IS OF BULK AT MOST 1048576: true; the input reads as it did. -/
def streamWritesUptoRow : OpenClaim := { program := "ytipemmjbgegmfaagreatdoor", sum := "c642e78b53accaaa7e1355d29d20e3ad2b0cd4eacaf7d68a282270583b00c835", func := "gesso/gessolaw10.StreamWrites", spec := "streamWrites", unfollowed := true, recurses := true, named := ["gesso/hangul.rows"], apart := false, laid := [("gesso/hangul.rows", laid_gesso_hangul_rows)], narrowed := true }
def StreamWritesUptoSaid : Prop := streamWritesUptoRow.holds Tryz.pinned (OpenSpec.upto streamWritesSpec)

/-- 'gessolaw10.StreamFroms', WHERE WHAT IT READS IS OF BULK AT MOST 1048576: true; the input reads as it did. -/
def streamFromsUptoRow : OpenClaim := { program := "ytipemmjbgegmfaagreatdoor", sum := "c642e78b53accaaa7e1355d29d20e3ad2b0cd4eacaf7d68a282270583b00c835", func := "gesso/gessolaw10.StreamFroms", spec := "streamFroms", unfollowed := true, recurses := true, named := ["gesso/hangul.rows"], apart := false, laid := [("gesso/hangul.rows", laid_gesso_hangul_rows)], narrowed := true }
def StreamFromsUptoSaid : Prop := streamFromsUptoRow.holds Tryz.pinned (OpenSpec.upto streamFromsSpec)

end Rows
end Go.Proofs.YtipemmjbgegmfaaGreatDoor
