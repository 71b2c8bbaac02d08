/-
  No cell of these rows narrows 'for every input' (looked for: loops, veiled, ifaces, maps, wideKeys, modest, calm, conditions, laid).
  DERIVED. THE GIVEN ROWS OF THIS SEAT. 6 by the template 'for every input the law returns true; each argument reads behind the call as it read before'; 0 by the template 'total and deterministic' (their statements: YtdkegfookbgicaaTotals.lean).
  GIVEN WITH THE SEED: the statements are not yours to turn. If you find one false, say at which input.
  Laid BY PROGRAM, IN A SANDBOX (cutbox-rows.mjs): the forced cells as the released guide's own fill.sh prints them over the translation 33c1c46c7ed78dc4… (all of the seat's roots in one cut). By AI agents, Wed Nov 11 2026. No macro, syntax, notation, axiom, sorry.
-/
import Derived.Test.YtdkegfookbgicaaChecked
import GoSem.Claim
import GoSem.ClaimJoined
import GoSem.ClaimMapViews
import Derived.JoinedTies
import Derived.KernelRfl
namespace Go.Proofs.Ytdkegfookbgicaa
/- THE CELL 'sum', in the pinned program and in every row, IS THE sha256 OF THE DUMP (.gsa) THAT YtdkegfookbgicaaProg.lean LOADS. Nothing in Lean hashes anything: it is a label: what it is worth is what the hold of that sum in a sandbox is worth. -/
noncomputable def Try.pinned : Pinned := { name := "ytdkegfookbgicaa", sum := "33c1c46c7ed78dc4e75d5bc6c15f7e60baa7ea9d285ca935fb5bfe6b6a1bf6bd", checked := Try.checked }
namespace Rows
def none {H : Type} : Left H := { results := [], args := [] }

/-- 'gessolaw02.ScanOpens': WHATEVER THE INPUT: true; the input reads as it did. -/
def scanOpensSpec : ChangeSpec := { name := "scanOpens", fn := fun _ => fun
  | [d] => { results := [.lit (.bool true)], args := [d] }
  | _ => none }
def scanOpensRow : OpenClaim := { program := "ytdkegfookbgicaa", sum := "33c1c46c7ed78dc4e75d5bc6c15f7e60baa7ea9d285ca935fb5bfe6b6a1bf6bd", func := "gesso/gessolaw02.ScanOpens", spec := "scanOpens", unfollowed := true, recurses := true, apart := false }
def ScanOpensSaid : Prop := scanOpensRow.holds Try.pinned (OpenSpec.ofChange scanOpensSpec)

/-- ITS FALSE NEIGHBOUR: 'it returns false'. Refute it at one input. -/
def scanOpensWrong : ChangeSpec := { name := "scanOpens", fn := fun _ => fun
  | [d] => { results := [.lit (.bool false)], args := [d] }
  | _ => none }
def ScanOpensWrongFalsely : Prop := scanOpensRow.holds Try.pinned (OpenSpec.ofChange scanOpensWrong)

/-- 'gessolaw02.ScanFeeds': WHATEVER THE INPUT: true; the input reads as it did. -/
def scanFeedsSpec : ChangeSpec := { name := "scanFeeds", fn := fun _ => fun
  | [d] => { results := [.lit (.bool true)], args := [d] }
  | _ => none }
def scanFeedsRow : OpenClaim := { program := "ytdkegfookbgicaa", sum := "33c1c46c7ed78dc4e75d5bc6c15f7e60baa7ea9d285ca935fb5bfe6b6a1bf6bd", func := "gesso/gessolaw02.ScanFeeds", spec := "scanFeeds", unfollowed := true, recurses := true, apart := false }
def ScanFeedsSaid : Prop := scanFeedsRow.holds Try.pinned (OpenSpec.ofChange scanFeedsSpec)

/-- ITS FALSE NEIGHBOUR: 'it returns false'. Refute it at one input. -/
def scanFeedsWrong : ChangeSpec := { name := "scanFeeds", fn := fun _ => fun
  | [d] => { results := [.lit (.bool false)], args := [d] }
  | _ => none }
def ScanFeedsWrongFalsely : Prop := scanFeedsRow.holds Try.pinned (OpenSpec.ofChange scanFeedsWrong)

/-- 'gessolaw02.ScanGoes': WHATEVER THE INPUT: true; the input reads as it did. -/
def scanGoesSpec : ChangeSpec := { name := "scanGoes", fn := fun _ => fun
  | [d1, d2] => { results := [.lit (.bool true)], args := [d1, d2] }
  | _ => none }
def scanGoesRow : OpenClaim := { program := "ytdkegfookbgicaa", sum := "33c1c46c7ed78dc4e75d5bc6c15f7e60baa7ea9d285ca935fb5bfe6b6a1bf6bd", func := "gesso/gessolaw02.ScanGoes", spec := "scanGoes", unfollowed := true, recurses := true, apart := false }
def ScanGoesSaid : Prop := scanGoesRow.holds Try.pinned (OpenSpec.ofChange scanGoesSpec)

/-- ITS FALSE NEIGHBOUR: 'it returns false'. Refute it at one input. -/
def scanGoesWrong : ChangeSpec := { name := "scanGoes", fn := fun _ => fun
  | [d1, d2] => { results := [.lit (.bool false)], args := [d1, d2] }
  | _ => none }
def ScanGoesWrongFalsely : Prop := scanGoesRow.holds Try.pinned (OpenSpec.ofChange scanGoesWrong)

/-- 'gessolaw02.ScanCuts': WHATEVER THE INPUT: true; the input reads as it did. -/
def scanCutsSpec : ChangeSpec := { name := "scanCuts", fn := fun _ => fun
  | [d1, d2] => { results := [.lit (.bool true)], args := [d1, d2] }
  | _ => none }
def scanCutsRow : OpenClaim := { program := "ytdkegfookbgicaa", sum := "33c1c46c7ed78dc4e75d5bc6c15f7e60baa7ea9d285ca935fb5bfe6b6a1bf6bd", func := "gesso/gessolaw02.ScanCuts", spec := "scanCuts", unfollowed := true, recurses := true, apart := false }
def ScanCutsSaid : Prop := scanCutsRow.holds Try.pinned (OpenSpec.ofChange scanCutsSpec)

/-- ITS FALSE NEIGHBOUR: 'it returns false'. Refute it at one input. -/
def scanCutsWrong : ChangeSpec := { name := "scanCuts", fn := fun _ => fun
  | [d1, d2] => { results := [.lit (.bool false)], args := [d1, d2] }
  | _ => none }
def ScanCutsWrongFalsely : Prop := scanCutsRow.holds Try.pinned (OpenSpec.ofChange scanCutsWrong)

/-- 'gessolaw02.ScanStays': WHATEVER THE INPUT: true; the input reads as it did. -/
def scanStaysSpec : ChangeSpec := { name := "scanStays", fn := fun _ => fun
  | [d1, d2] => { results := [.lit (.bool true)], args := [d1, d2] }
  | _ => none }
def scanStaysRow : OpenClaim := { program := "ytdkegfookbgicaa", sum := "33c1c46c7ed78dc4e75d5bc6c15f7e60baa7ea9d285ca935fb5bfe6b6a1bf6bd", func := "gesso/gessolaw02.ScanStays", spec := "scanStays", unfollowed := true, recurses := true, apart := false }
def ScanStaysSaid : Prop := scanStaysRow.holds Try.pinned (OpenSpec.ofChange scanStaysSpec)

/-- ITS FALSE NEIGHBOUR: 'it returns false'. Refute it at one input. -/
def scanStaysWrong : ChangeSpec := { name := "scanStays", fn := fun _ => fun
  | [d1, d2] => { results := [.lit (.bool false)], args := [d1, d2] }
  | _ => none }
def ScanStaysWrongFalsely : Prop := scanStaysRow.holds Try.pinned (OpenSpec.ofChange scanStaysWrong)

/-- 'gessolaw02.ScanBytes': WHATEVER THE INPUT: true; the input reads as it did. -/
def scanBytesSpec : ChangeSpec := { name := "scanBytes", fn := fun _ => fun
  | [d] => { results := [.lit (.bool true)], args := [d] }
  | _ => none }
def scanBytesRow : OpenClaim := { program := "ytdkegfookbgicaa", sum := "33c1c46c7ed78dc4e75d5bc6c15f7e60baa7ea9d285ca935fb5bfe6b6a1bf6bd", func := "gesso/gessolaw02.ScanBytes", spec := "scanBytes", unfollowed := true, recurses := true, apart := false }
def ScanBytesSaid : Prop := scanBytesRow.holds Try.pinned (OpenSpec.ofChange scanBytesSpec)

/-- ITS FALSE NEIGHBOUR: 'it returns false'. Refute it at one input. -/
def scanBytesWrong : ChangeSpec := { name := "scanBytes", fn := fun _ => fun
  | [d] => { results := [.lit (.bool false)], args := [d] }
  | _ => none }
def ScanBytesWrongFalsely : Prop := scanBytesRow.holds Try.pinned (OpenSpec.ofChange scanBytesWrong)

/- THE SECOND FORM. 'bulk': how many values and letters a reading holds, each counted each time it is reached (what is shared counts as often as it is met; a slice's spare places count too). A statement '..UptoSaid' is the law's where the arguments, and the package variables that the reading takes, are together of bulk at most 1048576: NARROWER than '..Said'. Prove '..Said' where nothing that the law and all that it calls make is longer than what came in: it says more and counts as full. Else prove '..UptoSaid'. A law counts once. -/
mutual
def uptoBulk {H : Type} : DataW H → Nat
  | .lit (.string bytes) => bytes.length + 1
  | .lit _ => 1
  | .nil => 1
  | .ptr d => uptoBulk d + 1
  | .slice elems spare => uptoBulkAll elems + uptoBulkAll spare + 1
  | .agg parts => uptoBulkAll parts + 1
  | .iface _ d => uptoBulk d + 1
  | .map entries => uptoBulkEntries entries + 1
  | .held _ => 1
def uptoBulkAll {H : Type} : List (DataW H) → Nat
  | [] => 0
  | d :: r => uptoBulk d + uptoBulkAll r
def uptoBulkEntries {H : Type} : List (Lit × DataW H) → Nat
  | [] => 0
  | x :: r => uptoBulkEntry x + uptoBulkEntries r
def uptoBulkEntry {H : Type} : Lit × DataW H → Nat
  | (.string bytes, d) => bytes.length + uptoBulk d + 1
  | (_, d) => uptoBulk d + 1
 end
def uptoSmall : (H : Type) → List (DataW H) → Bool := fun _ ds => decide (uptoBulkAll ds ≤ 1048576)
def OpenSpec.upto (s : _root_.Go.ChangeSpec) : _root_.Go.OpenSpec := { _root_.Go.OpenSpec.ofChange s with cond := some uptoSmall }

/-- 'gessolaw02.ScanOpens', WHERE WHAT IT READS IS OF BULK AT MOST 1048576: true; the input reads as it did. -/
def scanOpensUptoRow : OpenClaim := { program := "ytdkegfookbgicaa", sum := "33c1c46c7ed78dc4e75d5bc6c15f7e60baa7ea9d285ca935fb5bfe6b6a1bf6bd", func := "gesso/gessolaw02.ScanOpens", spec := "scanOpens", unfollowed := true, recurses := true, apart := false, narrowed := true }
def ScanOpensUptoSaid : Prop := scanOpensUptoRow.holds Try.pinned (OpenSpec.upto scanOpensSpec)

/-- 'gessolaw02.ScanFeeds', WHERE WHAT IT READS IS OF BULK AT MOST 1048576: true; the input reads as it did. -/
def scanFeedsUptoRow : OpenClaim := { program := "ytdkegfookbgicaa", sum := "33c1c46c7ed78dc4e75d5bc6c15f7e60baa7ea9d285ca935fb5bfe6b6a1bf6bd", func := "gesso/gessolaw02.ScanFeeds", spec := "scanFeeds", unfollowed := true, recurses := true, apart := false, narrowed := true }
def ScanFeedsUptoSaid : Prop := scanFeedsUptoRow.holds Try.pinned (OpenSpec.upto scanFeedsSpec)

/-- 'gessolaw02.ScanGoes', WHERE WHAT IT READS IS OF BULK AT MOST 1048576: true; the input reads as it did. -/
def scanGoesUptoRow : OpenClaim := { program := "ytdkegfookbgicaa", sum := "33c1c46c7ed78dc4e75d5bc6c15f7e60baa7ea9d285ca935fb5bfe6b6a1bf6bd", func := "gesso/gessolaw02.ScanGoes", spec := "scanGoes", unfollowed := true, recurses := true, apart := false, narrowed := true }
def ScanGoesUptoSaid : Prop := scanGoesUptoRow.holds Try.pinned (OpenSpec.upto scanGoesSpec)

/-- 'gessolaw02.ScanCuts', WHERE WHAT IT READS IS OF BULK AT MOST 1048576: true; the input reads as it did. -/
def scanCutsUptoRow : OpenClaim := { program := "ytdkegfookbgicaa", sum := "33c1c46c7ed78dc4e75d5bc6c15f7e60baa7ea9d285ca935fb5bfe6b6a1bf6bd", func := "gesso/gessolaw02.ScanCuts", spec := "scanCuts", unfollowed := true, recurses := true, apart := false, narrowed := true }
def ScanCutsUptoSaid : Prop := scanCutsUptoRow.holds Try.pinned (OpenSpec.upto scanCutsSpec)

/-- 'gessolaw02.ScanStays', WHERE WHAT IT READS IS OF BULK AT MOST 1048576: true; the input reads as it did. -/
def scanStaysUptoRow : OpenClaim := { program := "ytdkegfookbgicaa", sum := "33c1c46c7ed78dc4e75d5bc6c15f7e60baa7ea9d285ca935fb5bfe6b6a1bf6bd", func := "gesso/gessolaw02.ScanStays", spec := "scanStays", unfollowed := true, recurses := true, apart := false, narrowed := true }
def ScanStaysUptoSaid : Prop := scanStaysUptoRow.holds Try.pinned (OpenSpec.upto scanStaysSpec)

/-- 'gessolaw02.ScanBytes', WHERE WHAT IT READS IS OF BULK AT MOST 1048576: true; the input reads as it did. -/
def scanBytesUptoRow : OpenClaim := { program := "ytdkegfookbgicaa", sum := "33c1c46c7ed78dc4e75d5bc6c15f7e60baa7ea9d285ca935fb5bfe6b6a1bf6bd", func := "gesso/gessolaw02.ScanBytes", spec := "scanBytes", unfollowed := true, recurses := true, apart := false, narrowed := true }
def ScanBytesUptoSaid : Prop := scanBytesUptoRow.holds Try.pinned (OpenSpec.upto scanBytesSpec)

end Rows
end Go.Proofs.Ytdkegfookbgicaa
