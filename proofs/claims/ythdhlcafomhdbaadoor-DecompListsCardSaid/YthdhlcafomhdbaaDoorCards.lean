/-
  DERIVED. GIVEN WITH THE SEED: THE CARDS: each row of YthdhlcafomhdbaaDoorRows.lean that lists a variable, with what it lists TIED to the program's text (the seventh form; the later family's looks); each row that meets fmt, with fmt's text TOLD by the authors' own Lean function (tested against real Go, not proved from fmt's source: count such statements apart). THE CARD IS WHAT COUNTS. Prove the row's statement (the work); the ties are given (YthdhlcafomhdbaaDoorTie.lean); close each card by the builder's one call (the guide's Derived/Test/ToyasCard.lean, 'card_holds'). Laid BY PROGRAM, IN A SANDBOX (cutbox-door.mjs). By AI agents, Wed Nov 11 2026. No macro, syntax, notation, axiom, sorry.
-/
import Derived.Test.YthdhlcafomhdbaaDoorRows
import GoSem.ClaimSeven
namespace Go.Proofs.YthdhlcafomhdbaaDoor
namespace Rows

/-- THE TIED CARD OF 'gessolaw05.DecompFulls'. -/
def decompFullsCard : Claim7 := { stood := { row := decompFullsRow, standIns := [], harness := (true, "3e9ae54e35cb5eae78fffaaa6ed42583bf73c0e585303008f8bcf69c5063c92a"), looks := false }, kinds := [], alts := [], laidByText := true, laidKinds := [.data], laidTests := true, laidLooks := .later }
def DecompFullsCardSaid : Prop := Claim7.holds Tryd.pinned (.plain (OpenSpec.ofChange decompFullsSpec)) decompFullsCard

/-- THE TIED CARD OF 'gessolaw05.DecompLists'. -/
def decompListsCard : Claim7 := { stood := { row := decompListsRow, standIns := [], harness := (true, "3e9ae54e35cb5eae78fffaaa6ed42583bf73c0e585303008f8bcf69c5063c92a"), looks := false }, kinds := [], alts := [], laidByText := true, laidKinds := [.data], laidTests := true, laidLooks := .later }
def DecompListsCardSaid : Prop := Claim7.holds Tryd.pinned (.plain (OpenSpec.ofChange decompListsSpec)) decompListsCard

/-- THE TIED CARD OF 'gessolaw05.DecompAgain'. -/
def decompAgainCard : Claim7 := { stood := { row := decompAgainRow, standIns := [], harness := (true, "3e9ae54e35cb5eae78fffaaa6ed42583bf73c0e585303008f8bcf69c5063c92a"), looks := false }, kinds := [], alts := [], laidByText := true, laidKinds := [.data], laidTests := true, laidLooks := .later }
def DecompAgainCardSaid : Prop := Claim7.holds Tryd.pinned (.plain (OpenSpec.ofChange decompAgainSpec)) decompAgainCard

/-- THE TIED CARD OF 'gessolaw05.DecompJoins'. -/
def decompJoinsCard : Claim7 := { stood := { row := decompJoinsRow, standIns := [], harness := (true, "3e9ae54e35cb5eae78fffaaa6ed42583bf73c0e585303008f8bcf69c5063c92a"), looks := false }, kinds := [], alts := [], laidByText := true, laidKinds := [.data], laidTests := true, laidLooks := .later }
def DecompJoinsCardSaid : Prop := Claim7.holds Tryd.pinned (.plain (OpenSpec.ofChange decompJoinsSpec)) decompJoinsCard

/-- THE TIED CARD OF 'gessolaw05.DecompHangul'. -/
def decompHangulCard : Claim7 := { stood := { row := decompHangulRow, standIns := [], harness := (true, "3e9ae54e35cb5eae78fffaaa6ed42583bf73c0e585303008f8bcf69c5063c92a"), looks := false }, kinds := [], alts := [], laidByText := true, laidKinds := [.data], laidTests := true, laidLooks := .later }
def DecompHangulCardSaid : Prop := Claim7.holds Tryd.pinned (.plain (OpenSpec.ofChange decompHangulSpec)) decompHangulCard

/-- THE SECOND FORM's CARD OF 'gessolaw05.DecompFulls'. -/
def decompFullsUptoCard : Claim7 := { stood := { row := decompFullsUptoRow, standIns := [], harness := (true, "3e9ae54e35cb5eae78fffaaa6ed42583bf73c0e585303008f8bcf69c5063c92a"), looks := false }, kinds := [], alts := [], laidByText := true, laidKinds := [.data], laidTests := true, laidLooks := .later }
def DecompFullsUptoCardSaid : Prop := Claim7.holds Tryd.pinned (.plain (OpenSpec.upto decompFullsSpec)) decompFullsUptoCard

/-- THE SECOND FORM's CARD OF 'gessolaw05.DecompLists'. -/
def decompListsUptoCard : Claim7 := { stood := { row := decompListsUptoRow, standIns := [], harness := (true, "3e9ae54e35cb5eae78fffaaa6ed42583bf73c0e585303008f8bcf69c5063c92a"), looks := false }, kinds := [], alts := [], laidByText := true, laidKinds := [.data], laidTests := true, laidLooks := .later }
def DecompListsUptoCardSaid : Prop := Claim7.holds Tryd.pinned (.plain (OpenSpec.upto decompListsSpec)) decompListsUptoCard

/-- THE SECOND FORM's CARD OF 'gessolaw05.DecompAgain'. -/
def decompAgainUptoCard : Claim7 := { stood := { row := decompAgainUptoRow, standIns := [], harness := (true, "3e9ae54e35cb5eae78fffaaa6ed42583bf73c0e585303008f8bcf69c5063c92a"), looks := false }, kinds := [], alts := [], laidByText := true, laidKinds := [.data], laidTests := true, laidLooks := .later }
def DecompAgainUptoCardSaid : Prop := Claim7.holds Tryd.pinned (.plain (OpenSpec.upto decompAgainSpec)) decompAgainUptoCard

/-- THE SECOND FORM's CARD OF 'gessolaw05.DecompJoins'. -/
def decompJoinsUptoCard : Claim7 := { stood := { row := decompJoinsUptoRow, standIns := [], harness := (true, "3e9ae54e35cb5eae78fffaaa6ed42583bf73c0e585303008f8bcf69c5063c92a"), looks := false }, kinds := [], alts := [], laidByText := true, laidKinds := [.data], laidTests := true, laidLooks := .later }
def DecompJoinsUptoCardSaid : Prop := Claim7.holds Tryd.pinned (.plain (OpenSpec.upto decompJoinsSpec)) decompJoinsUptoCard

/-- THE SECOND FORM's CARD OF 'gessolaw05.DecompHangul'. -/
def decompHangulUptoCard : Claim7 := { stood := { row := decompHangulUptoRow, standIns := [], harness := (true, "3e9ae54e35cb5eae78fffaaa6ed42583bf73c0e585303008f8bcf69c5063c92a"), looks := false }, kinds := [], alts := [], laidByText := true, laidKinds := [.data], laidTests := true, laidLooks := .later }
def DecompHangulUptoCardSaid : Prop := Claim7.holds Tryd.pinned (.plain (OpenSpec.upto decompHangulSpec)) decompHangulUptoCard
end Rows
end Go.Proofs.YthdhlcafomhdbaaDoor
