/-
  DERIVED. GIVEN WITH THE SEED: THE CARDS: each row of YtnmcdiiiikbkaaaDoorRows.lean that lists a variable, with what it lists TIED to the program's text (the seventh form; the later family's looks); each row that meets fmt, with fmt's text TOLD by the authors' own Lean function (tested against real Go, not proved from fmt's source: count such statements apart). THE CARD IS WHAT COUNTS. Prove the row's statement (the work); the ties are given (YtnmcdiiiikbkaaaDoorTie.lean); close each card by the builder's one call (the guide's Derived/Test/ToyasCard.lean, 'card_holds'). Laid BY PROGRAM, IN A SANDBOX (cutbox-door.mjs). By AI agents, Wed Nov 11 2026. No macro, syntax, notation, axiom, sorry.
-/
import Derived.Test.YtnmcdiiiikbkaaaDoorRows
import GoSem.ClaimSeven
namespace Go.Proofs.YtnmcdiiiikbkaaaDoor
namespace Rows

/-- THE TIED CARD OF 'gessolaw05.DecompFulls'. -/
def decompFullsCard : Claim7 := { stood := { row := decompFullsRow, standIns := [], harness := (true, "6556d66ed4eee483a9086451fa14517997300b2ab233710babd73e825bd0ef5b"), looks := false }, kinds := [], alts := [], laidByText := true, laidKinds := [.data], laidTests := true, laidLooks := .later }
def DecompFullsCardSaid : Prop := Claim7.holds Tryd.pinned (.plain (OpenSpec.ofChange decompFullsSpec)) decompFullsCard

/-- THE TIED CARD OF 'gessolaw05.DecompLists'. -/
def decompListsCard : Claim7 := { stood := { row := decompListsRow, standIns := [], harness := (true, "6556d66ed4eee483a9086451fa14517997300b2ab233710babd73e825bd0ef5b"), looks := false }, kinds := [], alts := [], laidByText := true, laidKinds := [.data], laidTests := true, laidLooks := .later }
def DecompListsCardSaid : Prop := Claim7.holds Tryd.pinned (.plain (OpenSpec.ofChange decompListsSpec)) decompListsCard

/-- THE TIED CARD OF 'gessolaw05.DecompAgain'. -/
def decompAgainCard : Claim7 := { stood := { row := decompAgainRow, standIns := [], harness := (true, "6556d66ed4eee483a9086451fa14517997300b2ab233710babd73e825bd0ef5b"), looks := false }, kinds := [], alts := [], laidByText := true, laidKinds := [.data], laidTests := true, laidLooks := .later }
def DecompAgainCardSaid : Prop := Claim7.holds Tryd.pinned (.plain (OpenSpec.ofChange decompAgainSpec)) decompAgainCard

/-- THE TIED CARD OF 'gessolaw05.DecompJoins'. -/
def decompJoinsCard : Claim7 := { stood := { row := decompJoinsRow, standIns := [], harness := (true, "6556d66ed4eee483a9086451fa14517997300b2ab233710babd73e825bd0ef5b"), looks := false }, kinds := [], alts := [], laidByText := true, laidKinds := [.data], laidTests := true, laidLooks := .later }
def DecompJoinsCardSaid : Prop := Claim7.holds Tryd.pinned (.plain (OpenSpec.ofChange decompJoinsSpec)) decompJoinsCard

/-- THE TIED CARD OF 'gessolaw05.DecompHangul'. -/
def decompHangulCard : Claim7 := { stood := { row := decompHangulRow, standIns := [], harness := (true, "6556d66ed4eee483a9086451fa14517997300b2ab233710babd73e825bd0ef5b"), looks := false }, kinds := [], alts := [], laidByText := true, laidKinds := [.data], laidTests := true, laidLooks := .later }
def DecompHangulCardSaid : Prop := Claim7.holds Tryd.pinned (.plain (OpenSpec.ofChange decompHangulSpec)) decompHangulCard

/-- THE TIED CARD OF 'gessolaw06.OrderFull'. -/
def orderFullCard : Claim7 := { stood := { row := orderFullRow, standIns := [], harness := (true, "6556d66ed4eee483a9086451fa14517997300b2ab233710babd73e825bd0ef5b"), looks := false }, kinds := [], alts := [], laidByText := true, laidKinds := [.data], laidTests := true, laidLooks := .later }
def OrderFullCardSaid : Prop := Claim7.holds Tryd.pinned (.plain (OpenSpec.ofChange orderFullSpec)) orderFullCard

/-- THE TIED CARD OF 'gessolaw07.ComposeTwos'. -/
def composeTwosCard : Claim7 := { stood := { row := composeTwosRow, standIns := [], harness := (true, "6556d66ed4eee483a9086451fa14517997300b2ab233710babd73e825bd0ef5b"), looks := false }, kinds := [], alts := [], laidByText := true, laidKinds := [.data], laidTests := true, laidLooks := .later }
def ComposeTwosCardSaid : Prop := Claim7.holds Tryd.pinned (.plain (OpenSpec.ofChange composeTwosSpec)) composeTwosCard

/-- THE TIED CARD OF 'gessolaw07.ComposeLists'. -/
def composeListsCard : Claim7 := { stood := { row := composeListsRow, standIns := [], harness := (true, "6556d66ed4eee483a9086451fa14517997300b2ab233710babd73e825bd0ef5b"), looks := false }, kinds := [], alts := [], laidByText := true, laidKinds := [.data], laidTests := true, laidLooks := .later }
def ComposeListsCardSaid : Prop := Claim7.holds Tryd.pinned (.plain (OpenSpec.ofChange composeListsSpec)) composeListsCard

/-- THE TIED CARD OF 'gessolaw07.ComposeBack'. -/
def composeBackCard : Claim7 := { stood := { row := composeBackRow, standIns := [], harness := (true, "6556d66ed4eee483a9086451fa14517997300b2ab233710babd73e825bd0ef5b"), looks := false }, kinds := [], alts := [], laidByText := true, laidKinds := [.data], laidTests := true, laidLooks := .later }
def ComposeBackCardSaid : Prop := Claim7.holds Tryd.pinned (.plain (OpenSpec.ofChange composeBackSpec)) composeBackCard

/-- THE TIED CARD OF 'gessolaw07.ComposeAgain'. -/
def composeAgainCard : Claim7 := { stood := { row := composeAgainRow, standIns := [], harness := (true, "6556d66ed4eee483a9086451fa14517997300b2ab233710babd73e825bd0ef5b"), looks := false }, kinds := [], alts := [], laidByText := true, laidKinds := [.data], laidTests := true, laidLooks := .later }
def ComposeAgainCardSaid : Prop := Claim7.holds Tryd.pinned (.plain (OpenSpec.ofChange composeAgainSpec)) composeAgainCard

/-- THE TIED CARD OF 'gessolaw07.ComposeParts'. -/
def composePartsCard : Claim7 := { stood := { row := composePartsRow, standIns := [], harness := (true, "6556d66ed4eee483a9086451fa14517997300b2ab233710babd73e825bd0ef5b"), looks := false }, kinds := [], alts := [], laidByText := true, laidKinds := [.data], laidTests := true, laidLooks := .later }
def ComposePartsCardSaid : Prop := Claim7.holds Tryd.pinned (.plain (OpenSpec.ofChange composePartsSpec)) composePartsCard

/-- THE TIED CARD OF 'gessolaw07.ComposeFull'. -/
def composeFullCard : Claim7 := { stood := { row := composeFullRow, standIns := [], harness := (true, "6556d66ed4eee483a9086451fa14517997300b2ab233710babd73e825bd0ef5b"), looks := false }, kinds := [], alts := [], laidByText := true, laidKinds := [.data], laidTests := true, laidLooks := .later }
def ComposeFullCardSaid : Prop := Claim7.holds Tryd.pinned (.plain (OpenSpec.ofChange composeFullSpec)) composeFullCard

/-- THE SECOND FORM's CARD OF 'gessolaw05.DecompFulls'. -/
def decompFullsUptoCard : Claim7 := { stood := { row := decompFullsUptoRow, standIns := [], harness := (true, "6556d66ed4eee483a9086451fa14517997300b2ab233710babd73e825bd0ef5b"), looks := false }, kinds := [], alts := [], laidByText := true, laidKinds := [.data], laidTests := true, laidLooks := .later }
def DecompFullsUptoCardSaid : Prop := Claim7.holds Tryd.pinned (.plain (OpenSpec.upto decompFullsSpec)) decompFullsUptoCard

/-- THE SECOND FORM's CARD OF 'gessolaw05.DecompLists'. -/
def decompListsUptoCard : Claim7 := { stood := { row := decompListsUptoRow, standIns := [], harness := (true, "6556d66ed4eee483a9086451fa14517997300b2ab233710babd73e825bd0ef5b"), looks := false }, kinds := [], alts := [], laidByText := true, laidKinds := [.data], laidTests := true, laidLooks := .later }
def DecompListsUptoCardSaid : Prop := Claim7.holds Tryd.pinned (.plain (OpenSpec.upto decompListsSpec)) decompListsUptoCard

/-- THE SECOND FORM's CARD OF 'gessolaw05.DecompAgain'. -/
def decompAgainUptoCard : Claim7 := { stood := { row := decompAgainUptoRow, standIns := [], harness := (true, "6556d66ed4eee483a9086451fa14517997300b2ab233710babd73e825bd0ef5b"), looks := false }, kinds := [], alts := [], laidByText := true, laidKinds := [.data], laidTests := true, laidLooks := .later }
def DecompAgainUptoCardSaid : Prop := Claim7.holds Tryd.pinned (.plain (OpenSpec.upto decompAgainSpec)) decompAgainUptoCard

/-- THE SECOND FORM's CARD OF 'gessolaw05.DecompJoins'. -/
def decompJoinsUptoCard : Claim7 := { stood := { row := decompJoinsUptoRow, standIns := [], harness := (true, "6556d66ed4eee483a9086451fa14517997300b2ab233710babd73e825bd0ef5b"), looks := false }, kinds := [], alts := [], laidByText := true, laidKinds := [.data], laidTests := true, laidLooks := .later }
def DecompJoinsUptoCardSaid : Prop := Claim7.holds Tryd.pinned (.plain (OpenSpec.upto decompJoinsSpec)) decompJoinsUptoCard

/-- THE SECOND FORM's CARD OF 'gessolaw05.DecompHangul'. -/
def decompHangulUptoCard : Claim7 := { stood := { row := decompHangulUptoRow, standIns := [], harness := (true, "6556d66ed4eee483a9086451fa14517997300b2ab233710babd73e825bd0ef5b"), looks := false }, kinds := [], alts := [], laidByText := true, laidKinds := [.data], laidTests := true, laidLooks := .later }
def DecompHangulUptoCardSaid : Prop := Claim7.holds Tryd.pinned (.plain (OpenSpec.upto decompHangulSpec)) decompHangulUptoCard

/-- THE SECOND FORM's CARD OF 'gessolaw06.OrderFull'. -/
def orderFullUptoCard : Claim7 := { stood := { row := orderFullUptoRow, standIns := [], harness := (true, "6556d66ed4eee483a9086451fa14517997300b2ab233710babd73e825bd0ef5b"), looks := false }, kinds := [], alts := [], laidByText := true, laidKinds := [.data], laidTests := true, laidLooks := .later }
def OrderFullUptoCardSaid : Prop := Claim7.holds Tryd.pinned (.plain (OpenSpec.upto orderFullSpec)) orderFullUptoCard

/-- THE SECOND FORM's CARD OF 'gessolaw07.ComposeTwos'. -/
def composeTwosUptoCard : Claim7 := { stood := { row := composeTwosUptoRow, standIns := [], harness := (true, "6556d66ed4eee483a9086451fa14517997300b2ab233710babd73e825bd0ef5b"), looks := false }, kinds := [], alts := [], laidByText := true, laidKinds := [.data], laidTests := true, laidLooks := .later }
def ComposeTwosUptoCardSaid : Prop := Claim7.holds Tryd.pinned (.plain (OpenSpec.upto composeTwosSpec)) composeTwosUptoCard

/-- THE SECOND FORM's CARD OF 'gessolaw07.ComposeLists'. -/
def composeListsUptoCard : Claim7 := { stood := { row := composeListsUptoRow, standIns := [], harness := (true, "6556d66ed4eee483a9086451fa14517997300b2ab233710babd73e825bd0ef5b"), looks := false }, kinds := [], alts := [], laidByText := true, laidKinds := [.data], laidTests := true, laidLooks := .later }
def ComposeListsUptoCardSaid : Prop := Claim7.holds Tryd.pinned (.plain (OpenSpec.upto composeListsSpec)) composeListsUptoCard

/-- THE SECOND FORM's CARD OF 'gessolaw07.ComposeBack'. -/
def composeBackUptoCard : Claim7 := { stood := { row := composeBackUptoRow, standIns := [], harness := (true, "6556d66ed4eee483a9086451fa14517997300b2ab233710babd73e825bd0ef5b"), looks := false }, kinds := [], alts := [], laidByText := true, laidKinds := [.data], laidTests := true, laidLooks := .later }
def ComposeBackUptoCardSaid : Prop := Claim7.holds Tryd.pinned (.plain (OpenSpec.upto composeBackSpec)) composeBackUptoCard

/-- THE SECOND FORM's CARD OF 'gessolaw07.ComposeAgain'. -/
def composeAgainUptoCard : Claim7 := { stood := { row := composeAgainUptoRow, standIns := [], harness := (true, "6556d66ed4eee483a9086451fa14517997300b2ab233710babd73e825bd0ef5b"), looks := false }, kinds := [], alts := [], laidByText := true, laidKinds := [.data], laidTests := true, laidLooks := .later }
def ComposeAgainUptoCardSaid : Prop := Claim7.holds Tryd.pinned (.plain (OpenSpec.upto composeAgainSpec)) composeAgainUptoCard

/-- THE SECOND FORM's CARD OF 'gessolaw07.ComposeParts'. -/
def composePartsUptoCard : Claim7 := { stood := { row := composePartsUptoRow, standIns := [], harness := (true, "6556d66ed4eee483a9086451fa14517997300b2ab233710babd73e825bd0ef5b"), looks := false }, kinds := [], alts := [], laidByText := true, laidKinds := [.data], laidTests := true, laidLooks := .later }
def ComposePartsUptoCardSaid : Prop := Claim7.holds Tryd.pinned (.plain (OpenSpec.upto composePartsSpec)) composePartsUptoCard

/-- THE SECOND FORM's CARD OF 'gessolaw07.ComposeFull'. -/
def composeFullUptoCard : Claim7 := { stood := { row := composeFullUptoRow, standIns := [], harness := (true, "6556d66ed4eee483a9086451fa14517997300b2ab233710babd73e825bd0ef5b"), looks := false }, kinds := [], alts := [], laidByText := true, laidKinds := [.data], laidTests := true, laidLooks := .later }
def ComposeFullUptoCardSaid : Prop := Claim7.holds Tryd.pinned (.plain (OpenSpec.upto composeFullSpec)) composeFullUptoCard
end Rows
end Go.Proofs.YtnmcdiiiikbkaaaDoor
