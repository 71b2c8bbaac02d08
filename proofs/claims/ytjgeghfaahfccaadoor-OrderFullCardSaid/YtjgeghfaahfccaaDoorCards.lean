/-
  DERIVED. GIVEN WITH THE SEED: THE CARDS: each row of YtjgeghfaahfccaaDoorRows.lean that lists a variable, with what it lists TIED to the program's text (the seventh form; the later family's looks); each row that meets fmt, with fmt's text TOLD by the authors' own Lean function (tested against real Go, not proved from fmt's source: count such statements apart). THE CARD IS WHAT COUNTS. Prove the row's statement (the work); the ties are given (YtjgeghfaahfccaaDoorTie.lean); close each card by the builder's one call (the guide's Derived/Test/ToyasCard.lean, 'card_holds'). Laid BY PROGRAM, IN A SANDBOX (cutbox-door.mjs). By AI agents, Wed Nov 11 2026. No macro, syntax, notation, axiom, sorry.
-/
import Derived.Test.YtjgeghfaahfccaaDoorRows
import GoSem.ClaimSeven
namespace Go.Proofs.YtjgeghfaahfccaaDoor
namespace Rows

/-- THE TIED CARD OF 'gessolaw05.DecompFulls'. -/
def decompFullsCard : Claim7 := { stood := { row := decompFullsRow, standIns := [], harness := (true, "05e341ea27a74a6c1f04de14f470423452b038427f39ad4287a4433522b2c3bb"), looks := false }, kinds := [], alts := [], laidByText := true, laidKinds := [.data], laidTests := true, laidLooks := .later }
def DecompFullsCardSaid : Prop := Claim7.holds Tryd.pinned (.plain (OpenSpec.ofChange decompFullsSpec)) decompFullsCard

/-- THE TIED CARD OF 'gessolaw05.DecompLists'. -/
def decompListsCard : Claim7 := { stood := { row := decompListsRow, standIns := [], harness := (true, "05e341ea27a74a6c1f04de14f470423452b038427f39ad4287a4433522b2c3bb"), looks := false }, kinds := [], alts := [], laidByText := true, laidKinds := [.data], laidTests := true, laidLooks := .later }
def DecompListsCardSaid : Prop := Claim7.holds Tryd.pinned (.plain (OpenSpec.ofChange decompListsSpec)) decompListsCard

/-- THE TIED CARD OF 'gessolaw05.DecompAgain'. -/
def decompAgainCard : Claim7 := { stood := { row := decompAgainRow, standIns := [], harness := (true, "05e341ea27a74a6c1f04de14f470423452b038427f39ad4287a4433522b2c3bb"), looks := false }, kinds := [], alts := [], laidByText := true, laidKinds := [.data], laidTests := true, laidLooks := .later }
def DecompAgainCardSaid : Prop := Claim7.holds Tryd.pinned (.plain (OpenSpec.ofChange decompAgainSpec)) decompAgainCard

/-- THE TIED CARD OF 'gessolaw05.DecompJoins'. -/
def decompJoinsCard : Claim7 := { stood := { row := decompJoinsRow, standIns := [], harness := (true, "05e341ea27a74a6c1f04de14f470423452b038427f39ad4287a4433522b2c3bb"), looks := false }, kinds := [], alts := [], laidByText := true, laidKinds := [.data], laidTests := true, laidLooks := .later }
def DecompJoinsCardSaid : Prop := Claim7.holds Tryd.pinned (.plain (OpenSpec.ofChange decompJoinsSpec)) decompJoinsCard

/-- THE TIED CARD OF 'gessolaw05.DecompHangul'. -/
def decompHangulCard : Claim7 := { stood := { row := decompHangulRow, standIns := [], harness := (true, "05e341ea27a74a6c1f04de14f470423452b038427f39ad4287a4433522b2c3bb"), looks := false }, kinds := [], alts := [], laidByText := true, laidKinds := [.data], laidTests := true, laidLooks := .later }
def DecompHangulCardSaid : Prop := Claim7.holds Tryd.pinned (.plain (OpenSpec.ofChange decompHangulSpec)) decompHangulCard

/-- THE TIED CARD OF 'gessolaw06.OrderFull'. -/
def orderFullCard : Claim7 := { stood := { row := orderFullRow, standIns := [], harness := (true, "05e341ea27a74a6c1f04de14f470423452b038427f39ad4287a4433522b2c3bb"), looks := false }, kinds := [], alts := [], laidByText := true, laidKinds := [.data], laidTests := true, laidLooks := .later }
def OrderFullCardSaid : Prop := Claim7.holds Tryd.pinned (.plain (OpenSpec.ofChange orderFullSpec)) orderFullCard

/-- THE SECOND FORM's CARD OF 'gessolaw05.DecompFulls'. -/
def decompFullsUptoCard : Claim7 := { stood := { row := decompFullsUptoRow, standIns := [], harness := (true, "05e341ea27a74a6c1f04de14f470423452b038427f39ad4287a4433522b2c3bb"), looks := false }, kinds := [], alts := [], laidByText := true, laidKinds := [.data], laidTests := true, laidLooks := .later }
def DecompFullsUptoCardSaid : Prop := Claim7.holds Tryd.pinned (.plain (OpenSpec.upto decompFullsSpec)) decompFullsUptoCard

/-- THE SECOND FORM's CARD OF 'gessolaw05.DecompLists'. -/
def decompListsUptoCard : Claim7 := { stood := { row := decompListsUptoRow, standIns := [], harness := (true, "05e341ea27a74a6c1f04de14f470423452b038427f39ad4287a4433522b2c3bb"), looks := false }, kinds := [], alts := [], laidByText := true, laidKinds := [.data], laidTests := true, laidLooks := .later }
def DecompListsUptoCardSaid : Prop := Claim7.holds Tryd.pinned (.plain (OpenSpec.upto decompListsSpec)) decompListsUptoCard

/-- THE SECOND FORM's CARD OF 'gessolaw05.DecompAgain'. -/
def decompAgainUptoCard : Claim7 := { stood := { row := decompAgainUptoRow, standIns := [], harness := (true, "05e341ea27a74a6c1f04de14f470423452b038427f39ad4287a4433522b2c3bb"), looks := false }, kinds := [], alts := [], laidByText := true, laidKinds := [.data], laidTests := true, laidLooks := .later }
def DecompAgainUptoCardSaid : Prop := Claim7.holds Tryd.pinned (.plain (OpenSpec.upto decompAgainSpec)) decompAgainUptoCard

/-- THE SECOND FORM's CARD OF 'gessolaw05.DecompJoins'. -/
def decompJoinsUptoCard : Claim7 := { stood := { row := decompJoinsUptoRow, standIns := [], harness := (true, "05e341ea27a74a6c1f04de14f470423452b038427f39ad4287a4433522b2c3bb"), looks := false }, kinds := [], alts := [], laidByText := true, laidKinds := [.data], laidTests := true, laidLooks := .later }
def DecompJoinsUptoCardSaid : Prop := Claim7.holds Tryd.pinned (.plain (OpenSpec.upto decompJoinsSpec)) decompJoinsUptoCard

/-- THE SECOND FORM's CARD OF 'gessolaw05.DecompHangul'. -/
def decompHangulUptoCard : Claim7 := { stood := { row := decompHangulUptoRow, standIns := [], harness := (true, "05e341ea27a74a6c1f04de14f470423452b038427f39ad4287a4433522b2c3bb"), looks := false }, kinds := [], alts := [], laidByText := true, laidKinds := [.data], laidTests := true, laidLooks := .later }
def DecompHangulUptoCardSaid : Prop := Claim7.holds Tryd.pinned (.plain (OpenSpec.upto decompHangulSpec)) decompHangulUptoCard

/-- THE SECOND FORM's CARD OF 'gessolaw06.OrderFull'. -/
def orderFullUptoCard : Claim7 := { stood := { row := orderFullUptoRow, standIns := [], harness := (true, "05e341ea27a74a6c1f04de14f470423452b038427f39ad4287a4433522b2c3bb"), looks := false }, kinds := [], alts := [], laidByText := true, laidKinds := [.data], laidTests := true, laidLooks := .later }
def OrderFullUptoCardSaid : Prop := Claim7.holds Tryd.pinned (.plain (OpenSpec.upto orderFullSpec)) orderFullUptoCard
end Rows
end Go.Proofs.YtjgeghfaahfccaaDoor
