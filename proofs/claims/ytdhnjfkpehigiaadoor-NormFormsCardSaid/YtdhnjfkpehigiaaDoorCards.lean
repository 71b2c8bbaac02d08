/-
  DERIVED. GIVEN WITH THE SEED: THE CARDS: each row of YtdhnjfkpehigiaaDoorRows.lean that lists a variable, with what it lists TIED to the program's text (the seventh form; the later family's looks); each row that meets fmt, with fmt's text TOLD by the authors' own Lean function (tested against real Go, not proved from fmt's source: count such statements apart). THE CARD IS WHAT COUNTS. Prove the row's statement (the work); the ties are given (YtdhnjfkpehigiaaDoorTie.lean); close each card by the builder's one call (the guide's Derived/Test/ToyasCard.lean, 'card_holds'). Laid BY PROGRAM, IN A SANDBOX (cutbox-door.mjs). By AI agents, Wed Nov 11 2026. No macro, syntax, notation, axiom, sorry.
-/
import Derived.Test.YtdhnjfkpehigiaaDoorRows
import GoSem.ClaimSeven
namespace Go.Proofs.YtdhnjfkpehigiaaDoor
namespace Rows

/-- THE TIED CARD OF 'gessolaw08.NormForms'. -/
def normFormsCard : Claim7 := { stood := { row := normFormsRow, standIns := [], harness := (true, "c887ed93a1136b75d208cbdaeca21cd763d36e1748578c57a5ac19460edcc223"), looks := false }, kinds := [], alts := [], laidByText := true, laidKinds := [.data], laidTests := true, laidLooks := .later }
def NormFormsCardSaid : Prop := Claim7.holds Tryd.pinned (.plain (OpenSpec.ofChange normFormsSpec)) normFormsCard

/-- THE TIED CARD OF 'gessolaw08.NormSames'. -/
def normSamesCard : Claim7 := { stood := { row := normSamesRow, standIns := [], harness := (true, "c887ed93a1136b75d208cbdaeca21cd763d36e1748578c57a5ac19460edcc223"), looks := false }, kinds := [], alts := [], laidByText := true, laidKinds := [.data], laidTests := true, laidLooks := .later }
def NormSamesCardSaid : Prop := Claim7.holds Tryd.pinned (.plain (OpenSpec.ofChange normSamesSpec)) normSamesCard

/-- THE TIED CARD OF 'gessolaw08.NormTexts'. -/
def normTextsCard : Claim7 := { stood := { row := normTextsRow, standIns := [], harness := (true, "c887ed93a1136b75d208cbdaeca21cd763d36e1748578c57a5ac19460edcc223"), looks := false }, kinds := [], alts := [], laidByText := true, laidKinds := [.data], laidTests := true, laidLooks := .later }
def NormTextsCardSaid : Prop := Claim7.holds Tryd.pinned (.plain (OpenSpec.ofChange normTextsSpec)) normTextsCard

/-- THE TIED CARD OF 'gessolaw08.NormSafes'. -/
def normSafesCard : Claim7 := { stood := { row := normSafesRow, standIns := [], harness := (true, "c887ed93a1136b75d208cbdaeca21cd763d36e1748578c57a5ac19460edcc223"), looks := false }, kinds := [], alts := [], laidByText := true, laidKinds := [.data], laidTests := true, laidLooks := .later }
def NormSafesCardSaid : Prop := Claim7.holds Tryd.pinned (.plain (OpenSpec.ofChange normSafesSpec)) normSafesCard

/-- THE TIED CARD OF 'gessolaw08.NormAgain'. -/
def normAgainCard : Claim7 := { stood := { row := normAgainRow, standIns := [], harness := (true, "c887ed93a1136b75d208cbdaeca21cd763d36e1748578c57a5ac19460edcc223"), looks := false }, kinds := [], alts := [], laidByText := true, laidKinds := [.data], laidTests := true, laidLooks := .later }
def NormAgainCardSaid : Prop := Claim7.holds Tryd.pinned (.plain (OpenSpec.ofChange normAgainSpec)) normAgainCard

/-- THE TIED CARD OF 'gessolaw08.NormParts'. -/
def normPartsCard : Claim7 := { stood := { row := normPartsRow, standIns := [], harness := (true, "c887ed93a1136b75d208cbdaeca21cd763d36e1748578c57a5ac19460edcc223"), looks := false }, kinds := [], alts := [], laidByText := true, laidKinds := [.data], laidTests := true, laidLooks := .later }
def NormPartsCardSaid : Prop := Claim7.holds Tryd.pinned (.plain (OpenSpec.ofChange normPartsSpec)) normPartsCard

/-- THE TIED CARD OF 'gessolaw08.NormEqual'. -/
def normEqualCard : Claim7 := { stood := { row := normEqualRow, standIns := [], harness := (true, "c887ed93a1136b75d208cbdaeca21cd763d36e1748578c57a5ac19460edcc223"), looks := false }, kinds := [], alts := [], laidByText := true, laidKinds := [.data], laidTests := true, laidLooks := .later }
def NormEqualCardSaid : Prop := Claim7.holds Tryd.pinned (.plain (OpenSpec.ofChange normEqualSpec)) normEqualCard

/-- THE TIED CARD OF 'gessolaw08.NormBytes'. -/
def normBytesCard : Claim7 := { stood := { row := normBytesRow, standIns := [], harness := (true, "c887ed93a1136b75d208cbdaeca21cd763d36e1748578c57a5ac19460edcc223"), looks := false }, kinds := [], alts := [], laidByText := true, laidKinds := [.data], laidTests := true, laidLooks := .later }
def NormBytesCardSaid : Prop := Claim7.holds Tryd.pinned (.plain (OpenSpec.ofChange normBytesSpec)) normBytesCard

/-- THE TIED CARD OF 'gessolaw08.NormMarks'. -/
def normMarksCard : Claim7 := { stood := { row := normMarksRow, standIns := [], harness := (true, "c887ed93a1136b75d208cbdaeca21cd763d36e1748578c57a5ac19460edcc223"), looks := false }, kinds := [], alts := [], laidByText := true, laidKinds := [.data], laidTests := true, laidLooks := .later }
def NormMarksCardSaid : Prop := Claim7.holds Tryd.pinned (.plain (OpenSpec.ofChange normMarksSpec)) normMarksCard

/-- THE TIED CARD OF 'gessolaw05.DecompLists'. -/
def decompListsCard : Claim7 := { stood := { row := decompListsRow, standIns := [], harness := (true, "c887ed93a1136b75d208cbdaeca21cd763d36e1748578c57a5ac19460edcc223"), looks := false }, kinds := [], alts := [], laidByText := true, laidKinds := [.data], laidTests := true, laidLooks := .later }
def DecompListsCardSaid : Prop := Claim7.holds Tryd.pinned (.plain (OpenSpec.ofChange decompListsSpec)) decompListsCard

/-- THE TIED CARD OF 'gessolaw06.OrderFull'. -/
def orderFullCard : Claim7 := { stood := { row := orderFullRow, standIns := [], harness := (true, "c887ed93a1136b75d208cbdaeca21cd763d36e1748578c57a5ac19460edcc223"), looks := false }, kinds := [], alts := [], laidByText := true, laidKinds := [.data], laidTests := true, laidLooks := .later }
def OrderFullCardSaid : Prop := Claim7.holds Tryd.pinned (.plain (OpenSpec.ofChange orderFullSpec)) orderFullCard

/-- THE TIED CARD OF 'gessolaw07.ComposeFull'. -/
def composeFullCard : Claim7 := { stood := { row := composeFullRow, standIns := [], harness := (true, "c887ed93a1136b75d208cbdaeca21cd763d36e1748578c57a5ac19460edcc223"), looks := false }, kinds := [], alts := [], laidByText := true, laidKinds := [.data], laidTests := true, laidLooks := .later }
def ComposeFullCardSaid : Prop := Claim7.holds Tryd.pinned (.plain (OpenSpec.ofChange composeFullSpec)) composeFullCard

/-- THE SECOND FORM's CARD OF 'gessolaw08.NormForms'. -/
def normFormsUptoCard : Claim7 := { stood := { row := normFormsUptoRow, standIns := [], harness := (true, "c887ed93a1136b75d208cbdaeca21cd763d36e1748578c57a5ac19460edcc223"), looks := false }, kinds := [], alts := [], laidByText := true, laidKinds := [.data], laidTests := true, laidLooks := .later }
def NormFormsUptoCardSaid : Prop := Claim7.holds Tryd.pinned (.plain (OpenSpec.upto normFormsSpec)) normFormsUptoCard

/-- THE SECOND FORM's CARD OF 'gessolaw08.NormSames'. -/
def normSamesUptoCard : Claim7 := { stood := { row := normSamesUptoRow, standIns := [], harness := (true, "c887ed93a1136b75d208cbdaeca21cd763d36e1748578c57a5ac19460edcc223"), looks := false }, kinds := [], alts := [], laidByText := true, laidKinds := [.data], laidTests := true, laidLooks := .later }
def NormSamesUptoCardSaid : Prop := Claim7.holds Tryd.pinned (.plain (OpenSpec.upto normSamesSpec)) normSamesUptoCard

/-- THE SECOND FORM's CARD OF 'gessolaw08.NormTexts'. -/
def normTextsUptoCard : Claim7 := { stood := { row := normTextsUptoRow, standIns := [], harness := (true, "c887ed93a1136b75d208cbdaeca21cd763d36e1748578c57a5ac19460edcc223"), looks := false }, kinds := [], alts := [], laidByText := true, laidKinds := [.data], laidTests := true, laidLooks := .later }
def NormTextsUptoCardSaid : Prop := Claim7.holds Tryd.pinned (.plain (OpenSpec.upto normTextsSpec)) normTextsUptoCard

/-- THE SECOND FORM's CARD OF 'gessolaw08.NormSafes'. -/
def normSafesUptoCard : Claim7 := { stood := { row := normSafesUptoRow, standIns := [], harness := (true, "c887ed93a1136b75d208cbdaeca21cd763d36e1748578c57a5ac19460edcc223"), looks := false }, kinds := [], alts := [], laidByText := true, laidKinds := [.data], laidTests := true, laidLooks := .later }
def NormSafesUptoCardSaid : Prop := Claim7.holds Tryd.pinned (.plain (OpenSpec.upto normSafesSpec)) normSafesUptoCard

/-- THE SECOND FORM's CARD OF 'gessolaw08.NormAgain'. -/
def normAgainUptoCard : Claim7 := { stood := { row := normAgainUptoRow, standIns := [], harness := (true, "c887ed93a1136b75d208cbdaeca21cd763d36e1748578c57a5ac19460edcc223"), looks := false }, kinds := [], alts := [], laidByText := true, laidKinds := [.data], laidTests := true, laidLooks := .later }
def NormAgainUptoCardSaid : Prop := Claim7.holds Tryd.pinned (.plain (OpenSpec.upto normAgainSpec)) normAgainUptoCard

/-- THE SECOND FORM's CARD OF 'gessolaw08.NormParts'. -/
def normPartsUptoCard : Claim7 := { stood := { row := normPartsUptoRow, standIns := [], harness := (true, "c887ed93a1136b75d208cbdaeca21cd763d36e1748578c57a5ac19460edcc223"), looks := false }, kinds := [], alts := [], laidByText := true, laidKinds := [.data], laidTests := true, laidLooks := .later }
def NormPartsUptoCardSaid : Prop := Claim7.holds Tryd.pinned (.plain (OpenSpec.upto normPartsSpec)) normPartsUptoCard

/-- THE SECOND FORM's CARD OF 'gessolaw08.NormEqual'. -/
def normEqualUptoCard : Claim7 := { stood := { row := normEqualUptoRow, standIns := [], harness := (true, "c887ed93a1136b75d208cbdaeca21cd763d36e1748578c57a5ac19460edcc223"), looks := false }, kinds := [], alts := [], laidByText := true, laidKinds := [.data], laidTests := true, laidLooks := .later }
def NormEqualUptoCardSaid : Prop := Claim7.holds Tryd.pinned (.plain (OpenSpec.upto normEqualSpec)) normEqualUptoCard

/-- THE SECOND FORM's CARD OF 'gessolaw08.NormBytes'. -/
def normBytesUptoCard : Claim7 := { stood := { row := normBytesUptoRow, standIns := [], harness := (true, "c887ed93a1136b75d208cbdaeca21cd763d36e1748578c57a5ac19460edcc223"), looks := false }, kinds := [], alts := [], laidByText := true, laidKinds := [.data], laidTests := true, laidLooks := .later }
def NormBytesUptoCardSaid : Prop := Claim7.holds Tryd.pinned (.plain (OpenSpec.upto normBytesSpec)) normBytesUptoCard

/-- THE SECOND FORM's CARD OF 'gessolaw08.NormMarks'. -/
def normMarksUptoCard : Claim7 := { stood := { row := normMarksUptoRow, standIns := [], harness := (true, "c887ed93a1136b75d208cbdaeca21cd763d36e1748578c57a5ac19460edcc223"), looks := false }, kinds := [], alts := [], laidByText := true, laidKinds := [.data], laidTests := true, laidLooks := .later }
def NormMarksUptoCardSaid : Prop := Claim7.holds Tryd.pinned (.plain (OpenSpec.upto normMarksSpec)) normMarksUptoCard

/-- THE SECOND FORM's CARD OF 'gessolaw05.DecompLists'. -/
def decompListsUptoCard : Claim7 := { stood := { row := decompListsUptoRow, standIns := [], harness := (true, "c887ed93a1136b75d208cbdaeca21cd763d36e1748578c57a5ac19460edcc223"), looks := false }, kinds := [], alts := [], laidByText := true, laidKinds := [.data], laidTests := true, laidLooks := .later }
def DecompListsUptoCardSaid : Prop := Claim7.holds Tryd.pinned (.plain (OpenSpec.upto decompListsSpec)) decompListsUptoCard

/-- THE SECOND FORM's CARD OF 'gessolaw06.OrderFull'. -/
def orderFullUptoCard : Claim7 := { stood := { row := orderFullUptoRow, standIns := [], harness := (true, "c887ed93a1136b75d208cbdaeca21cd763d36e1748578c57a5ac19460edcc223"), looks := false }, kinds := [], alts := [], laidByText := true, laidKinds := [.data], laidTests := true, laidLooks := .later }
def OrderFullUptoCardSaid : Prop := Claim7.holds Tryd.pinned (.plain (OpenSpec.upto orderFullSpec)) orderFullUptoCard

/-- THE SECOND FORM's CARD OF 'gessolaw07.ComposeFull'. -/
def composeFullUptoCard : Claim7 := { stood := { row := composeFullUptoRow, standIns := [], harness := (true, "c887ed93a1136b75d208cbdaeca21cd763d36e1748578c57a5ac19460edcc223"), looks := false }, kinds := [], alts := [], laidByText := true, laidKinds := [.data], laidTests := true, laidLooks := .later }
def ComposeFullUptoCardSaid : Prop := Claim7.holds Tryd.pinned (.plain (OpenSpec.upto composeFullSpec)) composeFullUptoCard
end Rows
end Go.Proofs.YtdhnjfkpehigiaaDoor
