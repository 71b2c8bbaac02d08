/-
  DERIVED. GIVEN WITH THE SEED: THE CARDS: each row of YtipemmjbgegmfaaDoorRows.lean that lists a variable, with what it lists TIED to the program's text (the seventh form; the later family's looks); each row that meets fmt, with fmt's text TOLD by the authors' own Lean function (tested against real Go, not proved from fmt's source: count such statements apart). THE CARD IS WHAT COUNTS. Prove the row's statement (the work); the ties are given (YtipemmjbgegmfaaDoorTie.lean); close each card by the builder's one call (the guide's Derived/Test/ToyasCard.lean, 'card_holds'). Laid BY PROGRAM, IN A SANDBOX (cutbox-door.mjs). By AI agents, Wed Nov 11 2026. No macro, syntax, notation, axiom, sorry.
-/
import Derived.Test.YtipemmjbgegmfaaDoorRows
import GoSem.ClaimSeven
namespace Go.Proofs.YtipemmjbgegmfaaDoor
namespace Rows

/-- THE TIED CARD OF 'gessolaw05.DecompLists'. -/
def decompListsCard : Claim7 := { stood := { row := decompListsRow, standIns := [], harness := (true, "86cfcfdf859bcb3ca33c36a6409d580846a632f7bd8f26ce9de7b010a5bc75b9"), looks := false }, kinds := [], alts := [], laidByText := true, laidKinds := [.data], laidTests := true, laidLooks := .later }
def DecompListsCardSaid : Prop := Claim7.holds Tryd.pinned (.plain (OpenSpec.ofChange decompListsSpec)) decompListsCard

/-- THE TIED CARD OF 'gessolaw06.OrderFull'. -/
def orderFullCard : Claim7 := { stood := { row := orderFullRow, standIns := [], harness := (true, "86cfcfdf859bcb3ca33c36a6409d580846a632f7bd8f26ce9de7b010a5bc75b9"), looks := false }, kinds := [], alts := [], laidByText := true, laidKinds := [.data], laidTests := true, laidLooks := .later }
def OrderFullCardSaid : Prop := Claim7.holds Tryd.pinned (.plain (OpenSpec.ofChange orderFullSpec)) orderFullCard

/-- THE TIED CARD OF 'gessolaw07.ComposeFull'. -/
def composeFullCard : Claim7 := { stood := { row := composeFullRow, standIns := [], harness := (true, "86cfcfdf859bcb3ca33c36a6409d580846a632f7bd8f26ce9de7b010a5bc75b9"), looks := false }, kinds := [], alts := [], laidByText := true, laidKinds := [.data], laidTests := true, laidLooks := .later }
def ComposeFullCardSaid : Prop := Claim7.holds Tryd.pinned (.plain (OpenSpec.ofChange composeFullSpec)) composeFullCard

/-- THE TIED CARD OF 'gessolaw08.NormForms'. -/
def normFormsCard : Claim7 := { stood := { row := normFormsRow, standIns := [], harness := (true, "86cfcfdf859bcb3ca33c36a6409d580846a632f7bd8f26ce9de7b010a5bc75b9"), looks := false }, kinds := [], alts := [], laidByText := true, laidKinds := [.data], laidTests := true, laidLooks := .later }
def NormFormsCardSaid : Prop := Claim7.holds Tryd.pinned (.plain (OpenSpec.ofChange normFormsSpec)) normFormsCard

/-- THE TIED CARD OF 'gessolaw08.NormTexts'. -/
def normTextsCard : Claim7 := { stood := { row := normTextsRow, standIns := [], harness := (true, "86cfcfdf859bcb3ca33c36a6409d580846a632f7bd8f26ce9de7b010a5bc75b9"), looks := false }, kinds := [], alts := [], laidByText := true, laidKinds := [.data], laidTests := true, laidLooks := .later }
def NormTextsCardSaid : Prop := Claim7.holds Tryd.pinned (.plain (OpenSpec.ofChange normTextsSpec)) normTextsCard

/-- THE TIED CARD OF 'gessolaw08.NormSafes'. -/
def normSafesCard : Claim7 := { stood := { row := normSafesRow, standIns := [], harness := (true, "86cfcfdf859bcb3ca33c36a6409d580846a632f7bd8f26ce9de7b010a5bc75b9"), looks := false }, kinds := [], alts := [], laidByText := true, laidKinds := [.data], laidTests := true, laidLooks := .later }
def NormSafesCardSaid : Prop := Claim7.holds Tryd.pinned (.plain (OpenSpec.ofChange normSafesSpec)) normSafesCard

/-- THE TIED CARD OF 'gessolaw10.StreamWhole'. -/
def streamWholeCard : Claim7 := { stood := { row := streamWholeRow, standIns := [], harness := (true, "86cfcfdf859bcb3ca33c36a6409d580846a632f7bd8f26ce9de7b010a5bc75b9"), looks := false }, kinds := [], alts := [], laidByText := true, laidKinds := [.data], laidTests := true, laidLooks := .later }
def StreamWholeCardSaid : Prop := Claim7.holds Tryd.pinned (.plain (OpenSpec.ofChange streamWholeSpec)) streamWholeCard

/-- THE TIED CARD OF 'gessolaw10.StreamMarks'. -/
def streamMarksCard : Claim7 := { stood := { row := streamMarksRow, standIns := [], harness := (true, "86cfcfdf859bcb3ca33c36a6409d580846a632f7bd8f26ce9de7b010a5bc75b9"), looks := false }, kinds := [], alts := [], laidByText := true, laidKinds := [.data], laidTests := true, laidLooks := .later }
def StreamMarksCardSaid : Prop := Claim7.holds Tryd.pinned (.plain (OpenSpec.ofChange streamMarksSpec)) streamMarksCard

/-- THE TIED CARD OF 'gessolaw10.StreamHolds'. -/
def streamHoldsCard : Claim7 := { stood := { row := streamHoldsRow, standIns := [], harness := (true, "86cfcfdf859bcb3ca33c36a6409d580846a632f7bd8f26ce9de7b010a5bc75b9"), looks := false }, kinds := [], alts := [], laidByText := true, laidKinds := [.data], laidTests := true, laidLooks := .later }
def StreamHoldsCardSaid : Prop := Claim7.holds Tryd.pinned (.plain (OpenSpec.ofChange streamHoldsSpec)) streamHoldsCard

/-- THE SECOND FORM's CARD OF 'gessolaw05.DecompLists'. -/
def decompListsUptoCard : Claim7 := { stood := { row := decompListsUptoRow, standIns := [], harness := (true, "86cfcfdf859bcb3ca33c36a6409d580846a632f7bd8f26ce9de7b010a5bc75b9"), looks := false }, kinds := [], alts := [], laidByText := true, laidKinds := [.data], laidTests := true, laidLooks := .later }
def DecompListsUptoCardSaid : Prop := Claim7.holds Tryd.pinned (.plain (OpenSpec.upto decompListsSpec)) decompListsUptoCard

/-- THE SECOND FORM's CARD OF 'gessolaw06.OrderFull'. -/
def orderFullUptoCard : Claim7 := { stood := { row := orderFullUptoRow, standIns := [], harness := (true, "86cfcfdf859bcb3ca33c36a6409d580846a632f7bd8f26ce9de7b010a5bc75b9"), looks := false }, kinds := [], alts := [], laidByText := true, laidKinds := [.data], laidTests := true, laidLooks := .later }
def OrderFullUptoCardSaid : Prop := Claim7.holds Tryd.pinned (.plain (OpenSpec.upto orderFullSpec)) orderFullUptoCard

/-- THE SECOND FORM's CARD OF 'gessolaw07.ComposeFull'. -/
def composeFullUptoCard : Claim7 := { stood := { row := composeFullUptoRow, standIns := [], harness := (true, "86cfcfdf859bcb3ca33c36a6409d580846a632f7bd8f26ce9de7b010a5bc75b9"), looks := false }, kinds := [], alts := [], laidByText := true, laidKinds := [.data], laidTests := true, laidLooks := .later }
def ComposeFullUptoCardSaid : Prop := Claim7.holds Tryd.pinned (.plain (OpenSpec.upto composeFullSpec)) composeFullUptoCard

/-- THE SECOND FORM's CARD OF 'gessolaw08.NormForms'. -/
def normFormsUptoCard : Claim7 := { stood := { row := normFormsUptoRow, standIns := [], harness := (true, "86cfcfdf859bcb3ca33c36a6409d580846a632f7bd8f26ce9de7b010a5bc75b9"), looks := false }, kinds := [], alts := [], laidByText := true, laidKinds := [.data], laidTests := true, laidLooks := .later }
def NormFormsUptoCardSaid : Prop := Claim7.holds Tryd.pinned (.plain (OpenSpec.upto normFormsSpec)) normFormsUptoCard

/-- THE SECOND FORM's CARD OF 'gessolaw08.NormTexts'. -/
def normTextsUptoCard : Claim7 := { stood := { row := normTextsUptoRow, standIns := [], harness := (true, "86cfcfdf859bcb3ca33c36a6409d580846a632f7bd8f26ce9de7b010a5bc75b9"), looks := false }, kinds := [], alts := [], laidByText := true, laidKinds := [.data], laidTests := true, laidLooks := .later }
def NormTextsUptoCardSaid : Prop := Claim7.holds Tryd.pinned (.plain (OpenSpec.upto normTextsSpec)) normTextsUptoCard

/-- THE SECOND FORM's CARD OF 'gessolaw08.NormSafes'. -/
def normSafesUptoCard : Claim7 := { stood := { row := normSafesUptoRow, standIns := [], harness := (true, "86cfcfdf859bcb3ca33c36a6409d580846a632f7bd8f26ce9de7b010a5bc75b9"), looks := false }, kinds := [], alts := [], laidByText := true, laidKinds := [.data], laidTests := true, laidLooks := .later }
def NormSafesUptoCardSaid : Prop := Claim7.holds Tryd.pinned (.plain (OpenSpec.upto normSafesSpec)) normSafesUptoCard

/-- THE SECOND FORM's CARD OF 'gessolaw10.StreamWhole'. -/
def streamWholeUptoCard : Claim7 := { stood := { row := streamWholeUptoRow, standIns := [], harness := (true, "86cfcfdf859bcb3ca33c36a6409d580846a632f7bd8f26ce9de7b010a5bc75b9"), looks := false }, kinds := [], alts := [], laidByText := true, laidKinds := [.data], laidTests := true, laidLooks := .later }
def StreamWholeUptoCardSaid : Prop := Claim7.holds Tryd.pinned (.plain (OpenSpec.upto streamWholeSpec)) streamWholeUptoCard

/-- THE SECOND FORM's CARD OF 'gessolaw10.StreamMarks'. -/
def streamMarksUptoCard : Claim7 := { stood := { row := streamMarksUptoRow, standIns := [], harness := (true, "86cfcfdf859bcb3ca33c36a6409d580846a632f7bd8f26ce9de7b010a5bc75b9"), looks := false }, kinds := [], alts := [], laidByText := true, laidKinds := [.data], laidTests := true, laidLooks := .later }
def StreamMarksUptoCardSaid : Prop := Claim7.holds Tryd.pinned (.plain (OpenSpec.upto streamMarksSpec)) streamMarksUptoCard

/-- THE SECOND FORM's CARD OF 'gessolaw10.StreamHolds'. -/
def streamHoldsUptoCard : Claim7 := { stood := { row := streamHoldsUptoRow, standIns := [], harness := (true, "86cfcfdf859bcb3ca33c36a6409d580846a632f7bd8f26ce9de7b010a5bc75b9"), looks := false }, kinds := [], alts := [], laidByText := true, laidKinds := [.data], laidTests := true, laidLooks := .later }
def StreamHoldsUptoCardSaid : Prop := Claim7.holds Tryd.pinned (.plain (OpenSpec.upto streamHoldsSpec)) streamHoldsUptoCard
end Rows
end Go.Proofs.YtipemmjbgegmfaaDoor
