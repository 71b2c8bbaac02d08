/-
  DERIVED. GIVEN WITH THE SEED: THE CARDS: each row of YtipemmjbgegmfaaGreatDoorRows.lean that lists a variable, with what it lists TIED to the program's text (the seventh form; the later family's looks); each row that meets fmt, with fmt's text TOLD by the authors' own Lean function (tested against real Go, not proved from fmt's source: count such statements apart). THE CARD IS WHAT COUNTS. Prove the row's statement (the work); the ties are given (YtipemmjbgegmfaaGreatDoorTie.lean); close each card by the builder's one call (the guide's Derived/Test/ToyasCard.lean, 'card_holds'). Laid BY PROGRAM, IN A SANDBOX (cutbox-door.mjs). By AI agents, Wed Nov 11 2026. No macro, syntax, notation, axiom, sorry.
-/
import Derived.Test.YtipemmjbgegmfaaGreatDoorRows
import GoSem.ClaimSeven
namespace Go.Proofs.YtipemmjbgegmfaaGreatDoor
namespace Rows

/-- THE TIED CARD OF 'gessolaw10.StreamWrites'. -/
def streamWritesCard : Claim7 := { stood := { row := streamWritesRow, standIns := [], harness := (true, "942b137094663c6125c7992bcb729cc38e9f320a57bf2954a9a930a307d3106a"), looks := false }, kinds := [], alts := [], laidByText := true, laidKinds := [.data], laidTests := true, laidLooks := .later }
def StreamWritesCardSaid : Prop := Claim7.holds Tryz.pinned (.plain (OpenSpec.ofChange streamWritesSpec)) streamWritesCard

/-- THE TIED CARD OF 'gessolaw10.StreamFroms'. -/
def streamFromsCard : Claim7 := { stood := { row := streamFromsRow, standIns := [], harness := (true, "942b137094663c6125c7992bcb729cc38e9f320a57bf2954a9a930a307d3106a"), looks := false }, kinds := [], alts := [], laidByText := true, laidKinds := [.data], laidTests := true, laidLooks := .later }
def StreamFromsCardSaid : Prop := Claim7.holds Tryz.pinned (.plain (OpenSpec.ofChange streamFromsSpec)) streamFromsCard

/-- THE SECOND FORM's CARD OF 'gessolaw10.StreamWrites'. -/
def streamWritesUptoCard : Claim7 := { stood := { row := streamWritesUptoRow, standIns := [], harness := (true, "942b137094663c6125c7992bcb729cc38e9f320a57bf2954a9a930a307d3106a"), looks := false }, kinds := [], alts := [], laidByText := true, laidKinds := [.data], laidTests := true, laidLooks := .later }
def StreamWritesUptoCardSaid : Prop := Claim7.holds Tryz.pinned (.plain (OpenSpec.upto streamWritesSpec)) streamWritesUptoCard

/-- THE SECOND FORM's CARD OF 'gessolaw10.StreamFroms'. -/
def streamFromsUptoCard : Claim7 := { stood := { row := streamFromsUptoRow, standIns := [], harness := (true, "942b137094663c6125c7992bcb729cc38e9f320a57bf2954a9a930a307d3106a"), looks := false }, kinds := [], alts := [], laidByText := true, laidKinds := [.data], laidTests := true, laidLooks := .later }
def StreamFromsUptoCardSaid : Prop := Claim7.holds Tryz.pinned (.plain (OpenSpec.upto streamFromsSpec)) streamFromsUptoCard
end Rows
end Go.Proofs.YtipemmjbgegmfaaGreatDoor
