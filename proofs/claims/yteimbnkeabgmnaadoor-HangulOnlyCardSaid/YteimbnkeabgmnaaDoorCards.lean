/-
  DERIVED. GIVEN WITH THE SEED: THE CARDS: each row of YteimbnkeabgmnaaDoorRows.lean that lists a variable, with what it lists TIED to the program's text (the seventh form; the later family's looks); each row that meets fmt, with fmt's text TOLD by the authors' own Lean function (tested against real Go, not proved from fmt's source: count such statements apart). THE CARD IS WHAT COUNTS. Prove the row's statement (the work); the ties are given (YteimbnkeabgmnaaDoorTie.lean); close each card by the builder's one call (the guide's Derived/Test/ToyasCard.lean, 'card_holds'). Laid BY PROGRAM, IN A SANDBOX (cutbox-door.mjs). By AI agents, Wed Nov 11 2026. No macro, syntax, notation, axiom, sorry.
-/
import Derived.Test.YteimbnkeabgmnaaDoorRows
import GoSem.ClaimSeven
namespace Go.Proofs.YteimbnkeabgmnaaDoor
namespace Rows

/-- THE TIED CARD OF 'gessolaw04.HangulSplits'. -/
def hangulSplitsCard : Claim7 := { stood := { row := hangulSplitsRow, standIns := [], harness := (true, "e8ab2e7ce5391b578962d61aacb1afbb497ba1f2b399d1543f1fa460c4c25777"), looks := false }, kinds := [], alts := [], laidByText := true, laidKinds := [.data], laidTests := true, laidLooks := .later }
def HangulSplitsCardSaid : Prop := Claim7.holds Tryd.pinned (.plain (OpenSpec.ofChange hangulSplitsSpec)) hangulSplitsCard

/-- THE TIED CARD OF 'gessolaw04.HangulPuts'. -/
def hangulPutsCard : Claim7 := { stood := { row := hangulPutsRow, standIns := [], harness := (true, "e8ab2e7ce5391b578962d61aacb1afbb497ba1f2b399d1543f1fa460c4c25777"), looks := false }, kinds := [], alts := [], laidByText := true, laidKinds := [.data], laidTests := true, laidLooks := .later }
def HangulPutsCardSaid : Prop := Claim7.holds Tryd.pinned (.plain (OpenSpec.ofChange hangulPutsSpec)) hangulPutsCard

/-- THE TIED CARD OF 'gessolaw04.HangulJoins'. -/
def hangulJoinsCard : Claim7 := { stood := { row := hangulJoinsRow, standIns := [], harness := (true, "e8ab2e7ce5391b578962d61aacb1afbb497ba1f2b399d1543f1fa460c4c25777"), looks := false }, kinds := [], alts := [], laidByText := true, laidKinds := [.data], laidTests := true, laidLooks := .later }
def HangulJoinsCardSaid : Prop := Claim7.holds Tryd.pinned (.plain (OpenSpec.ofChange hangulJoinsSpec)) hangulJoinsCard

/-- THE TIED CARD OF 'gessolaw04.HangulBack'. -/
def hangulBackCard : Claim7 := { stood := { row := hangulBackRow, standIns := [], harness := (true, "e8ab2e7ce5391b578962d61aacb1afbb497ba1f2b399d1543f1fa460c4c25777"), looks := false }, kinds := [], alts := [], laidByText := true, laidKinds := [.data], laidTests := true, laidLooks := .later }
def HangulBackCardSaid : Prop := Claim7.holds Tryd.pinned (.plain (OpenSpec.ofChange hangulBackSpec)) hangulBackCard

/-- THE TIED CARD OF 'gessolaw04.HangulRow'. -/
def hangulRowCard : Claim7 := { stood := { row := hangulRowRow, standIns := [], harness := (true, "e8ab2e7ce5391b578962d61aacb1afbb497ba1f2b399d1543f1fa460c4c25777"), looks := false }, kinds := [], alts := [], laidByText := true, laidKinds := [.data], laidTests := true, laidLooks := .later }
def HangulRowCardSaid : Prop := Claim7.holds Tryd.pinned (.plain (OpenSpec.ofChange hangulRowSpec)) hangulRowCard

/-- THE TIED CARD OF 'gessolaw04.HangulOnly'. -/
def hangulOnlyCard : Claim7 := { stood := { row := hangulOnlyRow, standIns := [], harness := (true, "e8ab2e7ce5391b578962d61aacb1afbb497ba1f2b399d1543f1fa460c4c25777"), looks := false }, kinds := [], alts := [], laidByText := true, laidKinds := [.data], laidTests := true, laidLooks := .later }
def HangulOnlyCardSaid : Prop := Claim7.holds Tryd.pinned (.plain (OpenSpec.ofChange hangulOnlySpec)) hangulOnlyCard

/-- THE SECOND FORM's CARD OF 'gessolaw04.HangulSplits'. -/
def hangulSplitsUptoCard : Claim7 := { stood := { row := hangulSplitsUptoRow, standIns := [], harness := (true, "e8ab2e7ce5391b578962d61aacb1afbb497ba1f2b399d1543f1fa460c4c25777"), looks := false }, kinds := [], alts := [], laidByText := true, laidKinds := [.data], laidTests := true, laidLooks := .later }
def HangulSplitsUptoCardSaid : Prop := Claim7.holds Tryd.pinned (.plain (OpenSpec.upto hangulSplitsSpec)) hangulSplitsUptoCard

/-- THE SECOND FORM's CARD OF 'gessolaw04.HangulPuts'. -/
def hangulPutsUptoCard : Claim7 := { stood := { row := hangulPutsUptoRow, standIns := [], harness := (true, "e8ab2e7ce5391b578962d61aacb1afbb497ba1f2b399d1543f1fa460c4c25777"), looks := false }, kinds := [], alts := [], laidByText := true, laidKinds := [.data], laidTests := true, laidLooks := .later }
def HangulPutsUptoCardSaid : Prop := Claim7.holds Tryd.pinned (.plain (OpenSpec.upto hangulPutsSpec)) hangulPutsUptoCard

/-- THE SECOND FORM's CARD OF 'gessolaw04.HangulJoins'. -/
def hangulJoinsUptoCard : Claim7 := { stood := { row := hangulJoinsUptoRow, standIns := [], harness := (true, "e8ab2e7ce5391b578962d61aacb1afbb497ba1f2b399d1543f1fa460c4c25777"), looks := false }, kinds := [], alts := [], laidByText := true, laidKinds := [.data], laidTests := true, laidLooks := .later }
def HangulJoinsUptoCardSaid : Prop := Claim7.holds Tryd.pinned (.plain (OpenSpec.upto hangulJoinsSpec)) hangulJoinsUptoCard

/-- THE SECOND FORM's CARD OF 'gessolaw04.HangulBack'. -/
def hangulBackUptoCard : Claim7 := { stood := { row := hangulBackUptoRow, standIns := [], harness := (true, "e8ab2e7ce5391b578962d61aacb1afbb497ba1f2b399d1543f1fa460c4c25777"), looks := false }, kinds := [], alts := [], laidByText := true, laidKinds := [.data], laidTests := true, laidLooks := .later }
def HangulBackUptoCardSaid : Prop := Claim7.holds Tryd.pinned (.plain (OpenSpec.upto hangulBackSpec)) hangulBackUptoCard

/-- THE SECOND FORM's CARD OF 'gessolaw04.HangulRow'. -/
def hangulRowUptoCard : Claim7 := { stood := { row := hangulRowUptoRow, standIns := [], harness := (true, "e8ab2e7ce5391b578962d61aacb1afbb497ba1f2b399d1543f1fa460c4c25777"), looks := false }, kinds := [], alts := [], laidByText := true, laidKinds := [.data], laidTests := true, laidLooks := .later }
def HangulRowUptoCardSaid : Prop := Claim7.holds Tryd.pinned (.plain (OpenSpec.upto hangulRowSpec)) hangulRowUptoCard

/-- THE SECOND FORM's CARD OF 'gessolaw04.HangulOnly'. -/
def hangulOnlyUptoCard : Claim7 := { stood := { row := hangulOnlyUptoRow, standIns := [], harness := (true, "e8ab2e7ce5391b578962d61aacb1afbb497ba1f2b399d1543f1fa460c4c25777"), looks := false }, kinds := [], alts := [], laidByText := true, laidKinds := [.data], laidTests := true, laidLooks := .later }
def HangulOnlyUptoCardSaid : Prop := Claim7.holds Tryd.pinned (.plain (OpenSpec.upto hangulOnlySpec)) hangulOnlyUptoCard
end Rows
end Go.Proofs.YteimbnkeabgmnaaDoor
