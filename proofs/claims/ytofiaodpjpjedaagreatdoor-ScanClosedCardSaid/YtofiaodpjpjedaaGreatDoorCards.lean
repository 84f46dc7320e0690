/-
  DERIVED. GIVEN WITH THE SEED: THE CARDS: each row of YtofiaodpjpjedaaGreatDoorRows.lean that lists a variable, with what it lists TIED to the program's text (the seventh form; the later family's looks); each row that meets fmt, with fmt's text TOLD by the authors' own Lean function (tested against real Go, not proved from fmt's source: count such statements apart). THE CARD IS WHAT COUNTS. Prove the row's statement (the work); the ties are given (YtofiaodpjpjedaaGreatDoorTie.lean); close each card by the builder's one call (the guide's Derived/Test/ToyasCard.lean, 'card_holds'). Laid BY PROGRAM, IN A SANDBOX (cutbox-door.mjs). By AI agents, Wed Nov 11 2026. No macro, syntax, notation, axiom, sorry.
-/
import Derived.Test.YtofiaodpjpjedaaGreatDoorRows
import GoSem.ClaimSeven
namespace Go.Proofs.YtofiaodpjpjedaaGreatDoor
namespace Rows

/-- THE TIED CARD OF 'thicketlaw02.ScanReferences'. -/
def scanReferencesCard : Claim7 := { stood := { row := scanReferencesRow, standIns := [], harness := (true, "2d7affd4b973fe42e11b45af2f75f17c483f75953fe9a94103150ff3c7aaa78e"), looks := false }, kinds := [], alts := [], laidByText := true, laidKinds := [.data, .data, .pinned], laidTests := true, laidLooks := .later }
def ScanReferencesCardSaid : Prop := Claim7.holds Tryz.pinned (.plain (OpenSpec.ofChange scanReferencesSpec)) scanReferencesCard

/-- THE TIED CARD OF 'thicketlaw02.ScanComments'. -/
def scanCommentsCard : Claim7 := { stood := { row := scanCommentsRow, standIns := [], harness := (true, "2d7affd4b973fe42e11b45af2f75f17c483f75953fe9a94103150ff3c7aaa78e"), looks := false }, kinds := [], alts := [], laidByText := true, laidKinds := [.data, .data, .pinned], laidTests := true, laidLooks := .later }
def ScanCommentsCardSaid : Prop := Claim7.holds Tryz.pinned (.plain (OpenSpec.ofChange scanCommentsSpec)) scanCommentsCard

/-- THE TIED CARD OF 'thicketlaw02.ScanValues'. -/
def scanValuesCard : Claim7 := { stood := { row := scanValuesRow, standIns := [], harness := (true, "2d7affd4b973fe42e11b45af2f75f17c483f75953fe9a94103150ff3c7aaa78e"), looks := false }, kinds := [], alts := [], laidByText := true, laidKinds := [.data, .data, .pinned], laidTests := true, laidLooks := .later }
def ScanValuesCardSaid : Prop := Claim7.holds Tryz.pinned (.plain (OpenSpec.ofChange scanValuesSpec)) scanValuesCard

/-- THE TIED CARD OF 'thicketlaw02.ScanRaw'. -/
def scanRawCard : Claim7 := { stood := { row := scanRawRow, standIns := [], harness := (true, "2d7affd4b973fe42e11b45af2f75f17c483f75953fe9a94103150ff3c7aaa78e"), looks := false }, kinds := [], alts := [], laidByText := true, laidKinds := [.data, .data, .pinned], laidTests := true, laidLooks := .later }
def ScanRawCardSaid : Prop := Claim7.holds Tryz.pinned (.plain (OpenSpec.ofChange scanRawSpec)) scanRawCard

/-- THE TIED CARD OF 'thicketlaw02.ScanScripts'. -/
def scanScriptsCard : Claim7 := { stood := { row := scanScriptsRow, standIns := [], harness := (true, "2d7affd4b973fe42e11b45af2f75f17c483f75953fe9a94103150ff3c7aaa78e"), looks := false }, kinds := [], alts := [], laidByText := true, laidKinds := [.data, .data, .pinned], laidTests := true, laidLooks := .later }
def ScanScriptsCardSaid : Prop := Claim7.holds Tryz.pinned (.plain (OpenSpec.ofChange scanScriptsSpec)) scanScriptsCard

/-- THE TIED CARD OF 'thicketlaw02.ScanClosed'. -/
def scanClosedCard : Claim7 := { stood := { row := scanClosedRow, standIns := [], harness := (true, "2d7affd4b973fe42e11b45af2f75f17c483f75953fe9a94103150ff3c7aaa78e"), looks := false }, kinds := [], alts := [], laidByText := true, laidKinds := [.data, .data, .pinned], laidTests := true, laidLooks := .later }
def ScanClosedCardSaid : Prop := Claim7.holds Tryz.pinned (.plain (OpenSpec.ofChange scanClosedSpec)) scanClosedCard

/-- THE TIED CARD OF 'thicketlaw02.ScanEscaped'. -/
def scanEscapedCard : Claim7 := { stood := { row := scanEscapedRow, standIns := [], harness := (true, "2d7affd4b973fe42e11b45af2f75f17c483f75953fe9a94103150ff3c7aaa78e"), looks := false }, kinds := [], alts := [], laidByText := true, laidKinds := [.data, .data, .pinned], laidTests := true, laidLooks := .later }
def ScanEscapedCardSaid : Prop := Claim7.holds Tryz.pinned (.plain (OpenSpec.ofChange scanEscapedSpec)) scanEscapedCard

/-- THE TIED CARD OF 'thicketlaw02.ScanNamesBack'. -/
def scanNamesBackCard : Claim7 := { stood := { row := scanNamesBackRow, standIns := [], harness := (true, "2d7affd4b973fe42e11b45af2f75f17c483f75953fe9a94103150ff3c7aaa78e"), looks := false }, kinds := [], alts := [], laidByText := true, laidKinds := [.data, .data, .pinned], laidTests := true, laidLooks := .later }
def ScanNamesBackCardSaid : Prop := Claim7.holds Tryz.pinned (.plain (OpenSpec.ofChange scanNamesBackSpec)) scanNamesBackCard

/-- THE TIED CARD OF 'thicketlaw02.ScanNumbers'. -/
def scanNumbersCard : Claim7 := { stood := { row := scanNumbersRow, standIns := [], harness := (true, "2d7affd4b973fe42e11b45af2f75f17c483f75953fe9a94103150ff3c7aaa78e"), looks := false }, kinds := [], alts := [], laidByText := true, laidKinds := [.data, .data, .pinned], laidTests := true, laidLooks := .later }
def ScanNumbersCardSaid : Prop := Claim7.holds Tryz.pinned (.plain (OpenSpec.ofChange scanNumbersSpec)) scanNumbersCard

/-- THE TIED CARD OF 'thicketlaw02.ScanAttributesBack'. -/
def scanAttributesBackCard : Claim7 := { stood := { row := scanAttributesBackRow, standIns := [], harness := (true, "2d7affd4b973fe42e11b45af2f75f17c483f75953fe9a94103150ff3c7aaa78e"), looks := false }, kinds := [], alts := [], laidByText := true, laidKinds := [.data, .data, .pinned], laidTests := true, laidLooks := .later }
def ScanAttributesBackCardSaid : Prop := Claim7.holds Tryz.pinned (.plain (OpenSpec.ofChange scanAttributesBackSpec)) scanAttributesBackCard

/-- THE SECOND FORM's CARD OF 'thicketlaw02.ScanReferences'. -/
def scanReferencesUptoCard : Claim7 := { stood := { row := scanReferencesUptoRow, standIns := [], harness := (true, "2d7affd4b973fe42e11b45af2f75f17c483f75953fe9a94103150ff3c7aaa78e"), looks := false }, kinds := [], alts := [], laidByText := true, laidKinds := [.data, .data, .pinned], laidTests := true, laidLooks := .later }
def ScanReferencesUptoCardSaid : Prop := Claim7.holds Tryz.pinned (.plain (OpenSpec.upto scanReferencesSpec)) scanReferencesUptoCard

/-- THE SECOND FORM's CARD OF 'thicketlaw02.ScanComments'. -/
def scanCommentsUptoCard : Claim7 := { stood := { row := scanCommentsUptoRow, standIns := [], harness := (true, "2d7affd4b973fe42e11b45af2f75f17c483f75953fe9a94103150ff3c7aaa78e"), looks := false }, kinds := [], alts := [], laidByText := true, laidKinds := [.data, .data, .pinned], laidTests := true, laidLooks := .later }
def ScanCommentsUptoCardSaid : Prop := Claim7.holds Tryz.pinned (.plain (OpenSpec.upto scanCommentsSpec)) scanCommentsUptoCard

/-- THE SECOND FORM's CARD OF 'thicketlaw02.ScanValues'. -/
def scanValuesUptoCard : Claim7 := { stood := { row := scanValuesUptoRow, standIns := [], harness := (true, "2d7affd4b973fe42e11b45af2f75f17c483f75953fe9a94103150ff3c7aaa78e"), looks := false }, kinds := [], alts := [], laidByText := true, laidKinds := [.data, .data, .pinned], laidTests := true, laidLooks := .later }
def ScanValuesUptoCardSaid : Prop := Claim7.holds Tryz.pinned (.plain (OpenSpec.upto scanValuesSpec)) scanValuesUptoCard

/-- THE SECOND FORM's CARD OF 'thicketlaw02.ScanRaw'. -/
def scanRawUptoCard : Claim7 := { stood := { row := scanRawUptoRow, standIns := [], harness := (true, "2d7affd4b973fe42e11b45af2f75f17c483f75953fe9a94103150ff3c7aaa78e"), looks := false }, kinds := [], alts := [], laidByText := true, laidKinds := [.data, .data, .pinned], laidTests := true, laidLooks := .later }
def ScanRawUptoCardSaid : Prop := Claim7.holds Tryz.pinned (.plain (OpenSpec.upto scanRawSpec)) scanRawUptoCard

/-- THE SECOND FORM's CARD OF 'thicketlaw02.ScanScripts'. -/
def scanScriptsUptoCard : Claim7 := { stood := { row := scanScriptsUptoRow, standIns := [], harness := (true, "2d7affd4b973fe42e11b45af2f75f17c483f75953fe9a94103150ff3c7aaa78e"), looks := false }, kinds := [], alts := [], laidByText := true, laidKinds := [.data, .data, .pinned], laidTests := true, laidLooks := .later }
def ScanScriptsUptoCardSaid : Prop := Claim7.holds Tryz.pinned (.plain (OpenSpec.upto scanScriptsSpec)) scanScriptsUptoCard

/-- THE SECOND FORM's CARD OF 'thicketlaw02.ScanClosed'. -/
def scanClosedUptoCard : Claim7 := { stood := { row := scanClosedUptoRow, standIns := [], harness := (true, "2d7affd4b973fe42e11b45af2f75f17c483f75953fe9a94103150ff3c7aaa78e"), looks := false }, kinds := [], alts := [], laidByText := true, laidKinds := [.data, .data, .pinned], laidTests := true, laidLooks := .later }
def ScanClosedUptoCardSaid : Prop := Claim7.holds Tryz.pinned (.plain (OpenSpec.upto scanClosedSpec)) scanClosedUptoCard

/-- THE SECOND FORM's CARD OF 'thicketlaw02.ScanEscaped'. -/
def scanEscapedUptoCard : Claim7 := { stood := { row := scanEscapedUptoRow, standIns := [], harness := (true, "2d7affd4b973fe42e11b45af2f75f17c483f75953fe9a94103150ff3c7aaa78e"), looks := false }, kinds := [], alts := [], laidByText := true, laidKinds := [.data, .data, .pinned], laidTests := true, laidLooks := .later }
def ScanEscapedUptoCardSaid : Prop := Claim7.holds Tryz.pinned (.plain (OpenSpec.upto scanEscapedSpec)) scanEscapedUptoCard

/-- THE SECOND FORM's CARD OF 'thicketlaw02.ScanNamesBack'. -/
def scanNamesBackUptoCard : Claim7 := { stood := { row := scanNamesBackUptoRow, standIns := [], harness := (true, "2d7affd4b973fe42e11b45af2f75f17c483f75953fe9a94103150ff3c7aaa78e"), looks := false }, kinds := [], alts := [], laidByText := true, laidKinds := [.data, .data, .pinned], laidTests := true, laidLooks := .later }
def ScanNamesBackUptoCardSaid : Prop := Claim7.holds Tryz.pinned (.plain (OpenSpec.upto scanNamesBackSpec)) scanNamesBackUptoCard

/-- THE SECOND FORM's CARD OF 'thicketlaw02.ScanNumbers'. -/
def scanNumbersUptoCard : Claim7 := { stood := { row := scanNumbersUptoRow, standIns := [], harness := (true, "2d7affd4b973fe42e11b45af2f75f17c483f75953fe9a94103150ff3c7aaa78e"), looks := false }, kinds := [], alts := [], laidByText := true, laidKinds := [.data, .data, .pinned], laidTests := true, laidLooks := .later }
def ScanNumbersUptoCardSaid : Prop := Claim7.holds Tryz.pinned (.plain (OpenSpec.upto scanNumbersSpec)) scanNumbersUptoCard

/-- THE SECOND FORM's CARD OF 'thicketlaw02.ScanAttributesBack'. -/
def scanAttributesBackUptoCard : Claim7 := { stood := { row := scanAttributesBackUptoRow, standIns := [], harness := (true, "2d7affd4b973fe42e11b45af2f75f17c483f75953fe9a94103150ff3c7aaa78e"), looks := false }, kinds := [], alts := [], laidByText := true, laidKinds := [.data, .data, .pinned], laidTests := true, laidLooks := .later }
def ScanAttributesBackUptoCardSaid : Prop := Claim7.holds Tryz.pinned (.plain (OpenSpec.upto scanAttributesBackSpec)) scanAttributesBackUptoCard
end Rows
end Go.Proofs.YtofiaodpjpjedaaGreatDoor
