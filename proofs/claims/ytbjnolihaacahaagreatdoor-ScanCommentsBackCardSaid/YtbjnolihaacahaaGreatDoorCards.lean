/-
  DERIVED. GIVEN WITH THE SEED: THE CARDS: each row of YtbjnolihaacahaaGreatDoorRows.lean that lists a variable, with what it lists TIED to the program's text (the seventh form; the later family's looks); each row that meets fmt, with fmt's text TOLD by the authors' own Lean function (tested against real Go, not proved from fmt's source: count such statements apart). THE CARD IS WHAT COUNTS. Prove the row's statement (the work); the ties are given (YtbjnolihaacahaaGreatDoorTie.lean); close each card by the builder's one call (the guide's Derived/Test/ToyasCard.lean, 'card_holds'). Laid BY PROGRAM, IN A SANDBOX (cutbox-door.mjs). By AI agents, Wed Nov 11 2026. No macro, syntax, notation, axiom, sorry.
-/
import Derived.Test.YtbjnolihaacahaaGreatDoorRows
import GoSem.ClaimSeven
namespace Go.Proofs.YtbjnolihaacahaaGreatDoor
namespace Rows

/-- THE TIED CARD OF 'thicketlaw02.ScanReferences'. -/
def scanReferencesCard : Claim7 := { stood := { row := scanReferencesRow, standIns := [], harness := (true, "73d15110e199e46ed21a0e8a322f2899a65b3d2bcfc4d81133e3398f880dcdd5"), looks := false }, kinds := [], alts := [], laidByText := true, laidKinds := [.data, .data, .pinned], laidTests := true, laidLooks := .later }
def ScanReferencesCardSaid : Prop := Claim7.holds Tryz.pinned (.plain (OpenSpec.ofChange scanReferencesSpec)) scanReferencesCard

/-- THE TIED CARD OF 'thicketlaw02.ScanComments'. -/
def scanCommentsCard : Claim7 := { stood := { row := scanCommentsRow, standIns := [], harness := (true, "73d15110e199e46ed21a0e8a322f2899a65b3d2bcfc4d81133e3398f880dcdd5"), looks := false }, kinds := [], alts := [], laidByText := true, laidKinds := [.data, .data, .pinned], laidTests := true, laidLooks := .later }
def ScanCommentsCardSaid : Prop := Claim7.holds Tryz.pinned (.plain (OpenSpec.ofChange scanCommentsSpec)) scanCommentsCard

/-- THE TIED CARD OF 'thicketlaw02.ScanDoctypes'. -/
def scanDoctypesCard : Claim7 := { stood := { row := scanDoctypesRow, standIns := [], harness := (true, "73d15110e199e46ed21a0e8a322f2899a65b3d2bcfc4d81133e3398f880dcdd5"), looks := false }, kinds := [], alts := [], laidByText := true, laidKinds := [.data, .data, .pinned], laidTests := true, laidLooks := .later }
def ScanDoctypesCardSaid : Prop := Claim7.holds Tryz.pinned (.plain (OpenSpec.ofChange scanDoctypesSpec)) scanDoctypesCard

/-- THE TIED CARD OF 'thicketlaw02.ScanValues'. -/
def scanValuesCard : Claim7 := { stood := { row := scanValuesRow, standIns := [], harness := (true, "73d15110e199e46ed21a0e8a322f2899a65b3d2bcfc4d81133e3398f880dcdd5"), looks := false }, kinds := [], alts := [], laidByText := true, laidKinds := [.data, .data, .pinned], laidTests := true, laidLooks := .later }
def ScanValuesCardSaid : Prop := Claim7.holds Tryz.pinned (.plain (OpenSpec.ofChange scanValuesSpec)) scanValuesCard

/-- THE TIED CARD OF 'thicketlaw02.ScanRaw'. -/
def scanRawCard : Claim7 := { stood := { row := scanRawRow, standIns := [], harness := (true, "73d15110e199e46ed21a0e8a322f2899a65b3d2bcfc4d81133e3398f880dcdd5"), looks := false }, kinds := [], alts := [], laidByText := true, laidKinds := [.data, .data, .pinned], laidTests := true, laidLooks := .later }
def ScanRawCardSaid : Prop := Claim7.holds Tryz.pinned (.plain (OpenSpec.ofChange scanRawSpec)) scanRawCard

/-- THE TIED CARD OF 'thicketlaw02.ScanScripts'. -/
def scanScriptsCard : Claim7 := { stood := { row := scanScriptsRow, standIns := [], harness := (true, "73d15110e199e46ed21a0e8a322f2899a65b3d2bcfc4d81133e3398f880dcdd5"), looks := false }, kinds := [], alts := [], laidByText := true, laidKinds := [.data, .data, .pinned], laidTests := true, laidLooks := .later }
def ScanScriptsCardSaid : Prop := Claim7.holds Tryz.pinned (.plain (OpenSpec.ofChange scanScriptsSpec)) scanScriptsCard

/-- THE TIED CARD OF 'thicketlaw02.ScanClamps'. -/
def scanClampsCard : Claim7 := { stood := { row := scanClampsRow, standIns := [], harness := (true, "73d15110e199e46ed21a0e8a322f2899a65b3d2bcfc4d81133e3398f880dcdd5"), looks := false }, kinds := [], alts := [], laidByText := true, laidKinds := [.data, .data, .pinned], laidTests := true, laidLooks := .later }
def ScanClampsCardSaid : Prop := Claim7.holds Tryz.pinned (.plain (OpenSpec.ofChange scanClampsSpec)) scanClampsCard

/-- THE TIED CARD OF 'thicketlaw02.ScanLater'. -/
def scanLaterCard : Claim7 := { stood := { row := scanLaterRow, standIns := [], harness := (true, "73d15110e199e46ed21a0e8a322f2899a65b3d2bcfc4d81133e3398f880dcdd5"), looks := false }, kinds := [], alts := [], laidByText := true, laidKinds := [.data, .data, .pinned], laidTests := true, laidLooks := .later }
def ScanLaterCardSaid : Prop := Claim7.holds Tryz.pinned (.plain (OpenSpec.ofChange scanLaterSpec)) scanLaterCard

/-- THE TIED CARD OF 'thicketlaw02.ScanQuotes'. -/
def scanQuotesCard : Claim7 := { stood := { row := scanQuotesRow, standIns := [], harness := (true, "73d15110e199e46ed21a0e8a322f2899a65b3d2bcfc4d81133e3398f880dcdd5"), looks := false }, kinds := [], alts := [], laidByText := true, laidKinds := [.data, .data, .pinned], laidTests := true, laidLooks := .later }
def ScanQuotesCardSaid : Prop := Claim7.holds Tryz.pinned (.plain (OpenSpec.ofChange scanQuotesSpec)) scanQuotesCard

/-- THE TIED CARD OF 'thicketlaw02.ScanCommentsBack'. -/
def scanCommentsBackCard : Claim7 := { stood := { row := scanCommentsBackRow, standIns := [], harness := (true, "73d15110e199e46ed21a0e8a322f2899a65b3d2bcfc4d81133e3398f880dcdd5"), looks := false }, kinds := [], alts := [], laidByText := true, laidKinds := [.data, .data, .pinned], laidTests := true, laidLooks := .later }
def ScanCommentsBackCardSaid : Prop := Claim7.holds Tryz.pinned (.plain (OpenSpec.ofChange scanCommentsBackSpec)) scanCommentsBackCard

/-- THE SECOND FORM's CARD OF 'thicketlaw02.ScanReferences'. -/
def scanReferencesUptoCard : Claim7 := { stood := { row := scanReferencesUptoRow, standIns := [], harness := (true, "73d15110e199e46ed21a0e8a322f2899a65b3d2bcfc4d81133e3398f880dcdd5"), looks := false }, kinds := [], alts := [], laidByText := true, laidKinds := [.data, .data, .pinned], laidTests := true, laidLooks := .later }
def ScanReferencesUptoCardSaid : Prop := Claim7.holds Tryz.pinned (.plain (OpenSpec.upto scanReferencesSpec)) scanReferencesUptoCard

/-- THE SECOND FORM's CARD OF 'thicketlaw02.ScanComments'. -/
def scanCommentsUptoCard : Claim7 := { stood := { row := scanCommentsUptoRow, standIns := [], harness := (true, "73d15110e199e46ed21a0e8a322f2899a65b3d2bcfc4d81133e3398f880dcdd5"), looks := false }, kinds := [], alts := [], laidByText := true, laidKinds := [.data, .data, .pinned], laidTests := true, laidLooks := .later }
def ScanCommentsUptoCardSaid : Prop := Claim7.holds Tryz.pinned (.plain (OpenSpec.upto scanCommentsSpec)) scanCommentsUptoCard

/-- THE SECOND FORM's CARD OF 'thicketlaw02.ScanDoctypes'. -/
def scanDoctypesUptoCard : Claim7 := { stood := { row := scanDoctypesUptoRow, standIns := [], harness := (true, "73d15110e199e46ed21a0e8a322f2899a65b3d2bcfc4d81133e3398f880dcdd5"), looks := false }, kinds := [], alts := [], laidByText := true, laidKinds := [.data, .data, .pinned], laidTests := true, laidLooks := .later }
def ScanDoctypesUptoCardSaid : Prop := Claim7.holds Tryz.pinned (.plain (OpenSpec.upto scanDoctypesSpec)) scanDoctypesUptoCard

/-- THE SECOND FORM's CARD OF 'thicketlaw02.ScanValues'. -/
def scanValuesUptoCard : Claim7 := { stood := { row := scanValuesUptoRow, standIns := [], harness := (true, "73d15110e199e46ed21a0e8a322f2899a65b3d2bcfc4d81133e3398f880dcdd5"), looks := false }, kinds := [], alts := [], laidByText := true, laidKinds := [.data, .data, .pinned], laidTests := true, laidLooks := .later }
def ScanValuesUptoCardSaid : Prop := Claim7.holds Tryz.pinned (.plain (OpenSpec.upto scanValuesSpec)) scanValuesUptoCard

/-- THE SECOND FORM's CARD OF 'thicketlaw02.ScanRaw'. -/
def scanRawUptoCard : Claim7 := { stood := { row := scanRawUptoRow, standIns := [], harness := (true, "73d15110e199e46ed21a0e8a322f2899a65b3d2bcfc4d81133e3398f880dcdd5"), looks := false }, kinds := [], alts := [], laidByText := true, laidKinds := [.data, .data, .pinned], laidTests := true, laidLooks := .later }
def ScanRawUptoCardSaid : Prop := Claim7.holds Tryz.pinned (.plain (OpenSpec.upto scanRawSpec)) scanRawUptoCard

/-- THE SECOND FORM's CARD OF 'thicketlaw02.ScanScripts'. -/
def scanScriptsUptoCard : Claim7 := { stood := { row := scanScriptsUptoRow, standIns := [], harness := (true, "73d15110e199e46ed21a0e8a322f2899a65b3d2bcfc4d81133e3398f880dcdd5"), looks := false }, kinds := [], alts := [], laidByText := true, laidKinds := [.data, .data, .pinned], laidTests := true, laidLooks := .later }
def ScanScriptsUptoCardSaid : Prop := Claim7.holds Tryz.pinned (.plain (OpenSpec.upto scanScriptsSpec)) scanScriptsUptoCard

/-- THE SECOND FORM's CARD OF 'thicketlaw02.ScanClamps'. -/
def scanClampsUptoCard : Claim7 := { stood := { row := scanClampsUptoRow, standIns := [], harness := (true, "73d15110e199e46ed21a0e8a322f2899a65b3d2bcfc4d81133e3398f880dcdd5"), looks := false }, kinds := [], alts := [], laidByText := true, laidKinds := [.data, .data, .pinned], laidTests := true, laidLooks := .later }
def ScanClampsUptoCardSaid : Prop := Claim7.holds Tryz.pinned (.plain (OpenSpec.upto scanClampsSpec)) scanClampsUptoCard

/-- THE SECOND FORM's CARD OF 'thicketlaw02.ScanLater'. -/
def scanLaterUptoCard : Claim7 := { stood := { row := scanLaterUptoRow, standIns := [], harness := (true, "73d15110e199e46ed21a0e8a322f2899a65b3d2bcfc4d81133e3398f880dcdd5"), looks := false }, kinds := [], alts := [], laidByText := true, laidKinds := [.data, .data, .pinned], laidTests := true, laidLooks := .later }
def ScanLaterUptoCardSaid : Prop := Claim7.holds Tryz.pinned (.plain (OpenSpec.upto scanLaterSpec)) scanLaterUptoCard

/-- THE SECOND FORM's CARD OF 'thicketlaw02.ScanQuotes'. -/
def scanQuotesUptoCard : Claim7 := { stood := { row := scanQuotesUptoRow, standIns := [], harness := (true, "73d15110e199e46ed21a0e8a322f2899a65b3d2bcfc4d81133e3398f880dcdd5"), looks := false }, kinds := [], alts := [], laidByText := true, laidKinds := [.data, .data, .pinned], laidTests := true, laidLooks := .later }
def ScanQuotesUptoCardSaid : Prop := Claim7.holds Tryz.pinned (.plain (OpenSpec.upto scanQuotesSpec)) scanQuotesUptoCard

/-- THE SECOND FORM's CARD OF 'thicketlaw02.ScanCommentsBack'. -/
def scanCommentsBackUptoCard : Claim7 := { stood := { row := scanCommentsBackUptoRow, standIns := [], harness := (true, "73d15110e199e46ed21a0e8a322f2899a65b3d2bcfc4d81133e3398f880dcdd5"), looks := false }, kinds := [], alts := [], laidByText := true, laidKinds := [.data, .data, .pinned], laidTests := true, laidLooks := .later }
def ScanCommentsBackUptoCardSaid : Prop := Claim7.holds Tryz.pinned (.plain (OpenSpec.upto scanCommentsBackSpec)) scanCommentsBackUptoCard
end Rows
end Go.Proofs.YtbjnolihaacahaaGreatDoor
