/-
  DERIVED. GIVEN WITH THE SEED: THE CARDS: each row of YtheiehbfbgjgpabDoorRows.lean that lists a variable, with what it lists TIED to the program's text (the seventh form; the later family's looks); each row that meets fmt, with fmt's text TOLD by the authors' own Lean function (tested against real Go, not proved from fmt's source: count such statements apart). THE CARD IS WHAT COUNTS. Prove the row's statement (the work); the ties are given (YtheiehbfbgjgpabDoorTie.lean); close each card by the builder's one call (the guide's Derived/Test/ToyasCard.lean, 'card_holds'). Laid BY PROGRAM, IN A SANDBOX (cutbox-door.mjs). By AI agents, Wed Nov 11 2026. No macro, syntax, notation, axiom, sorry.
-/
import Derived.Test.YtheiehbfbgjgpabDoorRows
import GoSem.ClaimSeven
namespace Go.Proofs.YtheiehbfbgjgpabDoor
namespace Rows

/-- THE TIED CARD OF 'thicketlaw01.TextScalars'. -/
def textScalarsCard : Claim7 := { stood := { row := textScalarsRow, standIns := [], harness := (true, "2ef9b4121708dc20bfe954926ba24f497fa43e73b5950fb6d2388eafcd9da9e3"), looks := false }, kinds := [], alts := [], laidByText := true, laidKinds := [.data, .pinned], laidTests := true, laidLooks := .later }
def TextScalarsCardSaid : Prop := Claim7.holds Tryd.pinned (.plain (OpenSpec.ofChange textScalarsSpec)) textScalarsCard

/-- THE TIED CARD OF 'thicketlaw01.TextNamed'. -/
def textNamedCard : Claim7 := { stood := { row := textNamedRow, standIns := [], harness := (true, "2ef9b4121708dc20bfe954926ba24f497fa43e73b5950fb6d2388eafcd9da9e3"), looks := false }, kinds := [], alts := [], laidByText := true, laidKinds := [.data, .pinned], laidTests := true, laidLooks := .later }
def TextNamedCardSaid : Prop := Claim7.holds Tryd.pinned (.plain (OpenSpec.ofChange textNamedSpec)) textNamedCard

/-- THE TIED CARD OF 'thicketlaw01.TextTable'. -/
def textTableCard : Claim7 := { stood := { row := textTableRow, standIns := [], harness := (true, "2ef9b4121708dc20bfe954926ba24f497fa43e73b5950fb6d2388eafcd9da9e3"), looks := false }, kinds := [], alts := [], laidByText := true, laidKinds := [.data, .pinned], laidTests := true, laidLooks := .later }
def TextTableCardSaid : Prop := Claim7.holds Tryd.pinned (.plain (OpenSpec.ofChange textTableSpec)) textTableCard

/-- THE TIED CARD OF 'thicketlaw01.TextBehind'. -/
def textBehindCard : Claim7 := { stood := { row := textBehindRow, standIns := [], harness := (true, "2ef9b4121708dc20bfe954926ba24f497fa43e73b5950fb6d2388eafcd9da9e3"), looks := false }, kinds := [], alts := [], laidByText := true, laidKinds := [.data, .pinned], laidTests := true, laidLooks := .later }
def TextBehindCardSaid : Prop := Claim7.holds Tryd.pinned (.plain (OpenSpec.ofChange textBehindSpec)) textBehindCard

/-- THE TIED CARD OF 'thicketlaw01.TextCodes'. -/
def textCodesCard : Claim7 := { stood := { row := textCodesRow, standIns := [], harness := (true, "2ef9b4121708dc20bfe954926ba24f497fa43e73b5950fb6d2388eafcd9da9e3"), looks := false }, kinds := [], alts := [], laidByText := true, laidKinds := [.data, .data, .pinned], laidTests := true, laidLooks := .later }
def TextCodesCardSaid : Prop := Claim7.holds Tryd.pinned (.plain (OpenSpec.ofChange textCodesSpec)) textCodesCard

/-- THE TIED CARD OF 'thicketlaw01.TextEscapes'. -/
def textEscapesCard : Claim7 := { stood := { row := textEscapesRow, standIns := [], harness := (true, "2ef9b4121708dc20bfe954926ba24f497fa43e73b5950fb6d2388eafcd9da9e3"), looks := false }, kinds := [], alts := [], laidByText := true, laidKinds := [.data, .pinned], laidTests := true, laidLooks := .later }
def TextEscapesCardSaid : Prop := Claim7.holds Tryd.pinned (.plain (OpenSpec.ofChange textEscapesSpec)) textEscapesCard

/-- THE TIED CARD OF 'thicketlaw01.TextEscaped'. -/
def textEscapedCard : Claim7 := { stood := { row := textEscapedRow, standIns := [], harness := (true, "2ef9b4121708dc20bfe954926ba24f497fa43e73b5950fb6d2388eafcd9da9e3"), looks := false }, kinds := [], alts := [], laidByText := true, laidKinds := [.data, .pinned], laidTests := true, laidLooks := .later }
def TextEscapedCardSaid : Prop := Claim7.holds Tryd.pinned (.plain (OpenSpec.ofChange textEscapedSpec)) textEscapedCard

/-- THE SECOND FORM's CARD OF 'thicketlaw01.TextScalars'. -/
def textScalarsUptoCard : Claim7 := { stood := { row := textScalarsUptoRow, standIns := [], harness := (true, "2ef9b4121708dc20bfe954926ba24f497fa43e73b5950fb6d2388eafcd9da9e3"), looks := false }, kinds := [], alts := [], laidByText := true, laidKinds := [.data, .pinned], laidTests := true, laidLooks := .later }
def TextScalarsUptoCardSaid : Prop := Claim7.holds Tryd.pinned (.plain (OpenSpec.upto textScalarsSpec)) textScalarsUptoCard

/-- THE SECOND FORM's CARD OF 'thicketlaw01.TextNamed'. -/
def textNamedUptoCard : Claim7 := { stood := { row := textNamedUptoRow, standIns := [], harness := (true, "2ef9b4121708dc20bfe954926ba24f497fa43e73b5950fb6d2388eafcd9da9e3"), looks := false }, kinds := [], alts := [], laidByText := true, laidKinds := [.data, .pinned], laidTests := true, laidLooks := .later }
def TextNamedUptoCardSaid : Prop := Claim7.holds Tryd.pinned (.plain (OpenSpec.upto textNamedSpec)) textNamedUptoCard

/-- THE SECOND FORM's CARD OF 'thicketlaw01.TextTable'. -/
def textTableUptoCard : Claim7 := { stood := { row := textTableUptoRow, standIns := [], harness := (true, "2ef9b4121708dc20bfe954926ba24f497fa43e73b5950fb6d2388eafcd9da9e3"), looks := false }, kinds := [], alts := [], laidByText := true, laidKinds := [.data, .pinned], laidTests := true, laidLooks := .later }
def TextTableUptoCardSaid : Prop := Claim7.holds Tryd.pinned (.plain (OpenSpec.upto textTableSpec)) textTableUptoCard

/-- THE SECOND FORM's CARD OF 'thicketlaw01.TextBehind'. -/
def textBehindUptoCard : Claim7 := { stood := { row := textBehindUptoRow, standIns := [], harness := (true, "2ef9b4121708dc20bfe954926ba24f497fa43e73b5950fb6d2388eafcd9da9e3"), looks := false }, kinds := [], alts := [], laidByText := true, laidKinds := [.data, .pinned], laidTests := true, laidLooks := .later }
def TextBehindUptoCardSaid : Prop := Claim7.holds Tryd.pinned (.plain (OpenSpec.upto textBehindSpec)) textBehindUptoCard

/-- THE SECOND FORM's CARD OF 'thicketlaw01.TextCodes'. -/
def textCodesUptoCard : Claim7 := { stood := { row := textCodesUptoRow, standIns := [], harness := (true, "2ef9b4121708dc20bfe954926ba24f497fa43e73b5950fb6d2388eafcd9da9e3"), looks := false }, kinds := [], alts := [], laidByText := true, laidKinds := [.data, .data, .pinned], laidTests := true, laidLooks := .later }
def TextCodesUptoCardSaid : Prop := Claim7.holds Tryd.pinned (.plain (OpenSpec.upto textCodesSpec)) textCodesUptoCard

/-- THE SECOND FORM's CARD OF 'thicketlaw01.TextEscapes'. -/
def textEscapesUptoCard : Claim7 := { stood := { row := textEscapesUptoRow, standIns := [], harness := (true, "2ef9b4121708dc20bfe954926ba24f497fa43e73b5950fb6d2388eafcd9da9e3"), looks := false }, kinds := [], alts := [], laidByText := true, laidKinds := [.data, .pinned], laidTests := true, laidLooks := .later }
def TextEscapesUptoCardSaid : Prop := Claim7.holds Tryd.pinned (.plain (OpenSpec.upto textEscapesSpec)) textEscapesUptoCard

/-- THE SECOND FORM's CARD OF 'thicketlaw01.TextEscaped'. -/
def textEscapedUptoCard : Claim7 := { stood := { row := textEscapedUptoRow, standIns := [], harness := (true, "2ef9b4121708dc20bfe954926ba24f497fa43e73b5950fb6d2388eafcd9da9e3"), looks := false }, kinds := [], alts := [], laidByText := true, laidKinds := [.data, .pinned], laidTests := true, laidLooks := .later }
def TextEscapedUptoCardSaid : Prop := Claim7.holds Tryd.pinned (.plain (OpenSpec.upto textEscapedSpec)) textEscapedUptoCard
end Rows
end Go.Proofs.YtheiehbfbgjgpabDoor
