/-
  DERIVED. GIVEN WITH THE SEED: THE CARDS: each row of YtnfccckodgknjaaGreatDoorRows.lean that lists a variable, with what it lists TIED to the program's text (the seventh form; the later family's looks); each row that meets fmt, with fmt's text TOLD by the authors' own Lean function (tested against real Go, not proved from fmt's source: count such statements apart). THE CARD IS WHAT COUNTS. Prove the row's statement (the work); the ties are given (YtnfccckodgknjaaGreatDoorTie.lean); close each card by the builder's one call (the guide's Derived/Test/ToyasCard.lean, 'card_holds'). Laid BY PROGRAM, IN A SANDBOX (cutbox-door.mjs). By AI agents, Wed Nov 11 2026. No macro, syntax, notation, axiom, sorry.
-/
import Derived.Test.YtnfccckodgknjaaGreatDoorRows
import GoSem.ClaimSeven
namespace Go.Proofs.YtnfccckodgknjaaGreatDoor
namespace Rows

/-- THE TIED CARD OF 'thicketlaw02.ScanAttributesBack'. -/
def scanAttributesBackCard : Claim7 := { stood := { row := scanAttributesBackRow, standIns := [], harness := (true, "98172cd19bc233f701d9378746da15373b38dbee0f50da510a4b4eae35dc99a7"), looks := false }, kinds := [], alts := [], laidByText := true, laidKinds := [.data, .data, .pinned], laidTests := true, laidLooks := .later }
def ScanAttributesBackCardSaid : Prop := Claim7.holds Tryz.pinned (.plain (OpenSpec.ofChange scanAttributesBackSpec)) scanAttributesBackCard

/-- THE TIED CARD OF 'thicketlaw02.ScanDoctypes'. -/
def scanDoctypesCard : Claim7 := { stood := { row := scanDoctypesRow, standIns := [], harness := (true, "98172cd19bc233f701d9378746da15373b38dbee0f50da510a4b4eae35dc99a7"), looks := false }, kinds := [], alts := [], laidByText := true, laidKinds := [.data, .data, .pinned], laidTests := true, laidLooks := .later }
def ScanDoctypesCardSaid : Prop := Claim7.holds Tryz.pinned (.plain (OpenSpec.ofChange scanDoctypesSpec)) scanDoctypesCard

/-- THE TIED CARD OF 'thicketlaw02.ScanMarkup'. -/
def scanMarkupCard : Claim7 := { stood := { row := scanMarkupRow, standIns := [], harness := (true, "98172cd19bc233f701d9378746da15373b38dbee0f50da510a4b4eae35dc99a7"), looks := false }, kinds := [], alts := [], laidByText := true, laidKinds := [.data, .data, .pinned], laidTests := true, laidLooks := .later }
def ScanMarkupCardSaid : Prop := Claim7.holds Tryz.pinned (.plain (OpenSpec.ofChange scanMarkupSpec)) scanMarkupCard

/-- THE TIED CARD OF 'thicketlaw03.LexerEquals'. -/
def lexerEqualsCard : Claim7 := { stood := { row := lexerEqualsRow, standIns := [], harness := (true, "98172cd19bc233f701d9378746da15373b38dbee0f50da510a4b4eae35dc99a7"), looks := false }, kinds := [], alts := [], laidByText := true, laidKinds := [.data, .data, .pinned], laidTests := true, laidLooks := .later }
def LexerEqualsCardSaid : Prop := Claim7.holds Tryz.pinned (.plain (OpenSpec.ofChange lexerEqualsSpec)) lexerEqualsCard

/-- THE TIED CARD OF 'thicketlaw03.LexerAttrs'. -/
def lexerAttrsCard : Claim7 := { stood := { row := lexerAttrsRow, standIns := [], harness := (true, "98172cd19bc233f701d9378746da15373b38dbee0f50da510a4b4eae35dc99a7"), looks := false }, kinds := [], alts := [], laidByText := true, laidKinds := [.data, .data, .pinned], laidTests := true, laidLooks := .later }
def LexerAttrsCardSaid : Prop := Claim7.holds Tryz.pinned (.plain (OpenSpec.ofChange lexerAttrsSpec)) lexerAttrsCard

/-- THE TIED CARD OF 'thicketlaw03.LexerMakes'. -/
def lexerMakesCard : Claim7 := { stood := { row := lexerMakesRow, standIns := [], harness := (true, "98172cd19bc233f701d9378746da15373b38dbee0f50da510a4b4eae35dc99a7"), looks := false }, kinds := [], alts := [], laidByText := true, laidKinds := [.data, .data, .pinned], laidTests := true, laidLooks := .later }
def LexerMakesCardSaid : Prop := Claim7.holds Tryz.pinned (.plain (OpenSpec.ofChange lexerMakesSpec)) lexerMakesCard

/-- THE TIED CARD OF 'thicketlaw03.LexerText'. -/
def lexerTextCard : Claim7 := { stood := { row := lexerTextRow, standIns := [], harness := (true, "98172cd19bc233f701d9378746da15373b38dbee0f50da510a4b4eae35dc99a7"), looks := false }, kinds := [], alts := [], laidByText := true, laidKinds := [.data, .data, .pinned], laidTests := true, laidLooks := .later }
def LexerTextCardSaid : Prop := Claim7.holds Tryz.pinned (.plain (OpenSpec.ofChange lexerTextSpec)) lexerTextCard

/-- THE TIED CARD OF 'thicketlaw03.LexerAll'. -/
def lexerAllCard : Claim7 := { stood := { row := lexerAllRow, standIns := [], harness := (true, "98172cd19bc233f701d9378746da15373b38dbee0f50da510a4b4eae35dc99a7"), looks := false }, kinds := [], alts := [], laidByText := true, laidKinds := [.data, .data, .pinned], laidTests := true, laidLooks := .later }
def LexerAllCardSaid : Prop := Claim7.holds Tryz.pinned (.plain (OpenSpec.ofChange lexerAllSpec)) lexerAllCard

/-- THE SECOND FORM's CARD OF 'thicketlaw02.ScanAttributesBack'. -/
def scanAttributesBackUptoCard : Claim7 := { stood := { row := scanAttributesBackUptoRow, standIns := [], harness := (true, "98172cd19bc233f701d9378746da15373b38dbee0f50da510a4b4eae35dc99a7"), looks := false }, kinds := [], alts := [], laidByText := true, laidKinds := [.data, .data, .pinned], laidTests := true, laidLooks := .later }
def ScanAttributesBackUptoCardSaid : Prop := Claim7.holds Tryz.pinned (.plain (OpenSpec.upto scanAttributesBackSpec)) scanAttributesBackUptoCard

/-- THE SECOND FORM's CARD OF 'thicketlaw02.ScanDoctypes'. -/
def scanDoctypesUptoCard : Claim7 := { stood := { row := scanDoctypesUptoRow, standIns := [], harness := (true, "98172cd19bc233f701d9378746da15373b38dbee0f50da510a4b4eae35dc99a7"), looks := false }, kinds := [], alts := [], laidByText := true, laidKinds := [.data, .data, .pinned], laidTests := true, laidLooks := .later }
def ScanDoctypesUptoCardSaid : Prop := Claim7.holds Tryz.pinned (.plain (OpenSpec.upto scanDoctypesSpec)) scanDoctypesUptoCard

/-- THE SECOND FORM's CARD OF 'thicketlaw02.ScanMarkup'. -/
def scanMarkupUptoCard : Claim7 := { stood := { row := scanMarkupUptoRow, standIns := [], harness := (true, "98172cd19bc233f701d9378746da15373b38dbee0f50da510a4b4eae35dc99a7"), looks := false }, kinds := [], alts := [], laidByText := true, laidKinds := [.data, .data, .pinned], laidTests := true, laidLooks := .later }
def ScanMarkupUptoCardSaid : Prop := Claim7.holds Tryz.pinned (.plain (OpenSpec.upto scanMarkupSpec)) scanMarkupUptoCard

/-- THE SECOND FORM's CARD OF 'thicketlaw03.LexerEquals'. -/
def lexerEqualsUptoCard : Claim7 := { stood := { row := lexerEqualsUptoRow, standIns := [], harness := (true, "98172cd19bc233f701d9378746da15373b38dbee0f50da510a4b4eae35dc99a7"), looks := false }, kinds := [], alts := [], laidByText := true, laidKinds := [.data, .data, .pinned], laidTests := true, laidLooks := .later }
def LexerEqualsUptoCardSaid : Prop := Claim7.holds Tryz.pinned (.plain (OpenSpec.upto lexerEqualsSpec)) lexerEqualsUptoCard

/-- THE SECOND FORM's CARD OF 'thicketlaw03.LexerAttrs'. -/
def lexerAttrsUptoCard : Claim7 := { stood := { row := lexerAttrsUptoRow, standIns := [], harness := (true, "98172cd19bc233f701d9378746da15373b38dbee0f50da510a4b4eae35dc99a7"), looks := false }, kinds := [], alts := [], laidByText := true, laidKinds := [.data, .data, .pinned], laidTests := true, laidLooks := .later }
def LexerAttrsUptoCardSaid : Prop := Claim7.holds Tryz.pinned (.plain (OpenSpec.upto lexerAttrsSpec)) lexerAttrsUptoCard

/-- THE SECOND FORM's CARD OF 'thicketlaw03.LexerMakes'. -/
def lexerMakesUptoCard : Claim7 := { stood := { row := lexerMakesUptoRow, standIns := [], harness := (true, "98172cd19bc233f701d9378746da15373b38dbee0f50da510a4b4eae35dc99a7"), looks := false }, kinds := [], alts := [], laidByText := true, laidKinds := [.data, .data, .pinned], laidTests := true, laidLooks := .later }
def LexerMakesUptoCardSaid : Prop := Claim7.holds Tryz.pinned (.plain (OpenSpec.upto lexerMakesSpec)) lexerMakesUptoCard

/-- THE SECOND FORM's CARD OF 'thicketlaw03.LexerText'. -/
def lexerTextUptoCard : Claim7 := { stood := { row := lexerTextUptoRow, standIns := [], harness := (true, "98172cd19bc233f701d9378746da15373b38dbee0f50da510a4b4eae35dc99a7"), looks := false }, kinds := [], alts := [], laidByText := true, laidKinds := [.data, .data, .pinned], laidTests := true, laidLooks := .later }
def LexerTextUptoCardSaid : Prop := Claim7.holds Tryz.pinned (.plain (OpenSpec.upto lexerTextSpec)) lexerTextUptoCard

/-- THE SECOND FORM's CARD OF 'thicketlaw03.LexerAll'. -/
def lexerAllUptoCard : Claim7 := { stood := { row := lexerAllUptoRow, standIns := [], harness := (true, "98172cd19bc233f701d9378746da15373b38dbee0f50da510a4b4eae35dc99a7"), looks := false }, kinds := [], alts := [], laidByText := true, laidKinds := [.data, .data, .pinned], laidTests := true, laidLooks := .later }
def LexerAllUptoCardSaid : Prop := Claim7.holds Tryz.pinned (.plain (OpenSpec.upto lexerAllSpec)) lexerAllUptoCard
end Rows
end Go.Proofs.YtnfccckodgknjaaGreatDoor
