/-
  DERIVED. GIVEN WITH THE SEED: THE CARDS: each row of YtbacdfceiofahaaGreatDoorRows.lean that lists a variable, with what it lists TIED to the program's text (the seventh form; the later family's looks); each row that meets fmt, with fmt's text TOLD by the authors' own Lean function (tested against real Go, not proved from fmt's source: count such statements apart). THE CARD IS WHAT COUNTS. Prove the row's statement (the work); the ties are given (YtbacdfceiofahaaGreatDoorTie.lean); close each card by the builder's one call (the guide's Derived/Test/ToyasCard.lean, 'card_holds'). Laid BY PROGRAM, IN A SANDBOX (cutbox-door.mjs). By AI agents, Wed Nov 11 2026. No macro, syntax, notation, axiom, sorry.
-/
import Derived.Test.YtbacdfceiofahaaGreatDoorRows
import GoSem.ClaimSeven
namespace Go.Proofs.YtbacdfceiofahaaGreatDoor
namespace Rows

/-- THE TIED CARD OF 'thicketlaw02.ScanDoctypes'. -/
def scanDoctypesCard : Claim7 := { stood := { row := scanDoctypesRow, standIns := [], harness := (true, "2670dca30e0e656bed0cc3632204217c09ea691f5e257014c941775f88baa77f"), looks := false }, kinds := [], alts := [], laidByText := true, laidKinds := [.data, .data, .pinned], laidTests := true, laidLooks := .later }
def ScanDoctypesCardSaid : Prop := Claim7.holds Tryz.pinned (.plain (OpenSpec.ofChange scanDoctypesSpec)) scanDoctypesCard

/-- THE TIED CARD OF 'thicketlaw02.ScanTags'. -/
def scanTagsCard : Claim7 := { stood := { row := scanTagsRow, standIns := [], harness := (true, "2670dca30e0e656bed0cc3632204217c09ea691f5e257014c941775f88baa77f"), looks := false }, kinds := [], alts := [], laidByText := true, laidKinds := [.data, .data, .pinned], laidTests := true, laidLooks := .later }
def ScanTagsCardSaid : Prop := Claim7.holds Tryz.pinned (.plain (OpenSpec.ofChange scanTagsSpec)) scanTagsCard

/-- THE TIED CARD OF 'thicketlaw02.ScanMarkup'. -/
def scanMarkupCard : Claim7 := { stood := { row := scanMarkupRow, standIns := [], harness := (true, "2670dca30e0e656bed0cc3632204217c09ea691f5e257014c941775f88baa77f"), looks := false }, kinds := [], alts := [], laidByText := true, laidKinds := [.data, .data, .pinned], laidTests := true, laidLooks := .later }
def ScanMarkupCardSaid : Prop := Claim7.holds Tryz.pinned (.plain (OpenSpec.ofChange scanMarkupSpec)) scanMarkupCard

/-- THE TIED CARD OF 'thicketlaw02.ScanLocal'. -/
def scanLocalCard : Claim7 := { stood := { row := scanLocalRow, standIns := [], harness := (true, "2670dca30e0e656bed0cc3632204217c09ea691f5e257014c941775f88baa77f"), looks := false }, kinds := [], alts := [], laidByText := true, laidKinds := [.data, .data, .pinned], laidTests := true, laidLooks := .later }
def ScanLocalCardSaid : Prop := Claim7.holds Tryz.pinned (.plain (OpenSpec.ofChange scanLocalSpec)) scanLocalCard

/-- THE TIED CARD OF 'thicketlaw02.ScanClamps'. -/
def scanClampsCard : Claim7 := { stood := { row := scanClampsRow, standIns := [], harness := (true, "2670dca30e0e656bed0cc3632204217c09ea691f5e257014c941775f88baa77f"), looks := false }, kinds := [], alts := [], laidByText := true, laidKinds := [.data, .data, .pinned], laidTests := true, laidLooks := .later }
def ScanClampsCardSaid : Prop := Claim7.holds Tryz.pinned (.plain (OpenSpec.ofChange scanClampsSpec)) scanClampsCard

/-- THE TIED CARD OF 'thicketlaw02.ScanAttributesBack'. -/
def scanAttributesBackCard : Claim7 := { stood := { row := scanAttributesBackRow, standIns := [], harness := (true, "2670dca30e0e656bed0cc3632204217c09ea691f5e257014c941775f88baa77f"), looks := false }, kinds := [], alts := [], laidByText := true, laidKinds := [.data, .data, .pinned], laidTests := true, laidLooks := .later }
def ScanAttributesBackCardSaid : Prop := Claim7.holds Tryz.pinned (.plain (OpenSpec.ofChange scanAttributesBackSpec)) scanAttributesBackCard

/-- THE TIED CARD OF 'thicketlaw02.ScanShapes'. -/
def scanShapesCard : Claim7 := { stood := { row := scanShapesRow, standIns := [], harness := (true, "2670dca30e0e656bed0cc3632204217c09ea691f5e257014c941775f88baa77f"), looks := false }, kinds := [], alts := [], laidByText := true, laidKinds := [.data, .data, .pinned], laidTests := true, laidLooks := .later }
def ScanShapesCardSaid : Prop := Claim7.holds Tryz.pinned (.plain (OpenSpec.ofChange scanShapesSpec)) scanShapesCard

/-- THE TIED CARD OF 'thicketlaw03.LexerEquals'. -/
def lexerEqualsCard : Claim7 := { stood := { row := lexerEqualsRow, standIns := [], harness := (true, "2670dca30e0e656bed0cc3632204217c09ea691f5e257014c941775f88baa77f"), looks := false }, kinds := [], alts := [], laidByText := true, laidKinds := [.data, .data, .pinned], laidTests := true, laidLooks := .later }
def LexerEqualsCardSaid : Prop := Claim7.holds Tryz.pinned (.plain (OpenSpec.ofChange lexerEqualsSpec)) lexerEqualsCard

/-- THE TIED CARD OF 'thicketlaw03.LexerAttrs'. -/
def lexerAttrsCard : Claim7 := { stood := { row := lexerAttrsRow, standIns := [], harness := (true, "2670dca30e0e656bed0cc3632204217c09ea691f5e257014c941775f88baa77f"), looks := false }, kinds := [], alts := [], laidByText := true, laidKinds := [.data, .data, .pinned], laidTests := true, laidLooks := .later }
def LexerAttrsCardSaid : Prop := Claim7.holds Tryz.pinned (.plain (OpenSpec.ofChange lexerAttrsSpec)) lexerAttrsCard

/-- THE TIED CARD OF 'thicketlaw03.LexerMakes'. -/
def lexerMakesCard : Claim7 := { stood := { row := lexerMakesRow, standIns := [], harness := (true, "2670dca30e0e656bed0cc3632204217c09ea691f5e257014c941775f88baa77f"), looks := false }, kinds := [], alts := [], laidByText := true, laidKinds := [.data, .data, .pinned], laidTests := true, laidLooks := .later }
def LexerMakesCardSaid : Prop := Claim7.holds Tryz.pinned (.plain (OpenSpec.ofChange lexerMakesSpec)) lexerMakesCard

/-- THE TIED CARD OF 'thicketlaw03.LexerPrints'. -/
def lexerPrintsCard : Claim7 := { stood := { row := lexerPrintsRow, standIns := [], harness := (true, "2670dca30e0e656bed0cc3632204217c09ea691f5e257014c941775f88baa77f"), looks := false }, kinds := [], alts := [], laidByText := true, laidKinds := [.data, .data, .pinned], laidTests := true, laidLooks := .later }
def LexerPrintsCardSaid : Prop := Claim7.holds Tryz.pinned (.plain (OpenSpec.ofChange lexerPrintsSpec)) lexerPrintsCard

/-- THE TIED CARD OF 'thicketlaw03.LexerText'. -/
def lexerTextCard : Claim7 := { stood := { row := lexerTextRow, standIns := [], harness := (true, "2670dca30e0e656bed0cc3632204217c09ea691f5e257014c941775f88baa77f"), looks := false }, kinds := [], alts := [], laidByText := true, laidKinds := [.data, .data, .pinned], laidTests := true, laidLooks := .later }
def LexerTextCardSaid : Prop := Claim7.holds Tryz.pinned (.plain (OpenSpec.ofChange lexerTextSpec)) lexerTextCard

/-- THE SECOND FORM's CARD OF 'thicketlaw02.ScanDoctypes'. -/
def scanDoctypesUptoCard : Claim7 := { stood := { row := scanDoctypesUptoRow, standIns := [], harness := (true, "2670dca30e0e656bed0cc3632204217c09ea691f5e257014c941775f88baa77f"), looks := false }, kinds := [], alts := [], laidByText := true, laidKinds := [.data, .data, .pinned], laidTests := true, laidLooks := .later }
def ScanDoctypesUptoCardSaid : Prop := Claim7.holds Tryz.pinned (.plain (OpenSpec.upto scanDoctypesSpec)) scanDoctypesUptoCard

/-- THE SECOND FORM's CARD OF 'thicketlaw02.ScanTags'. -/
def scanTagsUptoCard : Claim7 := { stood := { row := scanTagsUptoRow, standIns := [], harness := (true, "2670dca30e0e656bed0cc3632204217c09ea691f5e257014c941775f88baa77f"), looks := false }, kinds := [], alts := [], laidByText := true, laidKinds := [.data, .data, .pinned], laidTests := true, laidLooks := .later }
def ScanTagsUptoCardSaid : Prop := Claim7.holds Tryz.pinned (.plain (OpenSpec.upto scanTagsSpec)) scanTagsUptoCard

/-- THE SECOND FORM's CARD OF 'thicketlaw02.ScanMarkup'. -/
def scanMarkupUptoCard : Claim7 := { stood := { row := scanMarkupUptoRow, standIns := [], harness := (true, "2670dca30e0e656bed0cc3632204217c09ea691f5e257014c941775f88baa77f"), looks := false }, kinds := [], alts := [], laidByText := true, laidKinds := [.data, .data, .pinned], laidTests := true, laidLooks := .later }
def ScanMarkupUptoCardSaid : Prop := Claim7.holds Tryz.pinned (.plain (OpenSpec.upto scanMarkupSpec)) scanMarkupUptoCard

/-- THE SECOND FORM's CARD OF 'thicketlaw02.ScanLocal'. -/
def scanLocalUptoCard : Claim7 := { stood := { row := scanLocalUptoRow, standIns := [], harness := (true, "2670dca30e0e656bed0cc3632204217c09ea691f5e257014c941775f88baa77f"), looks := false }, kinds := [], alts := [], laidByText := true, laidKinds := [.data, .data, .pinned], laidTests := true, laidLooks := .later }
def ScanLocalUptoCardSaid : Prop := Claim7.holds Tryz.pinned (.plain (OpenSpec.upto scanLocalSpec)) scanLocalUptoCard

/-- THE SECOND FORM's CARD OF 'thicketlaw02.ScanClamps'. -/
def scanClampsUptoCard : Claim7 := { stood := { row := scanClampsUptoRow, standIns := [], harness := (true, "2670dca30e0e656bed0cc3632204217c09ea691f5e257014c941775f88baa77f"), looks := false }, kinds := [], alts := [], laidByText := true, laidKinds := [.data, .data, .pinned], laidTests := true, laidLooks := .later }
def ScanClampsUptoCardSaid : Prop := Claim7.holds Tryz.pinned (.plain (OpenSpec.upto scanClampsSpec)) scanClampsUptoCard

/-- THE SECOND FORM's CARD OF 'thicketlaw02.ScanAttributesBack'. -/
def scanAttributesBackUptoCard : Claim7 := { stood := { row := scanAttributesBackUptoRow, standIns := [], harness := (true, "2670dca30e0e656bed0cc3632204217c09ea691f5e257014c941775f88baa77f"), looks := false }, kinds := [], alts := [], laidByText := true, laidKinds := [.data, .data, .pinned], laidTests := true, laidLooks := .later }
def ScanAttributesBackUptoCardSaid : Prop := Claim7.holds Tryz.pinned (.plain (OpenSpec.upto scanAttributesBackSpec)) scanAttributesBackUptoCard

/-- THE SECOND FORM's CARD OF 'thicketlaw02.ScanShapes'. -/
def scanShapesUptoCard : Claim7 := { stood := { row := scanShapesUptoRow, standIns := [], harness := (true, "2670dca30e0e656bed0cc3632204217c09ea691f5e257014c941775f88baa77f"), looks := false }, kinds := [], alts := [], laidByText := true, laidKinds := [.data, .data, .pinned], laidTests := true, laidLooks := .later }
def ScanShapesUptoCardSaid : Prop := Claim7.holds Tryz.pinned (.plain (OpenSpec.upto scanShapesSpec)) scanShapesUptoCard

/-- THE SECOND FORM's CARD OF 'thicketlaw03.LexerEquals'. -/
def lexerEqualsUptoCard : Claim7 := { stood := { row := lexerEqualsUptoRow, standIns := [], harness := (true, "2670dca30e0e656bed0cc3632204217c09ea691f5e257014c941775f88baa77f"), looks := false }, kinds := [], alts := [], laidByText := true, laidKinds := [.data, .data, .pinned], laidTests := true, laidLooks := .later }
def LexerEqualsUptoCardSaid : Prop := Claim7.holds Tryz.pinned (.plain (OpenSpec.upto lexerEqualsSpec)) lexerEqualsUptoCard

/-- THE SECOND FORM's CARD OF 'thicketlaw03.LexerAttrs'. -/
def lexerAttrsUptoCard : Claim7 := { stood := { row := lexerAttrsUptoRow, standIns := [], harness := (true, "2670dca30e0e656bed0cc3632204217c09ea691f5e257014c941775f88baa77f"), looks := false }, kinds := [], alts := [], laidByText := true, laidKinds := [.data, .data, .pinned], laidTests := true, laidLooks := .later }
def LexerAttrsUptoCardSaid : Prop := Claim7.holds Tryz.pinned (.plain (OpenSpec.upto lexerAttrsSpec)) lexerAttrsUptoCard

/-- THE SECOND FORM's CARD OF 'thicketlaw03.LexerMakes'. -/
def lexerMakesUptoCard : Claim7 := { stood := { row := lexerMakesUptoRow, standIns := [], harness := (true, "2670dca30e0e656bed0cc3632204217c09ea691f5e257014c941775f88baa77f"), looks := false }, kinds := [], alts := [], laidByText := true, laidKinds := [.data, .data, .pinned], laidTests := true, laidLooks := .later }
def LexerMakesUptoCardSaid : Prop := Claim7.holds Tryz.pinned (.plain (OpenSpec.upto lexerMakesSpec)) lexerMakesUptoCard

/-- THE SECOND FORM's CARD OF 'thicketlaw03.LexerPrints'. -/
def lexerPrintsUptoCard : Claim7 := { stood := { row := lexerPrintsUptoRow, standIns := [], harness := (true, "2670dca30e0e656bed0cc3632204217c09ea691f5e257014c941775f88baa77f"), looks := false }, kinds := [], alts := [], laidByText := true, laidKinds := [.data, .data, .pinned], laidTests := true, laidLooks := .later }
def LexerPrintsUptoCardSaid : Prop := Claim7.holds Tryz.pinned (.plain (OpenSpec.upto lexerPrintsSpec)) lexerPrintsUptoCard

/-- THE SECOND FORM's CARD OF 'thicketlaw03.LexerText'. -/
def lexerTextUptoCard : Claim7 := { stood := { row := lexerTextUptoRow, standIns := [], harness := (true, "2670dca30e0e656bed0cc3632204217c09ea691f5e257014c941775f88baa77f"), looks := false }, kinds := [], alts := [], laidByText := true, laidKinds := [.data, .data, .pinned], laidTests := true, laidLooks := .later }
def LexerTextUptoCardSaid : Prop := Claim7.holds Tryz.pinned (.plain (OpenSpec.upto lexerTextSpec)) lexerTextUptoCard
end Rows
end Go.Proofs.YtbacdfceiofahaaGreatDoor
