/-
  NARROWER THAN 'FOR EVERY INPUT', by the rows' own cells (each row's printed sentence says how): ScanAttributesBack: laid · ScanDoctypes: laid · ScanMarkup: laid · LexerEquals: laid · LexerAttrs: laid · LexerMakes: laid · LexerText: laid · LexerAll: laid.
  DERIVED. THE GIVEN ROWS OF THIS SEAT. 8 by the template 'for every input the law returns true; each argument reads behind the call as it read before'; 0 by the template 'total and deterministic' (their statements: YtnfccckodgknjaaGreatDoorTotals.lean).
  GIVEN WITH THE SEED: the statements are not yours to turn. If you find one false, say at which input.
  Laid BY PROGRAM, IN A SANDBOX (cutbox-rows.mjs): the forced cells as the released guide's own fill.sh prints them over the translation 5b231febac2c70c8… (all of the seat's roots in one cut). By AI agents, Wed Nov 11 2026. No macro, syntax, notation, axiom, sorry.
-/
import Derived.Test.YtnfccckodgknjaaGreatDoorChecked
import GoSem.PinnedTables
import GoSem.Claim
import GoSem.ClaimJoined
import GoSem.ClaimMapViews
import Derived.JoinedTies
import Derived.KernelRfl
namespace Go.Proofs.YtnfccckodgknjaaGreatDoor
/- THE CELL 'sum', in the pinned program and in every row, IS THE sha256 OF THE DUMP (.gsa) THAT YtnfccckodgknjaaGreatDoorProg.lean LOADS. Nothing in Lean hashes anything: it is a label: what it is worth is what the hold of that sum in a sandbox is worth. -/
noncomputable def Tryz.pinned : Pinned := { name := "ytnfccckodgknjaagreatdoor", sum := "5b231febac2c70c869e37feb67753515d3c0864582ed14933dec7d0095f424fe", checked := Tryz.checked }
namespace Rows
def none {H : Type} : Left H := { results := [], args := [] }

/- WHAT THE LISTED PACKAGE-LEVEL VARIABLES READ AS WHEN THE CALL BEGINS. Each datum BY PROGRAM (the guide's laid-datum.mjs) off the statement by which the dump's own 'gosem.cut.vars' lays the variable. In a bare row this is a premise. The card (YtnfccckodgknjaaGreatDoorCards.lean) ties it to the program's text. -/
def laid_unicode_utf8_acceptRanges {H : Type} : DataW H := .agg [.agg [.lit (.int .u8 128), .lit (.int .u8 191)], .agg [.lit (.int .u8 160), .lit (.int .u8 191)], .agg [.lit (.int .u8 128), .lit (.int .u8 159)], .agg [.lit (.int .u8 144), .lit (.int .u8 191)], .agg [.lit (.int .u8 128), .lit (.int .u8 143)], .agg [.lit (.int .u8 0), .lit (.int .u8 0)], .agg [.lit (.int .u8 0), .lit (.int .u8 0)], .agg [.lit (.int .u8 0), .lit (.int .u8 0)], .agg [.lit (.int .u8 0), .lit (.int .u8 0)], .agg [.lit (.int .u8 0), .lit (.int .u8 0)], .agg [.lit (.int .u8 0), .lit (.int .u8 0)], .agg [.lit (.int .u8 0), .lit (.int .u8 0)], .agg [.lit (.int .u8 0), .lit (.int .u8 0)], .agg [.lit (.int .u8 0), .lit (.int .u8 0)], .agg [.lit (.int .u8 0), .lit (.int .u8 0)], .agg [.lit (.int .u8 0), .lit (.int .u8 0)]]
def laid_thicket_text_controls {H : Type} : DataW H := .agg [.lit (.int .i32 8364), .lit (.int .i32 129), .lit (.int .i32 8218), .lit (.int .i32 402), .lit (.int .i32 8222), .lit (.int .i32 8230), .lit (.int .i32 8224), .lit (.int .i32 8225), .lit (.int .i32 710), .lit (.int .i32 8240), .lit (.int .i32 352), .lit (.int .i32 8249), .lit (.int .i32 338), .lit (.int .i32 141), .lit (.int .i32 381), .lit (.int .i32 143), .lit (.int .i32 144), .lit (.int .i32 8216), .lit (.int .i32 8217), .lit (.int .i32 8220), .lit (.int .i32 8221), .lit (.int .i32 8226), .lit (.int .i32 8211), .lit (.int .i32 8212), .lit (.int .i32 732), .lit (.int .i32 8482), .lit (.int .i32 353), .lit (.int .i32 8250), .lit (.int .i32 339), .lit (.int .i32 157), .lit (.int .i32 382), .lit (.int .i32 376)]
/-- One of Go's own tables, pinned by name: the form's constant. -/
def laid_unicode_utf8_first : DataW Unit := Go.Pinned.utf8First

/-- 'thicketlaw02.ScanAttributesBack': WHATEVER THE INPUT: true; the input reads as it did. -/
def scanAttributesBackSpec : ChangeSpec := { name := "scanAttributesBack", fn := fun _ => fun
  | [d1, d2, d3, d4] => { results := [.lit (.bool true)], args := [d1, d2, d3, d4] }
  | _ => none }
def scanAttributesBackRow : OpenClaim := { program := "ytnfccckodgknjaagreatdoor", sum := "5b231febac2c70c869e37feb67753515d3c0864582ed14933dec7d0095f424fe", func := "thicket/thicketlaw02.ScanAttributesBack", spec := "scanAttributesBack", inPlace := ["internal/bytealg.IndexByteString", "internal/bytealg.IndexString", "internal/abi.NoEscape", "internal/bytealg.CountString", "internal/bytealg.MakeNoZero"], unfollowed := true, recurses := true, named := ["internal/bytealg.MaxLen", "unicode/utf8.first", "unicode/utf8.acceptRanges", "thicket/text.controls"], apart := false, laid := [("unicode/utf8.acceptRanges", laid_unicode_utf8_acceptRanges), ("thicket/text.controls", laid_thicket_text_controls), ("unicode/utf8.first", laid_unicode_utf8_first)] }
def ScanAttributesBackSaid : Prop := scanAttributesBackRow.holds Tryz.pinned (OpenSpec.ofChange scanAttributesBackSpec)

/-- ITS FALSE NEIGHBOUR: 'it returns false'. Refute it at one input. -/
def scanAttributesBackWrong : ChangeSpec := { name := "scanAttributesBack", fn := fun _ => fun
  | [d1, d2, d3, d4] => { results := [.lit (.bool false)], args := [d1, d2, d3, d4] }
  | _ => none }
def ScanAttributesBackWrongFalsely : Prop := scanAttributesBackRow.holds Tryz.pinned (OpenSpec.ofChange scanAttributesBackWrong)

/-- 'thicketlaw02.ScanDoctypes': WHATEVER THE INPUT: true; the input reads as it did. -/
def scanDoctypesSpec : ChangeSpec := { name := "scanDoctypes", fn := fun _ => fun
  | [d1, d2] => { results := [.lit (.bool true)], args := [d1, d2] }
  | _ => none }
def scanDoctypesRow : OpenClaim := { program := "ytnfccckodgknjaagreatdoor", sum := "5b231febac2c70c869e37feb67753515d3c0864582ed14933dec7d0095f424fe", func := "thicket/thicketlaw02.ScanDoctypes", spec := "scanDoctypes", inPlace := ["internal/bytealg.IndexByteString", "internal/bytealg.IndexString", "internal/abi.NoEscape", "internal/bytealg.CountString", "internal/bytealg.MakeNoZero"], unfollowed := true, recurses := true, named := ["internal/bytealg.MaxLen", "unicode/utf8.first", "unicode/utf8.acceptRanges", "thicket/text.controls"], apart := false, laid := [("unicode/utf8.acceptRanges", laid_unicode_utf8_acceptRanges), ("thicket/text.controls", laid_thicket_text_controls), ("unicode/utf8.first", laid_unicode_utf8_first)] }
def ScanDoctypesSaid : Prop := scanDoctypesRow.holds Tryz.pinned (OpenSpec.ofChange scanDoctypesSpec)

/-- ITS FALSE NEIGHBOUR: 'it returns false'. Refute it at one input. -/
def scanDoctypesWrong : ChangeSpec := { name := "scanDoctypes", fn := fun _ => fun
  | [d1, d2] => { results := [.lit (.bool false)], args := [d1, d2] }
  | _ => none }
def ScanDoctypesWrongFalsely : Prop := scanDoctypesRow.holds Tryz.pinned (OpenSpec.ofChange scanDoctypesWrong)

/-- 'thicketlaw02.ScanMarkup': WHATEVER THE INPUT: true; the input reads as it did. -/
def scanMarkupSpec : ChangeSpec := { name := "scanMarkup", fn := fun _ => fun
  | [d1, d2, d3] => { results := [.lit (.bool true)], args := [d1, d2, d3] }
  | _ => none }
def scanMarkupRow : OpenClaim := { program := "ytnfccckodgknjaagreatdoor", sum := "5b231febac2c70c869e37feb67753515d3c0864582ed14933dec7d0095f424fe", func := "thicket/thicketlaw02.ScanMarkup", spec := "scanMarkup", inPlace := ["internal/bytealg.IndexByteString", "internal/bytealg.IndexString", "internal/abi.NoEscape", "internal/bytealg.CountString", "internal/bytealg.MakeNoZero"], unfollowed := true, recurses := true, named := ["internal/bytealg.MaxLen", "unicode/utf8.first", "unicode/utf8.acceptRanges", "thicket/text.controls"], apart := false, laid := [("unicode/utf8.acceptRanges", laid_unicode_utf8_acceptRanges), ("thicket/text.controls", laid_thicket_text_controls), ("unicode/utf8.first", laid_unicode_utf8_first)] }
def ScanMarkupSaid : Prop := scanMarkupRow.holds Tryz.pinned (OpenSpec.ofChange scanMarkupSpec)

/-- ITS FALSE NEIGHBOUR: 'it returns false'. Refute it at one input. -/
def scanMarkupWrong : ChangeSpec := { name := "scanMarkup", fn := fun _ => fun
  | [d1, d2, d3] => { results := [.lit (.bool false)], args := [d1, d2, d3] }
  | _ => none }
def ScanMarkupWrongFalsely : Prop := scanMarkupRow.holds Tryz.pinned (OpenSpec.ofChange scanMarkupWrong)

/-- 'thicketlaw03.LexerEquals': WHATEVER THE INPUT: true; the input reads as it did. -/
def lexerEqualsSpec : ChangeSpec := { name := "lexerEquals", fn := fun _ => fun
  | [d1, d2] => { results := [.lit (.bool true)], args := [d1, d2] }
  | _ => none }
def lexerEqualsRow : OpenClaim := { program := "ytnfccckodgknjaagreatdoor", sum := "5b231febac2c70c869e37feb67753515d3c0864582ed14933dec7d0095f424fe", func := "thicket/thicketlaw03.LexerEquals", spec := "lexerEquals", inPlace := ["internal/abi.NoEscape", "internal/bytealg.MakeNoZero", "internal/bytealg.CountString", "internal/bytealg.IndexByteString", "internal/bytealg.IndexString"], unfollowed := true, recurses := true, named := ["internal/bytealg.MaxLen", "unicode/utf8.first", "unicode/utf8.acceptRanges", "thicket/text.controls"], apart := false, laid := [("unicode/utf8.acceptRanges", laid_unicode_utf8_acceptRanges), ("thicket/text.controls", laid_thicket_text_controls), ("unicode/utf8.first", laid_unicode_utf8_first)] }
def LexerEqualsSaid : Prop := lexerEqualsRow.holds Tryz.pinned (OpenSpec.ofChange lexerEqualsSpec)

/-- ITS FALSE NEIGHBOUR: 'it returns false'. Refute it at one input. -/
def lexerEqualsWrong : ChangeSpec := { name := "lexerEquals", fn := fun _ => fun
  | [d1, d2] => { results := [.lit (.bool false)], args := [d1, d2] }
  | _ => none }
def LexerEqualsWrongFalsely : Prop := lexerEqualsRow.holds Tryz.pinned (OpenSpec.ofChange lexerEqualsWrong)

/-- 'thicketlaw03.LexerAttrs': WHATEVER THE INPUT: true; the input reads as it did. -/
def lexerAttrsSpec : ChangeSpec := { name := "lexerAttrs", fn := fun _ => fun
  | [d1, d2] => { results := [.lit (.bool true)], args := [d1, d2] }
  | _ => none }
def lexerAttrsRow : OpenClaim := { program := "ytnfccckodgknjaagreatdoor", sum := "5b231febac2c70c869e37feb67753515d3c0864582ed14933dec7d0095f424fe", func := "thicket/thicketlaw03.LexerAttrs", spec := "lexerAttrs", inPlace := ["internal/abi.NoEscape", "internal/bytealg.MakeNoZero", "internal/bytealg.CountString", "internal/bytealg.IndexByteString", "internal/bytealg.IndexString"], unfollowed := true, recurses := true, named := ["internal/bytealg.MaxLen", "unicode/utf8.first", "unicode/utf8.acceptRanges", "thicket/text.controls"], apart := false, laid := [("unicode/utf8.acceptRanges", laid_unicode_utf8_acceptRanges), ("thicket/text.controls", laid_thicket_text_controls), ("unicode/utf8.first", laid_unicode_utf8_first)] }
def LexerAttrsSaid : Prop := lexerAttrsRow.holds Tryz.pinned (OpenSpec.ofChange lexerAttrsSpec)

/-- ITS FALSE NEIGHBOUR: 'it returns false'. Refute it at one input. -/
def lexerAttrsWrong : ChangeSpec := { name := "lexerAttrs", fn := fun _ => fun
  | [d1, d2] => { results := [.lit (.bool false)], args := [d1, d2] }
  | _ => none }
def LexerAttrsWrongFalsely : Prop := lexerAttrsRow.holds Tryz.pinned (OpenSpec.ofChange lexerAttrsWrong)

/-- 'thicketlaw03.LexerMakes': WHATEVER THE INPUT: true; the input reads as it did. -/
def lexerMakesSpec : ChangeSpec := { name := "lexerMakes", fn := fun _ => fun
  | [d1, d2, d3, d4] => { results := [.lit (.bool true)], args := [d1, d2, d3, d4] }
  | _ => none }
def lexerMakesRow : OpenClaim := { program := "ytnfccckodgknjaagreatdoor", sum := "5b231febac2c70c869e37feb67753515d3c0864582ed14933dec7d0095f424fe", func := "thicket/thicketlaw03.LexerMakes", spec := "lexerMakes", inPlace := ["internal/abi.NoEscape", "internal/bytealg.MakeNoZero", "internal/bytealg.CountString", "internal/bytealg.IndexByteString", "internal/bytealg.IndexString"], unfollowed := true, recurses := true, named := ["internal/bytealg.MaxLen", "unicode/utf8.first", "unicode/utf8.acceptRanges", "thicket/text.controls"], apart := false, laid := [("unicode/utf8.acceptRanges", laid_unicode_utf8_acceptRanges), ("thicket/text.controls", laid_thicket_text_controls), ("unicode/utf8.first", laid_unicode_utf8_first)] }
def LexerMakesSaid : Prop := lexerMakesRow.holds Tryz.pinned (OpenSpec.ofChange lexerMakesSpec)

/-- ITS FALSE NEIGHBOUR: 'it returns false'. Refute it at one input. -/
def lexerMakesWrong : ChangeSpec := { name := "lexerMakes", fn := fun _ => fun
  | [d1, d2, d3, d4] => { results := [.lit (.bool false)], args := [d1, d2, d3, d4] }
  | _ => none }
def LexerMakesWrongFalsely : Prop := lexerMakesRow.holds Tryz.pinned (OpenSpec.ofChange lexerMakesWrong)

/-- 'thicketlaw03.LexerText': WHATEVER THE INPUT: true; the input reads as it did. -/
def lexerTextSpec : ChangeSpec := { name := "lexerText", fn := fun _ => fun
  | [d1, d2] => { results := [.lit (.bool true)], args := [d1, d2] }
  | _ => none }
def lexerTextRow : OpenClaim := { program := "ytnfccckodgknjaagreatdoor", sum := "5b231febac2c70c869e37feb67753515d3c0864582ed14933dec7d0095f424fe", func := "thicket/thicketlaw03.LexerText", spec := "lexerText", inPlace := ["internal/abi.NoEscape", "internal/bytealg.MakeNoZero", "internal/bytealg.CountString", "internal/bytealg.IndexByteString", "internal/bytealg.IndexString"], unfollowed := true, recurses := true, named := ["internal/bytealg.MaxLen", "unicode/utf8.first", "unicode/utf8.acceptRanges", "thicket/text.controls"], apart := false, laid := [("unicode/utf8.acceptRanges", laid_unicode_utf8_acceptRanges), ("thicket/text.controls", laid_thicket_text_controls), ("unicode/utf8.first", laid_unicode_utf8_first)] }
def LexerTextSaid : Prop := lexerTextRow.holds Tryz.pinned (OpenSpec.ofChange lexerTextSpec)

/-- ITS FALSE NEIGHBOUR: 'it returns false'. Refute it at one input. -/
def lexerTextWrong : ChangeSpec := { name := "lexerText", fn := fun _ => fun
  | [d1, d2] => { results := [.lit (.bool false)], args := [d1, d2] }
  | _ => none }
def LexerTextWrongFalsely : Prop := lexerTextRow.holds Tryz.pinned (OpenSpec.ofChange lexerTextWrong)

/-- 'thicketlaw03.LexerAll': WHATEVER THE INPUT: true; the input reads as it did. -/
def lexerAllSpec : ChangeSpec := { name := "lexerAll", fn := fun _ => fun
  | [d1, d2, d3, d4] => { results := [.lit (.bool true)], args := [d1, d2, d3, d4] }
  | _ => none }
def lexerAllRow : OpenClaim := { program := "ytnfccckodgknjaagreatdoor", sum := "5b231febac2c70c869e37feb67753515d3c0864582ed14933dec7d0095f424fe", func := "thicket/thicketlaw03.LexerAll", spec := "lexerAll", inPlace := ["internal/abi.NoEscape", "internal/bytealg.MakeNoZero", "internal/bytealg.CountString", "internal/bytealg.IndexByteString", "internal/bytealg.IndexString"], unfollowed := true, recurses := true, named := ["internal/bytealg.MaxLen", "unicode/utf8.first", "unicode/utf8.acceptRanges", "thicket/text.controls"], apart := false, laid := [("unicode/utf8.acceptRanges", laid_unicode_utf8_acceptRanges), ("thicket/text.controls", laid_thicket_text_controls), ("unicode/utf8.first", laid_unicode_utf8_first)] }
def LexerAllSaid : Prop := lexerAllRow.holds Tryz.pinned (OpenSpec.ofChange lexerAllSpec)

/-- ITS FALSE NEIGHBOUR: 'it returns false'. Refute it at one input. -/
def lexerAllWrong : ChangeSpec := { name := "lexerAll", fn := fun _ => fun
  | [d1, d2, d3, d4] => { results := [.lit (.bool false)], args := [d1, d2, d3, d4] }
  | _ => none }
def LexerAllWrongFalsely : Prop := lexerAllRow.holds Tryz.pinned (OpenSpec.ofChange lexerAllWrong)

/- THE SECOND FORM. 'bulk': how many values and letters a reading holds, each counted each time it is reached (what is shared counts as often as it is met; a slice's spare places count too). A statement '..UptoSaid' is the law's where the arguments, and the package variables that the reading takes, are together of bulk at most 1048576: NARROWER than '..Said'. Prove '..Said' where nothing that the law and all that it calls make is longer than what came in: it says more and counts as full. Else prove '..UptoSaid'. A law counts once. -/
mutual
def uptoBulk {H : Type} : DataW H → Nat
  | .lit (.string bytes) => bytes.length + 1
  | .lit _ => 1
  | .nil => 1
  | .ptr d => uptoBulk d + 1
  | .slice elems spare => uptoBulkAll elems + uptoBulkAll spare + 1
  | .agg parts => uptoBulkAll parts + 1
  | .iface _ d => uptoBulk d + 1
  | .map entries => uptoBulkEntries entries + 1
  | .held _ => 1
def uptoBulkAll {H : Type} : List (DataW H) → Nat
  | [] => 0
  | d :: r => uptoBulk d + uptoBulkAll r
def uptoBulkEntries {H : Type} : List (Lit × DataW H) → Nat
  | [] => 0
  | x :: r => uptoBulkEntry x + uptoBulkEntries r
def uptoBulkEntry {H : Type} : Lit × DataW H → Nat
  | (.string bytes, d) => bytes.length + uptoBulk d + 1
  | (_, d) => uptoBulk d + 1
 end
def uptoSmall : (H : Type) → List (DataW H) → Bool := fun _ ds => decide (uptoBulkAll ds ≤ 1048576)
def OpenSpec.upto (s : _root_.Go.ChangeSpec) : _root_.Go.OpenSpec := { _root_.Go.OpenSpec.ofChange s with cond := some uptoSmall }

/-- 'thicketlaw02.ScanAttributesBack', WHERE WHAT IT READS IS OF BULK AT MOST 1048576: true; the input reads as it did. -/
def scanAttributesBackUptoRow : OpenClaim := { program := "ytnfccckodgknjaagreatdoor", sum := "5b231febac2c70c869e37feb67753515d3c0864582ed14933dec7d0095f424fe", func := "thicket/thicketlaw02.ScanAttributesBack", spec := "scanAttributesBack", inPlace := ["internal/bytealg.IndexByteString", "internal/bytealg.IndexString", "internal/abi.NoEscape", "internal/bytealg.CountString", "internal/bytealg.MakeNoZero"], unfollowed := true, recurses := true, named := ["internal/bytealg.MaxLen", "unicode/utf8.first", "unicode/utf8.acceptRanges", "thicket/text.controls"], apart := false, laid := [("unicode/utf8.acceptRanges", laid_unicode_utf8_acceptRanges), ("thicket/text.controls", laid_thicket_text_controls), ("unicode/utf8.first", laid_unicode_utf8_first)], narrowed := true }
def ScanAttributesBackUptoSaid : Prop := scanAttributesBackUptoRow.holds Tryz.pinned (OpenSpec.upto scanAttributesBackSpec)

/-- 'thicketlaw02.ScanDoctypes', WHERE WHAT IT READS IS OF BULK AT MOST 1048576: true; the input reads as it did. -/
def scanDoctypesUptoRow : OpenClaim := { program := "ytnfccckodgknjaagreatdoor", sum := "5b231febac2c70c869e37feb67753515d3c0864582ed14933dec7d0095f424fe", func := "thicket/thicketlaw02.ScanDoctypes", spec := "scanDoctypes", inPlace := ["internal/bytealg.IndexByteString", "internal/bytealg.IndexString", "internal/abi.NoEscape", "internal/bytealg.CountString", "internal/bytealg.MakeNoZero"], unfollowed := true, recurses := true, named := ["internal/bytealg.MaxLen", "unicode/utf8.first", "unicode/utf8.acceptRanges", "thicket/text.controls"], apart := false, laid := [("unicode/utf8.acceptRanges", laid_unicode_utf8_acceptRanges), ("thicket/text.controls", laid_thicket_text_controls), ("unicode/utf8.first", laid_unicode_utf8_first)], narrowed := true }
def ScanDoctypesUptoSaid : Prop := scanDoctypesUptoRow.holds Tryz.pinned (OpenSpec.upto scanDoctypesSpec)

/-- 'thicketlaw02.ScanMarkup', WHERE WHAT IT READS IS OF BULK AT MOST 1048576: true; the input reads as it did. -/
def scanMarkupUptoRow : OpenClaim := { program := "ytnfccckodgknjaagreatdoor", sum := "5b231febac2c70c869e37feb67753515d3c0864582ed14933dec7d0095f424fe", func := "thicket/thicketlaw02.ScanMarkup", spec := "scanMarkup", inPlace := ["internal/bytealg.IndexByteString", "internal/bytealg.IndexString", "internal/abi.NoEscape", "internal/bytealg.CountString", "internal/bytealg.MakeNoZero"], unfollowed := true, recurses := true, named := ["internal/bytealg.MaxLen", "unicode/utf8.first", "unicode/utf8.acceptRanges", "thicket/text.controls"], apart := false, laid := [("unicode/utf8.acceptRanges", laid_unicode_utf8_acceptRanges), ("thicket/text.controls", laid_thicket_text_controls), ("unicode/utf8.first", laid_unicode_utf8_first)], narrowed := true }
def ScanMarkupUptoSaid : Prop := scanMarkupUptoRow.holds Tryz.pinned (OpenSpec.upto scanMarkupSpec)

/-- 'thicketlaw03.LexerEquals', WHERE WHAT IT READS IS OF BULK AT MOST 1048576: true; the input reads as it did. -/
def lexerEqualsUptoRow : OpenClaim := { program := "ytnfccckodgknjaagreatdoor", sum := "5b231febac2c70c869e37feb67753515d3c0864582ed14933dec7d0095f424fe", func := "thicket/thicketlaw03.LexerEquals", spec := "lexerEquals", inPlace := ["internal/abi.NoEscape", "internal/bytealg.MakeNoZero", "internal/bytealg.CountString", "internal/bytealg.IndexByteString", "internal/bytealg.IndexString"], unfollowed := true, recurses := true, named := ["internal/bytealg.MaxLen", "unicode/utf8.first", "unicode/utf8.acceptRanges", "thicket/text.controls"], apart := false, laid := [("unicode/utf8.acceptRanges", laid_unicode_utf8_acceptRanges), ("thicket/text.controls", laid_thicket_text_controls), ("unicode/utf8.first", laid_unicode_utf8_first)], narrowed := true }
def LexerEqualsUptoSaid : Prop := lexerEqualsUptoRow.holds Tryz.pinned (OpenSpec.upto lexerEqualsSpec)

/-- 'thicketlaw03.LexerAttrs', WHERE WHAT IT READS IS OF BULK AT MOST 1048576: true; the input reads as it did. -/
def lexerAttrsUptoRow : OpenClaim := { program := "ytnfccckodgknjaagreatdoor", sum := "5b231febac2c70c869e37feb67753515d3c0864582ed14933dec7d0095f424fe", func := "thicket/thicketlaw03.LexerAttrs", spec := "lexerAttrs", inPlace := ["internal/abi.NoEscape", "internal/bytealg.MakeNoZero", "internal/bytealg.CountString", "internal/bytealg.IndexByteString", "internal/bytealg.IndexString"], unfollowed := true, recurses := true, named := ["internal/bytealg.MaxLen", "unicode/utf8.first", "unicode/utf8.acceptRanges", "thicket/text.controls"], apart := false, laid := [("unicode/utf8.acceptRanges", laid_unicode_utf8_acceptRanges), ("thicket/text.controls", laid_thicket_text_controls), ("unicode/utf8.first", laid_unicode_utf8_first)], narrowed := true }
def LexerAttrsUptoSaid : Prop := lexerAttrsUptoRow.holds Tryz.pinned (OpenSpec.upto lexerAttrsSpec)

/-- 'thicketlaw03.LexerMakes', WHERE WHAT IT READS IS OF BULK AT MOST 1048576: true; the input reads as it did. -/
def lexerMakesUptoRow : OpenClaim := { program := "ytnfccckodgknjaagreatdoor", sum := "5b231febac2c70c869e37feb67753515d3c0864582ed14933dec7d0095f424fe", func := "thicket/thicketlaw03.LexerMakes", spec := "lexerMakes", inPlace := ["internal/abi.NoEscape", "internal/bytealg.MakeNoZero", "internal/bytealg.CountString", "internal/bytealg.IndexByteString", "internal/bytealg.IndexString"], unfollowed := true, recurses := true, named := ["internal/bytealg.MaxLen", "unicode/utf8.first", "unicode/utf8.acceptRanges", "thicket/text.controls"], apart := false, laid := [("unicode/utf8.acceptRanges", laid_unicode_utf8_acceptRanges), ("thicket/text.controls", laid_thicket_text_controls), ("unicode/utf8.first", laid_unicode_utf8_first)], narrowed := true }
def LexerMakesUptoSaid : Prop := lexerMakesUptoRow.holds Tryz.pinned (OpenSpec.upto lexerMakesSpec)

/-- 'thicketlaw03.LexerText', WHERE WHAT IT READS IS OF BULK AT MOST 1048576: true; the input reads as it did. -/
def lexerTextUptoRow : OpenClaim := { program := "ytnfccckodgknjaagreatdoor", sum := "5b231febac2c70c869e37feb67753515d3c0864582ed14933dec7d0095f424fe", func := "thicket/thicketlaw03.LexerText", spec := "lexerText", inPlace := ["internal/abi.NoEscape", "internal/bytealg.MakeNoZero", "internal/bytealg.CountString", "internal/bytealg.IndexByteString", "internal/bytealg.IndexString"], unfollowed := true, recurses := true, named := ["internal/bytealg.MaxLen", "unicode/utf8.first", "unicode/utf8.acceptRanges", "thicket/text.controls"], apart := false, laid := [("unicode/utf8.acceptRanges", laid_unicode_utf8_acceptRanges), ("thicket/text.controls", laid_thicket_text_controls), ("unicode/utf8.first", laid_unicode_utf8_first)], narrowed := true }
def LexerTextUptoSaid : Prop := lexerTextUptoRow.holds Tryz.pinned (OpenSpec.upto lexerTextSpec)

/-- 'thicketlaw03.LexerAll', WHERE WHAT IT READS IS OF BULK AT MOST 1048576: true; the input reads as it did. -/
def lexerAllUptoRow : OpenClaim := { program := "ytnfccckodgknjaagreatdoor", sum := "5b231febac2c70c869e37feb67753515d3c0864582ed14933dec7d0095f424fe", func := "thicket/thicketlaw03.LexerAll", spec := "lexerAll", inPlace := ["internal/abi.NoEscape", "internal/bytealg.MakeNoZero", "internal/bytealg.CountString", "internal/bytealg.IndexByteString", "internal/bytealg.IndexString"], unfollowed := true, recurses := true, named := ["internal/bytealg.MaxLen", "unicode/utf8.first", "unicode/utf8.acceptRanges", "thicket/text.controls"], apart := false, laid := [("unicode/utf8.acceptRanges", laid_unicode_utf8_acceptRanges), ("thicket/text.controls", laid_thicket_text_controls), ("unicode/utf8.first", laid_unicode_utf8_first)], narrowed := true }
def LexerAllUptoSaid : Prop := lexerAllUptoRow.holds Tryz.pinned (OpenSpec.upto lexerAllSpec)

end Rows
end Go.Proofs.YtnfccckodgknjaaGreatDoor
