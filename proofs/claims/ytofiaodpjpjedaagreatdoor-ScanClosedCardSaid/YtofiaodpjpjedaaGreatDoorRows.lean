/-
  NARROWER THAN 'FOR EVERY INPUT', by the rows' own cells (each row's printed sentence says how): ScanReferences: laid · ScanComments: laid · ScanValues: laid · ScanRaw: laid · ScanScripts: laid · ScanClosed: laid · ScanEscaped: laid · ScanNamesBack: laid · ScanNumbers: laid · ScanAttributesBack: laid.
  DERIVED. THE GIVEN ROWS OF THIS SEAT. 10 by the template 'for every input the law returns true; each argument reads behind the call as it read before'; 0 by the template 'total and deterministic' (their statements: YtofiaodpjpjedaaGreatDoorTotals.lean).
  GIVEN WITH THE SEED: the statements are not yours to turn. If you find one false, say at which input.
  Laid BY PROGRAM, IN A SANDBOX (cutbox-rows.mjs): the forced cells as the released guide's own fill.sh prints them over the translation 700dc4bf2a01a46c… (all of the seat's roots in one cut). By AI agents, Wed Nov 11 2026. No macro, syntax, notation, axiom, sorry.
-/
import Derived.Test.YtofiaodpjpjedaaGreatDoorChecked
import GoSem.PinnedTables
import GoSem.Claim
import GoSem.ClaimJoined
import GoSem.ClaimMapViews
import Derived.JoinedTies
import Derived.KernelRfl
namespace Go.Proofs.YtofiaodpjpjedaaGreatDoor
/- THE CELL 'sum', in the pinned program and in every row, IS THE sha256 OF THE DUMP (.gsa) THAT YtofiaodpjpjedaaGreatDoorProg.lean LOADS. Nothing in Lean hashes anything: it is a label: what it is worth is what the hold of that sum in a sandbox is worth. -/
noncomputable def Tryz.pinned : Pinned := { name := "ytofiaodpjpjedaagreatdoor", sum := "700dc4bf2a01a46c01bb0df03501cffc0d48035f54d0a6779aaee749bee46858", checked := Tryz.checked }
namespace Rows
def none {H : Type} : Left H := { results := [], args := [] }

/- WHAT THE LISTED PACKAGE-LEVEL VARIABLES READ AS WHEN THE CALL BEGINS. Each datum BY PROGRAM (the guide's laid-datum.mjs) off the statement by which the dump's own 'gosem.cut.vars' lays the variable. In a bare row this is a premise. The card (YtofiaodpjpjedaaGreatDoorCards.lean) ties it to the program's text. -/
def laid_unicode_utf8_acceptRanges {H : Type} : DataW H := .agg [.agg [.lit (.int .u8 128), .lit (.int .u8 191)], .agg [.lit (.int .u8 160), .lit (.int .u8 191)], .agg [.lit (.int .u8 128), .lit (.int .u8 159)], .agg [.lit (.int .u8 144), .lit (.int .u8 191)], .agg [.lit (.int .u8 128), .lit (.int .u8 143)], .agg [.lit (.int .u8 0), .lit (.int .u8 0)], .agg [.lit (.int .u8 0), .lit (.int .u8 0)], .agg [.lit (.int .u8 0), .lit (.int .u8 0)], .agg [.lit (.int .u8 0), .lit (.int .u8 0)], .agg [.lit (.int .u8 0), .lit (.int .u8 0)], .agg [.lit (.int .u8 0), .lit (.int .u8 0)], .agg [.lit (.int .u8 0), .lit (.int .u8 0)], .agg [.lit (.int .u8 0), .lit (.int .u8 0)], .agg [.lit (.int .u8 0), .lit (.int .u8 0)], .agg [.lit (.int .u8 0), .lit (.int .u8 0)], .agg [.lit (.int .u8 0), .lit (.int .u8 0)]]
def laid_thicket_text_controls {H : Type} : DataW H := .agg [.lit (.int .i32 8364), .lit (.int .i32 129), .lit (.int .i32 8218), .lit (.int .i32 402), .lit (.int .i32 8222), .lit (.int .i32 8230), .lit (.int .i32 8224), .lit (.int .i32 8225), .lit (.int .i32 710), .lit (.int .i32 8240), .lit (.int .i32 352), .lit (.int .i32 8249), .lit (.int .i32 338), .lit (.int .i32 141), .lit (.int .i32 381), .lit (.int .i32 143), .lit (.int .i32 144), .lit (.int .i32 8216), .lit (.int .i32 8217), .lit (.int .i32 8220), .lit (.int .i32 8221), .lit (.int .i32 8226), .lit (.int .i32 8211), .lit (.int .i32 8212), .lit (.int .i32 732), .lit (.int .i32 8482), .lit (.int .i32 353), .lit (.int .i32 8250), .lit (.int .i32 339), .lit (.int .i32 157), .lit (.int .i32 382), .lit (.int .i32 376)]
/-- One of Go's own tables, pinned by name: the form's constant. -/
def laid_unicode_utf8_first : DataW Unit := Go.Pinned.utf8First

/-- 'thicketlaw02.ScanReferences': WHATEVER THE INPUT: true; the input reads as it did. -/
def scanReferencesSpec : ChangeSpec := { name := "scanReferences", fn := fun _ => fun
  | [d1, d2, d3] => { results := [.lit (.bool true)], args := [d1, d2, d3] }
  | _ => none }
def scanReferencesRow : OpenClaim := { program := "ytofiaodpjpjedaagreatdoor", sum := "700dc4bf2a01a46c01bb0df03501cffc0d48035f54d0a6779aaee749bee46858", func := "thicket/thicketlaw02.ScanReferences", spec := "scanReferences", inPlace := ["internal/bytealg.IndexByteString", "internal/bytealg.IndexString", "internal/abi.NoEscape", "internal/bytealg.CountString", "internal/bytealg.MakeNoZero"], unfollowed := true, recurses := true, named := ["internal/bytealg.MaxLen", "unicode/utf8.first", "unicode/utf8.acceptRanges", "thicket/text.controls"], apart := false, laid := [("unicode/utf8.acceptRanges", laid_unicode_utf8_acceptRanges), ("thicket/text.controls", laid_thicket_text_controls), ("unicode/utf8.first", laid_unicode_utf8_first)] }
def ScanReferencesSaid : Prop := scanReferencesRow.holds Tryz.pinned (OpenSpec.ofChange scanReferencesSpec)

/-- ITS FALSE NEIGHBOUR: 'it returns false'. Refute it at one input. -/
def scanReferencesWrong : ChangeSpec := { name := "scanReferences", fn := fun _ => fun
  | [d1, d2, d3] => { results := [.lit (.bool false)], args := [d1, d2, d3] }
  | _ => none }
def ScanReferencesWrongFalsely : Prop := scanReferencesRow.holds Tryz.pinned (OpenSpec.ofChange scanReferencesWrong)

/-- 'thicketlaw02.ScanComments': WHATEVER THE INPUT: true; the input reads as it did. -/
def scanCommentsSpec : ChangeSpec := { name := "scanComments", fn := fun _ => fun
  | [d1, d2] => { results := [.lit (.bool true)], args := [d1, d2] }
  | _ => none }
def scanCommentsRow : OpenClaim := { program := "ytofiaodpjpjedaagreatdoor", sum := "700dc4bf2a01a46c01bb0df03501cffc0d48035f54d0a6779aaee749bee46858", func := "thicket/thicketlaw02.ScanComments", spec := "scanComments", inPlace := ["internal/bytealg.IndexByteString", "internal/bytealg.IndexString", "internal/abi.NoEscape", "internal/bytealg.CountString", "internal/bytealg.MakeNoZero"], unfollowed := true, recurses := true, named := ["internal/bytealg.MaxLen", "unicode/utf8.first", "unicode/utf8.acceptRanges", "thicket/text.controls"], apart := false, laid := [("unicode/utf8.acceptRanges", laid_unicode_utf8_acceptRanges), ("thicket/text.controls", laid_thicket_text_controls), ("unicode/utf8.first", laid_unicode_utf8_first)] }
def ScanCommentsSaid : Prop := scanCommentsRow.holds Tryz.pinned (OpenSpec.ofChange scanCommentsSpec)

/-- ITS FALSE NEIGHBOUR: 'it returns false'. Refute it at one input. -/
def scanCommentsWrong : ChangeSpec := { name := "scanComments", fn := fun _ => fun
  | [d1, d2] => { results := [.lit (.bool false)], args := [d1, d2] }
  | _ => none }
def ScanCommentsWrongFalsely : Prop := scanCommentsRow.holds Tryz.pinned (OpenSpec.ofChange scanCommentsWrong)

/-- 'thicketlaw02.ScanValues': WHATEVER THE INPUT: true; the input reads as it did. -/
def scanValuesSpec : ChangeSpec := { name := "scanValues", fn := fun _ => fun
  | [d1, d2] => { results := [.lit (.bool true)], args := [d1, d2] }
  | _ => none }
def scanValuesRow : OpenClaim := { program := "ytofiaodpjpjedaagreatdoor", sum := "700dc4bf2a01a46c01bb0df03501cffc0d48035f54d0a6779aaee749bee46858", func := "thicket/thicketlaw02.ScanValues", spec := "scanValues", inPlace := ["internal/bytealg.IndexByteString", "internal/bytealg.IndexString", "internal/abi.NoEscape", "internal/bytealg.CountString", "internal/bytealg.MakeNoZero"], unfollowed := true, recurses := true, named := ["internal/bytealg.MaxLen", "unicode/utf8.first", "unicode/utf8.acceptRanges", "thicket/text.controls"], apart := false, laid := [("unicode/utf8.acceptRanges", laid_unicode_utf8_acceptRanges), ("thicket/text.controls", laid_thicket_text_controls), ("unicode/utf8.first", laid_unicode_utf8_first)] }
def ScanValuesSaid : Prop := scanValuesRow.holds Tryz.pinned (OpenSpec.ofChange scanValuesSpec)

/-- ITS FALSE NEIGHBOUR: 'it returns false'. Refute it at one input. -/
def scanValuesWrong : ChangeSpec := { name := "scanValues", fn := fun _ => fun
  | [d1, d2] => { results := [.lit (.bool false)], args := [d1, d2] }
  | _ => none }
def ScanValuesWrongFalsely : Prop := scanValuesRow.holds Tryz.pinned (OpenSpec.ofChange scanValuesWrong)

/-- 'thicketlaw02.ScanRaw': WHATEVER THE INPUT: true; the input reads as it did. -/
def scanRawSpec : ChangeSpec := { name := "scanRaw", fn := fun _ => fun
  | [d1, d2, d3] => { results := [.lit (.bool true)], args := [d1, d2, d3] }
  | _ => none }
def scanRawRow : OpenClaim := { program := "ytofiaodpjpjedaagreatdoor", sum := "700dc4bf2a01a46c01bb0df03501cffc0d48035f54d0a6779aaee749bee46858", func := "thicket/thicketlaw02.ScanRaw", spec := "scanRaw", inPlace := ["internal/bytealg.IndexByteString", "internal/bytealg.IndexString", "internal/abi.NoEscape", "internal/bytealg.CountString", "internal/bytealg.MakeNoZero"], unfollowed := true, recurses := true, named := ["internal/bytealg.MaxLen", "unicode/utf8.first", "unicode/utf8.acceptRanges", "thicket/text.controls"], apart := false, laid := [("unicode/utf8.acceptRanges", laid_unicode_utf8_acceptRanges), ("thicket/text.controls", laid_thicket_text_controls), ("unicode/utf8.first", laid_unicode_utf8_first)] }
def ScanRawSaid : Prop := scanRawRow.holds Tryz.pinned (OpenSpec.ofChange scanRawSpec)

/-- ITS FALSE NEIGHBOUR: 'it returns false'. Refute it at one input. -/
def scanRawWrong : ChangeSpec := { name := "scanRaw", fn := fun _ => fun
  | [d1, d2, d3] => { results := [.lit (.bool false)], args := [d1, d2, d3] }
  | _ => none }
def ScanRawWrongFalsely : Prop := scanRawRow.holds Tryz.pinned (OpenSpec.ofChange scanRawWrong)

/-- 'thicketlaw02.ScanScripts': WHATEVER THE INPUT: true; the input reads as it did. -/
def scanScriptsSpec : ChangeSpec := { name := "scanScripts", fn := fun _ => fun
  | [d1, d2, d3] => { results := [.lit (.bool true)], args := [d1, d2, d3] }
  | _ => none }
def scanScriptsRow : OpenClaim := { program := "ytofiaodpjpjedaagreatdoor", sum := "700dc4bf2a01a46c01bb0df03501cffc0d48035f54d0a6779aaee749bee46858", func := "thicket/thicketlaw02.ScanScripts", spec := "scanScripts", inPlace := ["internal/bytealg.IndexByteString", "internal/bytealg.IndexString", "internal/abi.NoEscape", "internal/bytealg.CountString", "internal/bytealg.MakeNoZero"], unfollowed := true, recurses := true, named := ["internal/bytealg.MaxLen", "unicode/utf8.first", "unicode/utf8.acceptRanges", "thicket/text.controls"], apart := false, laid := [("unicode/utf8.acceptRanges", laid_unicode_utf8_acceptRanges), ("thicket/text.controls", laid_thicket_text_controls), ("unicode/utf8.first", laid_unicode_utf8_first)] }
def ScanScriptsSaid : Prop := scanScriptsRow.holds Tryz.pinned (OpenSpec.ofChange scanScriptsSpec)

/-- ITS FALSE NEIGHBOUR: 'it returns false'. Refute it at one input. -/
def scanScriptsWrong : ChangeSpec := { name := "scanScripts", fn := fun _ => fun
  | [d1, d2, d3] => { results := [.lit (.bool false)], args := [d1, d2, d3] }
  | _ => none }
def ScanScriptsWrongFalsely : Prop := scanScriptsRow.holds Tryz.pinned (OpenSpec.ofChange scanScriptsWrong)

/-- 'thicketlaw02.ScanClosed': WHATEVER THE INPUT: true; the input reads as it did. -/
def scanClosedSpec : ChangeSpec := { name := "scanClosed", fn := fun _ => fun
  | [d1, d2, d3, d4] => { results := [.lit (.bool true)], args := [d1, d2, d3, d4] }
  | _ => none }
def scanClosedRow : OpenClaim := { program := "ytofiaodpjpjedaagreatdoor", sum := "700dc4bf2a01a46c01bb0df03501cffc0d48035f54d0a6779aaee749bee46858", func := "thicket/thicketlaw02.ScanClosed", spec := "scanClosed", inPlace := ["internal/bytealg.IndexByteString", "internal/bytealg.IndexString", "internal/abi.NoEscape", "internal/bytealg.CountString", "internal/bytealg.MakeNoZero"], unfollowed := true, recurses := true, named := ["internal/bytealg.MaxLen", "unicode/utf8.first", "unicode/utf8.acceptRanges", "thicket/text.controls"], apart := false, laid := [("unicode/utf8.acceptRanges", laid_unicode_utf8_acceptRanges), ("thicket/text.controls", laid_thicket_text_controls), ("unicode/utf8.first", laid_unicode_utf8_first)] }
def ScanClosedSaid : Prop := scanClosedRow.holds Tryz.pinned (OpenSpec.ofChange scanClosedSpec)

/-- ITS FALSE NEIGHBOUR: 'it returns false'. Refute it at one input. -/
def scanClosedWrong : ChangeSpec := { name := "scanClosed", fn := fun _ => fun
  | [d1, d2, d3, d4] => { results := [.lit (.bool false)], args := [d1, d2, d3, d4] }
  | _ => none }
def ScanClosedWrongFalsely : Prop := scanClosedRow.holds Tryz.pinned (OpenSpec.ofChange scanClosedWrong)

/-- 'thicketlaw02.ScanEscaped': WHATEVER THE INPUT: true; the input reads as it did. -/
def scanEscapedSpec : ChangeSpec := { name := "scanEscaped", fn := fun _ => fun
  | [d1, d2, d3] => { results := [.lit (.bool true)], args := [d1, d2, d3] }
  | _ => none }
def scanEscapedRow : OpenClaim := { program := "ytofiaodpjpjedaagreatdoor", sum := "700dc4bf2a01a46c01bb0df03501cffc0d48035f54d0a6779aaee749bee46858", func := "thicket/thicketlaw02.ScanEscaped", spec := "scanEscaped", inPlace := ["internal/bytealg.IndexByteString", "internal/bytealg.IndexString", "internal/abi.NoEscape", "internal/bytealg.CountString", "internal/bytealg.MakeNoZero"], unfollowed := true, recurses := true, named := ["internal/bytealg.MaxLen", "unicode/utf8.first", "unicode/utf8.acceptRanges", "thicket/text.controls"], apart := false, laid := [("unicode/utf8.acceptRanges", laid_unicode_utf8_acceptRanges), ("thicket/text.controls", laid_thicket_text_controls), ("unicode/utf8.first", laid_unicode_utf8_first)] }
def ScanEscapedSaid : Prop := scanEscapedRow.holds Tryz.pinned (OpenSpec.ofChange scanEscapedSpec)

/-- ITS FALSE NEIGHBOUR: 'it returns false'. Refute it at one input. -/
def scanEscapedWrong : ChangeSpec := { name := "scanEscaped", fn := fun _ => fun
  | [d1, d2, d3] => { results := [.lit (.bool false)], args := [d1, d2, d3] }
  | _ => none }
def ScanEscapedWrongFalsely : Prop := scanEscapedRow.holds Tryz.pinned (OpenSpec.ofChange scanEscapedWrong)

/-- 'thicketlaw02.ScanNamesBack': WHATEVER THE INPUT: true; the input reads as it did. -/
def scanNamesBackSpec : ChangeSpec := { name := "scanNamesBack", fn := fun _ => fun
  | [d1, d2, d3] => { results := [.lit (.bool true)], args := [d1, d2, d3] }
  | _ => none }
def scanNamesBackRow : OpenClaim := { program := "ytofiaodpjpjedaagreatdoor", sum := "700dc4bf2a01a46c01bb0df03501cffc0d48035f54d0a6779aaee749bee46858", func := "thicket/thicketlaw02.ScanNamesBack", spec := "scanNamesBack", inPlace := ["internal/bytealg.IndexByteString", "internal/bytealg.IndexString", "internal/abi.NoEscape", "internal/bytealg.CountString", "internal/bytealg.MakeNoZero"], unfollowed := true, recurses := true, named := ["internal/bytealg.MaxLen", "unicode/utf8.first", "unicode/utf8.acceptRanges", "thicket/text.controls"], apart := false, laid := [("unicode/utf8.acceptRanges", laid_unicode_utf8_acceptRanges), ("thicket/text.controls", laid_thicket_text_controls), ("unicode/utf8.first", laid_unicode_utf8_first)] }
def ScanNamesBackSaid : Prop := scanNamesBackRow.holds Tryz.pinned (OpenSpec.ofChange scanNamesBackSpec)

/-- ITS FALSE NEIGHBOUR: 'it returns false'. Refute it at one input. -/
def scanNamesBackWrong : ChangeSpec := { name := "scanNamesBack", fn := fun _ => fun
  | [d1, d2, d3] => { results := [.lit (.bool false)], args := [d1, d2, d3] }
  | _ => none }
def ScanNamesBackWrongFalsely : Prop := scanNamesBackRow.holds Tryz.pinned (OpenSpec.ofChange scanNamesBackWrong)

/-- 'thicketlaw02.ScanNumbers': WHATEVER THE INPUT: true; the input reads as it did. -/
def scanNumbersSpec : ChangeSpec := { name := "scanNumbers", fn := fun _ => fun
  | [d1, d2, d3, d4] => { results := [.lit (.bool true)], args := [d1, d2, d3, d4] }
  | _ => none }
def scanNumbersRow : OpenClaim := { program := "ytofiaodpjpjedaagreatdoor", sum := "700dc4bf2a01a46c01bb0df03501cffc0d48035f54d0a6779aaee749bee46858", func := "thicket/thicketlaw02.ScanNumbers", spec := "scanNumbers", inPlace := ["internal/bytealg.IndexByteString", "internal/bytealg.IndexString", "internal/abi.NoEscape", "internal/bytealg.CountString", "internal/bytealg.MakeNoZero"], unfollowed := true, recurses := true, named := ["internal/bytealg.MaxLen", "unicode/utf8.first", "unicode/utf8.acceptRanges", "thicket/text.controls"], apart := false, laid := [("unicode/utf8.acceptRanges", laid_unicode_utf8_acceptRanges), ("thicket/text.controls", laid_thicket_text_controls), ("unicode/utf8.first", laid_unicode_utf8_first)] }
def ScanNumbersSaid : Prop := scanNumbersRow.holds Tryz.pinned (OpenSpec.ofChange scanNumbersSpec)

/-- ITS FALSE NEIGHBOUR: 'it returns false'. Refute it at one input. -/
def scanNumbersWrong : ChangeSpec := { name := "scanNumbers", fn := fun _ => fun
  | [d1, d2, d3, d4] => { results := [.lit (.bool false)], args := [d1, d2, d3, d4] }
  | _ => none }
def ScanNumbersWrongFalsely : Prop := scanNumbersRow.holds Tryz.pinned (OpenSpec.ofChange scanNumbersWrong)

/-- 'thicketlaw02.ScanAttributesBack': WHATEVER THE INPUT: true; the input reads as it did. -/
def scanAttributesBackSpec : ChangeSpec := { name := "scanAttributesBack", fn := fun _ => fun
  | [d1, d2, d3, d4] => { results := [.lit (.bool true)], args := [d1, d2, d3, d4] }
  | _ => none }
def scanAttributesBackRow : OpenClaim := { program := "ytofiaodpjpjedaagreatdoor", sum := "700dc4bf2a01a46c01bb0df03501cffc0d48035f54d0a6779aaee749bee46858", func := "thicket/thicketlaw02.ScanAttributesBack", spec := "scanAttributesBack", inPlace := ["internal/bytealg.IndexByteString", "internal/bytealg.IndexString", "internal/abi.NoEscape", "internal/bytealg.CountString", "internal/bytealg.MakeNoZero"], unfollowed := true, recurses := true, named := ["internal/bytealg.MaxLen", "unicode/utf8.first", "unicode/utf8.acceptRanges", "thicket/text.controls"], apart := false, laid := [("unicode/utf8.acceptRanges", laid_unicode_utf8_acceptRanges), ("thicket/text.controls", laid_thicket_text_controls), ("unicode/utf8.first", laid_unicode_utf8_first)] }
def ScanAttributesBackSaid : Prop := scanAttributesBackRow.holds Tryz.pinned (OpenSpec.ofChange scanAttributesBackSpec)

/-- ITS FALSE NEIGHBOUR: 'it returns false'. Refute it at one input. -/
def scanAttributesBackWrong : ChangeSpec := { name := "scanAttributesBack", fn := fun _ => fun
  | [d1, d2, d3, d4] => { results := [.lit (.bool false)], args := [d1, d2, d3, d4] }
  | _ => none }
def ScanAttributesBackWrongFalsely : Prop := scanAttributesBackRow.holds Tryz.pinned (OpenSpec.ofChange scanAttributesBackWrong)

/- THE SECOND FORM. 'bulk': how many values and letters a reading holds, each counted each time it is reached (what is shared counts as often as it is met; a slice's spare places count too). A statement '..UptoSaid' is the law's where the arguments, and the package variables that the reading takes, are together of bulk at most 1048576: NARROWER than '..Said'. Prove '..Said' where nothing that the law and all that it calls make is longer than what came in: it says more and counts as full. Else prove '..UptoSaid'. A law counts once. -/
mutual
def uptoBulk {H : Type} : DataW H → Nat
  | .lit (.string bytes) => bytes.length + 1
  | .lit _ => 1
  | .nil => 1
  | .ptr d => uptoBulk d + 1
  | .slice elems spare => uptoBulkAll elems + uptoBulkAll spare + 1
  | .agg parts => uptoBulkAll parts + 1
  | .iface _ d => uptoBulk d + 1
  | .map entries => uptoBulkEntries entries + 1
  | .held _ => 1
def uptoBulkAll {H : Type} : List (DataW H) → Nat
  | [] => 0
  | d :: r => uptoBulk d + uptoBulkAll r
def uptoBulkEntries {H : Type} : List (Lit × DataW H) → Nat
  | [] => 0
  | x :: r => uptoBulkEntry x + uptoBulkEntries r
def uptoBulkEntry {H : Type} : Lit × DataW H → Nat
  | (.string bytes, d) => bytes.length + uptoBulk d + 1
  | (_, d) => uptoBulk d + 1
 end
def uptoSmall : (H : Type) → List (DataW H) → Bool := fun _ ds => decide (uptoBulkAll ds ≤ 1048576)
def OpenSpec.upto (s : _root_.Go.ChangeSpec) : _root_.Go.OpenSpec := { _root_.Go.OpenSpec.ofChange s with cond := some uptoSmall }

/-- 'thicketlaw02.ScanReferences', WHERE WHAT IT READS IS OF BULK AT MOST 1048576: true; the input reads as it did. -/
def scanReferencesUptoRow : OpenClaim := { program := "ytofiaodpjpjedaagreatdoor", sum := "700dc4bf2a01a46c01bb0df03501cffc0d48035f54d0a6779aaee749bee46858", func := "thicket/thicketlaw02.ScanReferences", spec := "scanReferences", inPlace := ["internal/bytealg.IndexByteString", "internal/bytealg.IndexString", "internal/abi.NoEscape", "internal/bytealg.CountString", "internal/bytealg.MakeNoZero"], unfollowed := true, recurses := true, named := ["internal/bytealg.MaxLen", "unicode/utf8.first", "unicode/utf8.acceptRanges", "thicket/text.controls"], apart := false, laid := [("unicode/utf8.acceptRanges", laid_unicode_utf8_acceptRanges), ("thicket/text.controls", laid_thicket_text_controls), ("unicode/utf8.first", laid_unicode_utf8_first)], narrowed := true }
def ScanReferencesUptoSaid : Prop := scanReferencesUptoRow.holds Tryz.pinned (OpenSpec.upto scanReferencesSpec)

/-- 'thicketlaw02.ScanComments', WHERE WHAT IT READS IS OF BULK AT MOST 1048576: true; the input reads as it did. -/
def scanCommentsUptoRow : OpenClaim := { program := "ytofiaodpjpjedaagreatdoor", sum := "700dc4bf2a01a46c01bb0df03501cffc0d48035f54d0a6779aaee749bee46858", func := "thicket/thicketlaw02.ScanComments", spec := "scanComments", inPlace := ["internal/bytealg.IndexByteString", "internal/bytealg.IndexString", "internal/abi.NoEscape", "internal/bytealg.CountString", "internal/bytealg.MakeNoZero"], unfollowed := true, recurses := true, named := ["internal/bytealg.MaxLen", "unicode/utf8.first", "unicode/utf8.acceptRanges", "thicket/text.controls"], apart := false, laid := [("unicode/utf8.acceptRanges", laid_unicode_utf8_acceptRanges), ("thicket/text.controls", laid_thicket_text_controls), ("unicode/utf8.first", laid_unicode_utf8_first)], narrowed := true }
def ScanCommentsUptoSaid : Prop := scanCommentsUptoRow.holds Tryz.pinned (OpenSpec.upto scanCommentsSpec)

/-- 'thicketlaw02.ScanValues', WHERE WHAT IT READS IS OF BULK AT MOST 1048576: true; the input reads as it did. -/
def scanValuesUptoRow : OpenClaim := { program := "ytofiaodpjpjedaagreatdoor", sum := "700dc4bf2a01a46c01bb0df03501cffc0d48035f54d0a6779aaee749bee46858", func := "thicket/thicketlaw02.ScanValues", spec := "scanValues", inPlace := ["internal/bytealg.IndexByteString", "internal/bytealg.IndexString", "internal/abi.NoEscape", "internal/bytealg.CountString", "internal/bytealg.MakeNoZero"], unfollowed := true, recurses := true, named := ["internal/bytealg.MaxLen", "unicode/utf8.first", "unicode/utf8.acceptRanges", "thicket/text.controls"], apart := false, laid := [("unicode/utf8.acceptRanges", laid_unicode_utf8_acceptRanges), ("thicket/text.controls", laid_thicket_text_controls), ("unicode/utf8.first", laid_unicode_utf8_first)], narrowed := true }
def ScanValuesUptoSaid : Prop := scanValuesUptoRow.holds Tryz.pinned (OpenSpec.upto scanValuesSpec)

/-- 'thicketlaw02.ScanRaw', WHERE WHAT IT READS IS OF BULK AT MOST 1048576: true; the input reads as it did. -/
def scanRawUptoRow : OpenClaim := { program := "ytofiaodpjpjedaagreatdoor", sum := "700dc4bf2a01a46c01bb0df03501cffc0d48035f54d0a6779aaee749bee46858", func := "thicket/thicketlaw02.ScanRaw", spec := "scanRaw", inPlace := ["internal/bytealg.IndexByteString", "internal/bytealg.IndexString", "internal/abi.NoEscape", "internal/bytealg.CountString", "internal/bytealg.MakeNoZero"], unfollowed := true, recurses := true, named := ["internal/bytealg.MaxLen", "unicode/utf8.first", "unicode/utf8.acceptRanges", "thicket/text.controls"], apart := false, laid := [("unicode/utf8.acceptRanges", laid_unicode_utf8_acceptRanges), ("thicket/text.controls", laid_thicket_text_controls), ("unicode/utf8.first", laid_unicode_utf8_first)], narrowed := true }
def ScanRawUptoSaid : Prop := scanRawUptoRow.holds Tryz.pinned (OpenSpec.upto scanRawSpec)

/-- 'thicketlaw02.ScanScripts', WHERE WHAT IT READS IS OF BULK AT MOST 1048576: true; the input reads as it did. -/
def scanScriptsUptoRow : OpenClaim := { program := "ytofiaodpjpjedaagreatdoor", sum := "700dc4bf2a01a46c01bb0df03501cffc0d48035f54d0a6779aaee749bee46858", func := "thicket/thicketlaw02.ScanScripts", spec := "scanScripts", inPlace := ["internal/bytealg.IndexByteString", "internal/bytealg.IndexString", "internal/abi.NoEscape", "internal/bytealg.CountString", "internal/bytealg.MakeNoZero"], unfollowed := true, recurses := true, named := ["internal/bytealg.MaxLen", "unicode/utf8.first", "unicode/utf8.acceptRanges", "thicket/text.controls"], apart := false, laid := [("unicode/utf8.acceptRanges", laid_unicode_utf8_acceptRanges), ("thicket/text.controls", laid_thicket_text_controls), ("unicode/utf8.first", laid_unicode_utf8_first)], narrowed := true }
def ScanScriptsUptoSaid : Prop := scanScriptsUptoRow.holds Tryz.pinned (OpenSpec.upto scanScriptsSpec)

/-- 'thicketlaw02.ScanClosed', WHERE WHAT IT READS IS OF BULK AT MOST 1048576: true; the input reads as it did. -/
def scanClosedUptoRow : OpenClaim := { program := "ytofiaodpjpjedaagreatdoor", sum := "700dc4bf2a01a46c01bb0df03501cffc0d48035f54d0a6779aaee749bee46858", func := "thicket/thicketlaw02.ScanClosed", spec := "scanClosed", inPlace := ["internal/bytealg.IndexByteString", "internal/bytealg.IndexString", "internal/abi.NoEscape", "internal/bytealg.CountString", "internal/bytealg.MakeNoZero"], unfollowed := true, recurses := true, named := ["internal/bytealg.MaxLen", "unicode/utf8.first", "unicode/utf8.acceptRanges", "thicket/text.controls"], apart := false, laid := [("unicode/utf8.acceptRanges", laid_unicode_utf8_acceptRanges), ("thicket/text.controls", laid_thicket_text_controls), ("unicode/utf8.first", laid_unicode_utf8_first)], narrowed := true }
def ScanClosedUptoSaid : Prop := scanClosedUptoRow.holds Tryz.pinned (OpenSpec.upto scanClosedSpec)

/-- 'thicketlaw02.ScanEscaped', WHERE WHAT IT READS IS OF BULK AT MOST 1048576: true; the input reads as it did. -/
def scanEscapedUptoRow : OpenClaim := { program := "ytofiaodpjpjedaagreatdoor", sum := "700dc4bf2a01a46c01bb0df03501cffc0d48035f54d0a6779aaee749bee46858", func := "thicket/thicketlaw02.ScanEscaped", spec := "scanEscaped", inPlace := ["internal/bytealg.IndexByteString", "internal/bytealg.IndexString", "internal/abi.NoEscape", "internal/bytealg.CountString", "internal/bytealg.MakeNoZero"], unfollowed := true, recurses := true, named := ["internal/bytealg.MaxLen", "unicode/utf8.first", "unicode/utf8.acceptRanges", "thicket/text.controls"], apart := false, laid := [("unicode/utf8.acceptRanges", laid_unicode_utf8_acceptRanges), ("thicket/text.controls", laid_thicket_text_controls), ("unicode/utf8.first", laid_unicode_utf8_first)], narrowed := true }
def ScanEscapedUptoSaid : Prop := scanEscapedUptoRow.holds Tryz.pinned (OpenSpec.upto scanEscapedSpec)

/-- 'thicketlaw02.ScanNamesBack', WHERE WHAT IT READS IS OF BULK AT MOST 1048576: true; the input reads as it did. -/
def scanNamesBackUptoRow : OpenClaim := { program := "ytofiaodpjpjedaagreatdoor", sum := "700dc4bf2a01a46c01bb0df03501cffc0d48035f54d0a6779aaee749bee46858", func := "thicket/thicketlaw02.ScanNamesBack", spec := "scanNamesBack", inPlace := ["internal/bytealg.IndexByteString", "internal/bytealg.IndexString", "internal/abi.NoEscape", "internal/bytealg.CountString", "internal/bytealg.MakeNoZero"], unfollowed := true, recurses := true, named := ["internal/bytealg.MaxLen", "unicode/utf8.first", "unicode/utf8.acceptRanges", "thicket/text.controls"], apart := false, laid := [("unicode/utf8.acceptRanges", laid_unicode_utf8_acceptRanges), ("thicket/text.controls", laid_thicket_text_controls), ("unicode/utf8.first", laid_unicode_utf8_first)], narrowed := true }
def ScanNamesBackUptoSaid : Prop := scanNamesBackUptoRow.holds Tryz.pinned (OpenSpec.upto scanNamesBackSpec)

/-- 'thicketlaw02.ScanNumbers', WHERE WHAT IT READS IS OF BULK AT MOST 1048576: true; the input reads as it did. -/
def scanNumbersUptoRow : OpenClaim := { program := "ytofiaodpjpjedaagreatdoor", sum := "700dc4bf2a01a46c01bb0df03501cffc0d48035f54d0a6779aaee749bee46858", func := "thicket/thicketlaw02.ScanNumbers", spec := "scanNumbers", inPlace := ["internal/bytealg.IndexByteString", "internal/bytealg.IndexString", "internal/abi.NoEscape", "internal/bytealg.CountString", "internal/bytealg.MakeNoZero"], unfollowed := true, recurses := true, named := ["internal/bytealg.MaxLen", "unicode/utf8.first", "unicode/utf8.acceptRanges", "thicket/text.controls"], apart := false, laid := [("unicode/utf8.acceptRanges", laid_unicode_utf8_acceptRanges), ("thicket/text.controls", laid_thicket_text_controls), ("unicode/utf8.first", laid_unicode_utf8_first)], narrowed := true }
def ScanNumbersUptoSaid : Prop := scanNumbersUptoRow.holds Tryz.pinned (OpenSpec.upto scanNumbersSpec)

/-- 'thicketlaw02.ScanAttributesBack', WHERE WHAT IT READS IS OF BULK AT MOST 1048576: true; the input reads as it did. -/
def scanAttributesBackUptoRow : OpenClaim := { program := "ytofiaodpjpjedaagreatdoor", sum := "700dc4bf2a01a46c01bb0df03501cffc0d48035f54d0a6779aaee749bee46858", func := "thicket/thicketlaw02.ScanAttributesBack", spec := "scanAttributesBack", inPlace := ["internal/bytealg.IndexByteString", "internal/bytealg.IndexString", "internal/abi.NoEscape", "internal/bytealg.CountString", "internal/bytealg.MakeNoZero"], unfollowed := true, recurses := true, named := ["internal/bytealg.MaxLen", "unicode/utf8.first", "unicode/utf8.acceptRanges", "thicket/text.controls"], apart := false, laid := [("unicode/utf8.acceptRanges", laid_unicode_utf8_acceptRanges), ("thicket/text.controls", laid_thicket_text_controls), ("unicode/utf8.first", laid_unicode_utf8_first)], narrowed := true }
def ScanAttributesBackUptoSaid : Prop := scanAttributesBackUptoRow.holds Tryz.pinned (OpenSpec.upto scanAttributesBackSpec)

end Rows
end Go.Proofs.YtofiaodpjpjedaaGreatDoor
