/-
  NARROWER THAN 'FOR EVERY INPUT', by the rows' own cells (each row's printed sentence says how): TextScalars: laid · TextNamed: laid · TextTable: laid · TextBehind: laid · TextCodes: laid · TextEscapes: laid · TextEscaped: laid.
  DERIVED. THE GIVEN ROWS OF THIS SEAT. 7 by the template 'for every input the law returns true; each argument reads behind the call as it read before'; 0 by the template 'total and deterministic' (their statements: YtheiehbfbgjgpabDoorTotals.lean).
  GIVEN WITH THE SEED: the statements are not yours to turn. If you find one false, say at which input.
  Laid BY PROGRAM, IN A SANDBOX (cutbox-rows.mjs): the forced cells as the released guide's own fill.sh prints them over the translation f898610bc80cae81… (all of the seat's roots in one cut). By AI agents, Wed Nov 11 2026. No macro, syntax, notation, axiom, sorry.
-/
import Derived.Test.YtheiehbfbgjgpabDoorChecked
import GoSem.PinnedTables
import GoSem.Claim
import GoSem.ClaimJoined
import GoSem.ClaimMapViews
import Derived.JoinedTies
import Derived.KernelRfl
namespace Go.Proofs.YtheiehbfbgjgpabDoor
/- THE CELL 'sum', in the pinned program and in every row, IS THE sha256 OF THE DUMP (.gsa) THAT YtheiehbfbgjgpabDoorProg.lean LOADS. Nothing in Lean hashes anything: it is a label: what it is worth is what the hold of that sum in a sandbox is worth. -/
noncomputable def Tryd.pinned : Pinned := { name := "ytheiehbfbgjgpabdoor", sum := "f898610bc80cae81293cccb16efb2f07f7d699a17a39c8f651759b3f9e5f619d", checked := Tryd.checked }
namespace Rows
def none {H : Type} : Left H := { results := [], args := [] }

/- WHAT THE LISTED PACKAGE-LEVEL VARIABLES READ AS WHEN THE CALL BEGINS. Each datum BY PROGRAM (the guide's laid-datum.mjs) off the statement by which the dump's own 'gosem.cut.vars' lays the variable. In a bare row this is a premise. The card (YtheiehbfbgjgpabDoorCards.lean) ties it to the program's text. -/
def laid_unicode_utf8_acceptRanges {H : Type} : DataW H := .agg [.agg [.lit (.int .u8 128), .lit (.int .u8 191)], .agg [.lit (.int .u8 160), .lit (.int .u8 191)], .agg [.lit (.int .u8 128), .lit (.int .u8 159)], .agg [.lit (.int .u8 144), .lit (.int .u8 191)], .agg [.lit (.int .u8 128), .lit (.int .u8 143)], .agg [.lit (.int .u8 0), .lit (.int .u8 0)], .agg [.lit (.int .u8 0), .lit (.int .u8 0)], .agg [.lit (.int .u8 0), .lit (.int .u8 0)], .agg [.lit (.int .u8 0), .lit (.int .u8 0)], .agg [.lit (.int .u8 0), .lit (.int .u8 0)], .agg [.lit (.int .u8 0), .lit (.int .u8 0)], .agg [.lit (.int .u8 0), .lit (.int .u8 0)], .agg [.lit (.int .u8 0), .lit (.int .u8 0)], .agg [.lit (.int .u8 0), .lit (.int .u8 0)], .agg [.lit (.int .u8 0), .lit (.int .u8 0)], .agg [.lit (.int .u8 0), .lit (.int .u8 0)]]
/-- One of Go's own tables, pinned by name: the form's constant. -/
def laid_unicode_utf8_first : DataW Unit := Go.Pinned.utf8First
def laid_thicket_text_controls {H : Type} : DataW H := .agg [.lit (.int .i32 8364), .lit (.int .i32 129), .lit (.int .i32 8218), .lit (.int .i32 402), .lit (.int .i32 8222), .lit (.int .i32 8230), .lit (.int .i32 8224), .lit (.int .i32 8225), .lit (.int .i32 710), .lit (.int .i32 8240), .lit (.int .i32 352), .lit (.int .i32 8249), .lit (.int .i32 338), .lit (.int .i32 141), .lit (.int .i32 381), .lit (.int .i32 143), .lit (.int .i32 144), .lit (.int .i32 8216), .lit (.int .i32 8217), .lit (.int .i32 8220), .lit (.int .i32 8221), .lit (.int .i32 8226), .lit (.int .i32 8211), .lit (.int .i32 8212), .lit (.int .i32 732), .lit (.int .i32 8482), .lit (.int .i32 353), .lit (.int .i32 8250), .lit (.int .i32 339), .lit (.int .i32 157), .lit (.int .i32 382), .lit (.int .i32 376)]

/-- 'thicketlaw01.TextScalars': WHATEVER THE INPUT: true; the input reads as it did. -/
def textScalarsSpec : ChangeSpec := { name := "textScalars", fn := fun _ => fun
  | [d] => { results := [.lit (.bool true)], args := [d] }
  | _ => none }
def textScalarsRow : OpenClaim := { program := "ytheiehbfbgjgpabdoor", sum := "f898610bc80cae81293cccb16efb2f07f7d699a17a39c8f651759b3f9e5f619d", func := "thicket/thicketlaw01.TextScalars", spec := "textScalars", inPlace := ["internal/bytealg.IndexByteString", "internal/bytealg.IndexString", "internal/abi.NoEscape", "internal/bytealg.MakeNoZero", "internal/bytealg.CountString"], unfollowed := true, recurses := true, named := ["internal/bytealg.MaxLen", "unicode/utf8.first", "unicode/utf8.acceptRanges"], apart := false, laid := [("unicode/utf8.acceptRanges", laid_unicode_utf8_acceptRanges), ("unicode/utf8.first", laid_unicode_utf8_first)] }
def TextScalarsSaid : Prop := textScalarsRow.holds Tryd.pinned (OpenSpec.ofChange textScalarsSpec)

/-- ITS FALSE NEIGHBOUR: 'it returns false'. Refute it at one input. -/
def textScalarsWrong : ChangeSpec := { name := "textScalars", fn := fun _ => fun
  | [d] => { results := [.lit (.bool false)], args := [d] }
  | _ => none }
def TextScalarsWrongFalsely : Prop := textScalarsRow.holds Tryd.pinned (OpenSpec.ofChange textScalarsWrong)

/-- 'thicketlaw01.TextNamed': WHATEVER THE INPUT: true; the input reads as it did. -/
def textNamedSpec : ChangeSpec := { name := "textNamed", fn := fun _ => fun
  | [d] => { results := [.lit (.bool true)], args := [d] }
  | _ => none }
def textNamedRow : OpenClaim := { program := "ytheiehbfbgjgpabdoor", sum := "f898610bc80cae81293cccb16efb2f07f7d699a17a39c8f651759b3f9e5f619d", func := "thicket/thicketlaw01.TextNamed", spec := "textNamed", inPlace := ["internal/bytealg.IndexByteString", "internal/bytealg.IndexString", "internal/abi.NoEscape", "internal/bytealg.MakeNoZero", "internal/bytealg.CountString"], unfollowed := true, recurses := true, named := ["internal/bytealg.MaxLen", "unicode/utf8.first", "unicode/utf8.acceptRanges"], apart := false, laid := [("unicode/utf8.acceptRanges", laid_unicode_utf8_acceptRanges), ("unicode/utf8.first", laid_unicode_utf8_first)] }
def TextNamedSaid : Prop := textNamedRow.holds Tryd.pinned (OpenSpec.ofChange textNamedSpec)

/-- ITS FALSE NEIGHBOUR: 'it returns false'. Refute it at one input. -/
def textNamedWrong : ChangeSpec := { name := "textNamed", fn := fun _ => fun
  | [d] => { results := [.lit (.bool false)], args := [d] }
  | _ => none }
def TextNamedWrongFalsely : Prop := textNamedRow.holds Tryd.pinned (OpenSpec.ofChange textNamedWrong)

/-- 'thicketlaw01.TextTable': WHATEVER THE INPUT: true; the input reads as it did. -/
def textTableSpec : ChangeSpec := { name := "textTable", fn := fun _ => fun
  | [d] => { results := [.lit (.bool true)], args := [d] }
  | _ => none }
def textTableRow : OpenClaim := { program := "ytheiehbfbgjgpabdoor", sum := "f898610bc80cae81293cccb16efb2f07f7d699a17a39c8f651759b3f9e5f619d", func := "thicket/thicketlaw01.TextTable", spec := "textTable", inPlace := ["internal/bytealg.IndexByteString", "internal/bytealg.IndexString", "internal/abi.NoEscape", "internal/bytealg.MakeNoZero", "internal/bytealg.CountString"], unfollowed := true, recurses := true, named := ["unicode/utf8.first", "unicode/utf8.acceptRanges", "internal/bytealg.MaxLen"], apart := false, laid := [("unicode/utf8.acceptRanges", laid_unicode_utf8_acceptRanges), ("unicode/utf8.first", laid_unicode_utf8_first)] }
def TextTableSaid : Prop := textTableRow.holds Tryd.pinned (OpenSpec.ofChange textTableSpec)

/-- ITS FALSE NEIGHBOUR: 'it returns false'. Refute it at one input. -/
def textTableWrong : ChangeSpec := { name := "textTable", fn := fun _ => fun
  | [d] => { results := [.lit (.bool false)], args := [d] }
  | _ => none }
def TextTableWrongFalsely : Prop := textTableRow.holds Tryd.pinned (OpenSpec.ofChange textTableWrong)

/-- 'thicketlaw01.TextBehind': WHATEVER THE INPUT: true; the input reads as it did. -/
def textBehindSpec : ChangeSpec := { name := "textBehind", fn := fun _ => fun
  | [d1, d2] => { results := [.lit (.bool true)], args := [d1, d2] }
  | _ => none }
def textBehindRow : OpenClaim := { program := "ytheiehbfbgjgpabdoor", sum := "f898610bc80cae81293cccb16efb2f07f7d699a17a39c8f651759b3f9e5f619d", func := "thicket/thicketlaw01.TextBehind", spec := "textBehind", inPlace := ["internal/bytealg.IndexByteString", "internal/bytealg.IndexString", "internal/abi.NoEscape", "internal/bytealg.MakeNoZero", "internal/bytealg.CountString"], unfollowed := true, recurses := true, named := ["unicode/utf8.first", "unicode/utf8.acceptRanges", "internal/bytealg.MaxLen"], apart := false, laid := [("unicode/utf8.acceptRanges", laid_unicode_utf8_acceptRanges), ("unicode/utf8.first", laid_unicode_utf8_first)] }
def TextBehindSaid : Prop := textBehindRow.holds Tryd.pinned (OpenSpec.ofChange textBehindSpec)

/-- ITS FALSE NEIGHBOUR: 'it returns false'. Refute it at one input. -/
def textBehindWrong : ChangeSpec := { name := "textBehind", fn := fun _ => fun
  | [d1, d2] => { results := [.lit (.bool false)], args := [d1, d2] }
  | _ => none }
def TextBehindWrongFalsely : Prop := textBehindRow.holds Tryd.pinned (OpenSpec.ofChange textBehindWrong)

/-- 'thicketlaw01.TextCodes': WHATEVER THE INPUT: true; the input reads as it did. -/
def textCodesSpec : ChangeSpec := { name := "textCodes", fn := fun _ => fun
  | [d] => { results := [.lit (.bool true)], args := [d] }
  | _ => none }
def textCodesRow : OpenClaim := { program := "ytheiehbfbgjgpabdoor", sum := "f898610bc80cae81293cccb16efb2f07f7d699a17a39c8f651759b3f9e5f619d", func := "thicket/thicketlaw01.TextCodes", spec := "textCodes", inPlace := ["internal/bytealg.IndexByteString", "internal/bytealg.IndexString", "internal/abi.NoEscape", "internal/bytealg.MakeNoZero", "internal/bytealg.CountString"], unfollowed := true, recurses := true, named := ["thicket/text.controls", "internal/bytealg.MaxLen", "unicode/utf8.first", "unicode/utf8.acceptRanges"], apart := false, laid := [("unicode/utf8.acceptRanges", laid_unicode_utf8_acceptRanges), ("thicket/text.controls", laid_thicket_text_controls), ("unicode/utf8.first", laid_unicode_utf8_first)] }
def TextCodesSaid : Prop := textCodesRow.holds Tryd.pinned (OpenSpec.ofChange textCodesSpec)

/-- ITS FALSE NEIGHBOUR: 'it returns false'. Refute it at one input. -/
def textCodesWrong : ChangeSpec := { name := "textCodes", fn := fun _ => fun
  | [d] => { results := [.lit (.bool false)], args := [d] }
  | _ => none }
def TextCodesWrongFalsely : Prop := textCodesRow.holds Tryd.pinned (OpenSpec.ofChange textCodesWrong)

/-- 'thicketlaw01.TextEscapes': WHATEVER THE INPUT: true; the input reads as it did. -/
def textEscapesSpec : ChangeSpec := { name := "textEscapes", fn := fun _ => fun
  | [d] => { results := [.lit (.bool true)], args := [d] }
  | _ => none }
def textEscapesRow : OpenClaim := { program := "ytheiehbfbgjgpabdoor", sum := "f898610bc80cae81293cccb16efb2f07f7d699a17a39c8f651759b3f9e5f619d", func := "thicket/thicketlaw01.TextEscapes", spec := "textEscapes", inPlace := ["internal/bytealg.IndexByteString", "internal/bytealg.IndexString", "internal/abi.NoEscape", "internal/bytealg.MakeNoZero", "internal/bytealg.CountString"], unfollowed := true, recurses := true, named := ["internal/bytealg.MaxLen", "unicode/utf8.first", "unicode/utf8.acceptRanges"], apart := false, laid := [("unicode/utf8.acceptRanges", laid_unicode_utf8_acceptRanges), ("unicode/utf8.first", laid_unicode_utf8_first)] }
def TextEscapesSaid : Prop := textEscapesRow.holds Tryd.pinned (OpenSpec.ofChange textEscapesSpec)

/-- ITS FALSE NEIGHBOUR: 'it returns false'. Refute it at one input. -/
def textEscapesWrong : ChangeSpec := { name := "textEscapes", fn := fun _ => fun
  | [d] => { results := [.lit (.bool false)], args := [d] }
  | _ => none }
def TextEscapesWrongFalsely : Prop := textEscapesRow.holds Tryd.pinned (OpenSpec.ofChange textEscapesWrong)

/-- 'thicketlaw01.TextEscaped': WHATEVER THE INPUT: true; the input reads as it did. -/
def textEscapedSpec : ChangeSpec := { name := "textEscaped", fn := fun _ => fun
  | [d1, d2] => { results := [.lit (.bool true)], args := [d1, d2] }
  | _ => none }
def textEscapedRow : OpenClaim := { program := "ytheiehbfbgjgpabdoor", sum := "f898610bc80cae81293cccb16efb2f07f7d699a17a39c8f651759b3f9e5f619d", func := "thicket/thicketlaw01.TextEscaped", spec := "textEscaped", inPlace := ["internal/bytealg.IndexByteString", "internal/bytealg.IndexString", "internal/abi.NoEscape", "internal/bytealg.MakeNoZero", "internal/bytealg.CountString"], unfollowed := true, recurses := true, named := ["internal/bytealg.MaxLen", "unicode/utf8.first", "unicode/utf8.acceptRanges"], apart := false, laid := [("unicode/utf8.acceptRanges", laid_unicode_utf8_acceptRanges), ("unicode/utf8.first", laid_unicode_utf8_first)] }
def TextEscapedSaid : Prop := textEscapedRow.holds Tryd.pinned (OpenSpec.ofChange textEscapedSpec)

/-- ITS FALSE NEIGHBOUR: 'it returns false'. Refute it at one input. -/
def textEscapedWrong : ChangeSpec := { name := "textEscaped", fn := fun _ => fun
  | [d1, d2] => { results := [.lit (.bool false)], args := [d1, d2] }
  | _ => none }
def TextEscapedWrongFalsely : Prop := textEscapedRow.holds Tryd.pinned (OpenSpec.ofChange textEscapedWrong)

/- THE SECOND FORM. 'bulk': how many values and letters a reading holds, each counted each time it is reached (what is shared counts as often as it is met; a slice's spare places count too). A statement '..UptoSaid' is the law's where the arguments, and the package variables that the reading takes, are together of bulk at most 1048576: NARROWER than '..Said'. Prove '..Said' where nothing that the law and all that it calls make is longer than what came in: it says more and counts as full. Else prove '..UptoSaid'. A law counts once. -/
mutual
def uptoBulk {H : Type} : DataW H → Nat
  | .lit (.string bytes) => bytes.length + 1
  | .lit _ => 1
  | .nil => 1
  | .ptr d => uptoBulk d + 1
  | .slice elems spare => uptoBulkAll elems + uptoBulkAll spare + 1
  | .agg parts => uptoBulkAll parts + 1
  | .iface _ d => uptoBulk d + 1
  | .map entries => uptoBulkEntries entries + 1
  | .held _ => 1
def uptoBulkAll {H : Type} : List (DataW H) → Nat
  | [] => 0
  | d :: r => uptoBulk d + uptoBulkAll r
def uptoBulkEntries {H : Type} : List (Lit × DataW H) → Nat
  | [] => 0
  | x :: r => uptoBulkEntry x + uptoBulkEntries r
def uptoBulkEntry {H : Type} : Lit × DataW H → Nat
  | (.string bytes, d) => bytes.length + uptoBulk d + 1
  | (_, d) => uptoBulk d + 1
 end
def uptoSmall : (H : Type) → List (DataW H) → Bool := fun _ ds => decide (uptoBulkAll ds ≤ 1048576)
def OpenSpec.upto (s : _root_.Go.ChangeSpec) : _root_.Go.OpenSpec := { _root_.Go.OpenSpec.ofChange s with cond := some uptoSmall }

/-- 'thicketlaw01.TextScalars', WHERE WHAT IT READS IS OF BULK AT MOST 1048576: true; the input reads as it did. -/
def textScalarsUptoRow : OpenClaim := { program := "ytheiehbfbgjgpabdoor", sum := "f898610bc80cae81293cccb16efb2f07f7d699a17a39c8f651759b3f9e5f619d", func := "thicket/thicketlaw01.TextScalars", spec := "textScalars", inPlace := ["internal/bytealg.IndexByteString", "internal/bytealg.IndexString", "internal/abi.NoEscape", "internal/bytealg.MakeNoZero", "internal/bytealg.CountString"], unfollowed := true, recurses := true, named := ["internal/bytealg.MaxLen", "unicode/utf8.first", "unicode/utf8.acceptRanges"], apart := false, laid := [("unicode/utf8.acceptRanges", laid_unicode_utf8_acceptRanges), ("unicode/utf8.first", laid_unicode_utf8_first)], narrowed := true }
def TextScalarsUptoSaid : Prop := textScalarsUptoRow.holds Tryd.pinned (OpenSpec.upto textScalarsSpec)

/-- 'thicketlaw01.TextNamed', WHERE WHAT IT READS IS OF BULK AT MOST 1048576: true; the input reads as it did. -/
def textNamedUptoRow : OpenClaim := { program := "ytheiehbfbgjgpabdoor", sum := "f898610bc80cae81293cccb16efb2f07f7d699a17a39c8f651759b3f9e5f619d", func := "thicket/thicketlaw01.TextNamed", spec := "textNamed", inPlace := ["internal/bytealg.IndexByteString", "internal/bytealg.IndexString", "internal/abi.NoEscape", "internal/bytealg.MakeNoZero", "internal/bytealg.CountString"], unfollowed := true, recurses := true, named := ["internal/bytealg.MaxLen", "unicode/utf8.first", "unicode/utf8.acceptRanges"], apart := false, laid := [("unicode/utf8.acceptRanges", laid_unicode_utf8_acceptRanges), ("unicode/utf8.first", laid_unicode_utf8_first)], narrowed := true }
def TextNamedUptoSaid : Prop := textNamedUptoRow.holds Tryd.pinned (OpenSpec.upto textNamedSpec)

/-- 'thicketlaw01.TextTable', WHERE WHAT IT READS IS OF BULK AT MOST 1048576: true; the input reads as it did. -/
def textTableUptoRow : OpenClaim := { program := "ytheiehbfbgjgpabdoor", sum := "f898610bc80cae81293cccb16efb2f07f7d699a17a39c8f651759b3f9e5f619d", func := "thicket/thicketlaw01.TextTable", spec := "textTable", inPlace := ["internal/bytealg.IndexByteString", "internal/bytealg.IndexString", "internal/abi.NoEscape", "internal/bytealg.MakeNoZero", "internal/bytealg.CountString"], unfollowed := true, recurses := true, named := ["unicode/utf8.first", "unicode/utf8.acceptRanges", "internal/bytealg.MaxLen"], apart := false, laid := [("unicode/utf8.acceptRanges", laid_unicode_utf8_acceptRanges), ("unicode/utf8.first", laid_unicode_utf8_first)], narrowed := true }
def TextTableUptoSaid : Prop := textTableUptoRow.holds Tryd.pinned (OpenSpec.upto textTableSpec)

/-- 'thicketlaw01.TextBehind', WHERE WHAT IT READS IS OF BULK AT MOST 1048576: true; the input reads as it did. -/
def textBehindUptoRow : OpenClaim := { program := "ytheiehbfbgjgpabdoor", sum := "f898610bc80cae81293cccb16efb2f07f7d699a17a39c8f651759b3f9e5f619d", func := "thicket/thicketlaw01.TextBehind", spec := "textBehind", inPlace := ["internal/bytealg.IndexByteString", "internal/bytealg.IndexString", "internal/abi.NoEscape", "internal/bytealg.MakeNoZero", "internal/bytealg.CountString"], unfollowed := true, recurses := true, named := ["unicode/utf8.first", "unicode/utf8.acceptRanges", "internal/bytealg.MaxLen"], apart := false, laid := [("unicode/utf8.acceptRanges", laid_unicode_utf8_acceptRanges), ("unicode/utf8.first", laid_unicode_utf8_first)], narrowed := true }
def TextBehindUptoSaid : Prop := textBehindUptoRow.holds Tryd.pinned (OpenSpec.upto textBehindSpec)

/-- 'thicketlaw01.TextCodes', WHERE WHAT IT READS IS OF BULK AT MOST 1048576: true; the input reads as it did. -/
def textCodesUptoRow : OpenClaim := { program := "ytheiehbfbgjgpabdoor", sum := "f898610bc80cae81293cccb16efb2f07f7d699a17a39c8f651759b3f9e5f619d", func := "thicket/thicketlaw01.TextCodes", spec := "textCodes", inPlace := ["internal/bytealg.IndexByteString", "internal/bytealg.IndexString", "internal/abi.NoEscape", "internal/bytealg.MakeNoZero", "internal/bytealg.CountString"], unfollowed := true, recurses := true, named := ["thicket/text.controls", "internal/bytealg.MaxLen", "unicode/utf8.first", "unicode/utf8.acceptRanges"], apart := false, laid := [("unicode/utf8.acceptRanges", laid_unicode_utf8_acceptRanges), ("thicket/text.controls", laid_thicket_text_controls), ("unicode/utf8.first", laid_unicode_utf8_first)], narrowed := true }
def TextCodesUptoSaid : Prop := textCodesUptoRow.holds Tryd.pinned (OpenSpec.upto textCodesSpec)

/-- 'thicketlaw01.TextEscapes', WHERE WHAT IT READS IS OF BULK AT MOST 1048576: true; the input reads as it did. -/
def textEscapesUptoRow : OpenClaim := { program := "ytheiehbfbgjgpabdoor", sum := "f898610bc80cae81293cccb16efb2f07f7d699a17a39c8f651759b3f9e5f619d", func := "thicket/thicketlaw01.TextEscapes", spec := "textEscapes", inPlace := ["internal/bytealg.IndexByteString", "internal/bytealg.IndexString", "internal/abi.NoEscape", "internal/bytealg.MakeNoZero", "internal/bytealg.CountString"], unfollowed := true, recurses := true, named := ["internal/bytealg.MaxLen", "unicode/utf8.first", "unicode/utf8.acceptRanges"], apart := false, laid := [("unicode/utf8.acceptRanges", laid_unicode_utf8_acceptRanges), ("unicode/utf8.first", laid_unicode_utf8_first)], narrowed := true }
def TextEscapesUptoSaid : Prop := textEscapesUptoRow.holds Tryd.pinned (OpenSpec.upto textEscapesSpec)

/-- 'thicketlaw01.TextEscaped', WHERE WHAT IT READS IS OF BULK AT MOST 1048576: true; the input reads as it did. -/
def textEscapedUptoRow : OpenClaim := { program := "ytheiehbfbgjgpabdoor", sum := "f898610bc80cae81293cccb16efb2f07f7d699a17a39c8f651759b3f9e5f619d", func := "thicket/thicketlaw01.TextEscaped", spec := "textEscaped", inPlace := ["internal/bytealg.IndexByteString", "internal/bytealg.IndexString", "internal/abi.NoEscape", "internal/bytealg.MakeNoZero", "internal/bytealg.CountString"], unfollowed := true, recurses := true, named := ["internal/bytealg.MaxLen", "unicode/utf8.first", "unicode/utf8.acceptRanges"], apart := false, laid := [("unicode/utf8.acceptRanges", laid_unicode_utf8_acceptRanges), ("unicode/utf8.first", laid_unicode_utf8_first)], narrowed := true }
def TextEscapedUptoSaid : Prop := textEscapedUptoRow.holds Tryd.pinned (OpenSpec.upto textEscapedSpec)

end Rows
end Go.Proofs.YtheiehbfbgjgpabDoor
