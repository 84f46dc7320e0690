/-
  DERIVED: THE SHELF's CONTRACTS AT THIS DUMP, IN PLAIN WORDS (tools/lay-plain.mjs out of 'TryzShelf.lean', which tools/lay-shelf.mjs wrote): THE SAME DECLARATIONS UNDER THE SAME NAMES: 'import', 'namespace', 'open', 'def', 'theorem' AND NOTHING ELSE: no command of the shelf's: FOR A HAND-IN. Each laying: the table of numbers ('.._ren') and one theorem, a field a fact of the dump's own or the kernel's comparison; each contract: ONE APPLICATION.
-/
import Derived.Shelf.Strings.Builder1
import Derived.Shelf.Strings.Builder2
import Derived.Shelf.Small.Utf8
import Derived.Shelf.Small.Strs
import Derived.Shelf.Strings.BuilderF
import Derived.Shelf.Strings.BuilderK
import Derived.Shelf.Strings.BuilderRune
import Derived.Shelf.Utf8.AppendRune
import Derived.Shelf.Utf8.AppendRunePlain
import Derived.Shelf.Utf8.RuneCount
import Derived.Shelf.Strings.Builder2Cap
import Derived.Shelf.Strings.Search1
import Derived.Shelf.Strings.Search2
import Derived.Shelf.Strings.Search3
import Derived.Shelf.Strings.Cut
import Derived.Shelf.Strings.Count
import Derived.Shelf.LaysM
import Derived.Shelf.Strings.Shaped
import Derived.Shelf.Strings.LastIndex
import Derived.Shelf.GgClosure.StringsIndexFunc
import Derived.Ground.GgwProg
import Derived.Shelf.GgClosure.StringsIndexFuncTop
import Derived.Shelf.GgClosure.StringsRunes
import Derived.Shelf.Strings.Prefix
import Derived.Shelf.Strings.Split
import Derived.Shelf.Strings.Replace
import Derived.Shelf.Strings.SplitShaped
import Derived.Shelf.Unicode.Decode
import Derived.Shelf.Strings.Runes
import Derived.Shelf.Strings.RuneCount
import Derived.Shelf.Unicode.DecodeSlow
import Derived.Shelf.Unicode.DecodeAny
import Derived.Shelf.Strings.FuncGrows
import Derived.Shelf.Strings.BuilderCap
import Derived.Ground.PaProg
import Derived.Shelf.Path.Small
import Derived.Test.YtnfccckodgknjaaGreatDoorProg
namespace Go.Proofs
open Go.Shelf
def Tryz.lays169_ren : Go.Shelf.Ren := ⟨fun | 169 => 108 | n => n, fun | 70 => 113 | 9 => 9 | 0 => 0 | 72 => 115 | 37 => 75 | 127 => 162 | 3 => 3 | 5 => 5 | n => n, fun | n => n⟩
theorem Tryz.lays169 : Go.Proofs.Lays.n169 Tryz.prog Tryz.lays169_ren := {
  mixed := by kernel_rfl
  f169 := Tryz.func108.trans (congrArg some (by kernel_rfl))
  t0 := Tryz.underlying0
  a0 := Tryz.isAgg0
  z0 := Tryz.sizeOf0
  v0 := Tryz.zeroValue0
  t3 := Tryz.underlying3
  a3 := Tryz.isAgg3
  z3 := Tryz.sizeOf3
  v3 := Tryz.zeroValue3
  t9 := Tryz.underlying9
  a9 := Tryz.isAgg9
  z9 := Tryz.sizeOf9
  v9 := Tryz.zeroValue9
  t37 := Tryz.underlying75
  a37 := Tryz.isAgg75
  z37 := Tryz.sizeOf75
  v37 := Tryz.zeroValue75
  t70 := Tryz.underlying113
  a70 := Tryz.isAgg113
  z70 := Tryz.sizeOf113
  v70 := Tryz.zeroValue113
  t72 := Tryz.underlying115
  a72 := Tryz.isAgg115
  z72 := Tryz.sizeOf115
  v72 := Tryz.zeroValue115
  t127 := Tryz.underlying162
  a127 := Tryz.isAgg162
  z127 := Tryz.sizeOf162
  v127 := Tryz.zeroValue162 }
theorem Tryz.Builder_Extra_169 : Builder.Extra Tryz.prog Tryz.lays169_ren := {
  sizeBuilder := by kernel_rfl
  liesBuilder := by kernel_rfl
  t5 := Tryz.underlying5
  a5 := Tryz.isAgg5
  z5 := Tryz.sizeOf5
  v5 := Tryz.zeroValue5
  infoByte := by kernel_rfl
  cellsByte := by kernel_rfl
  sizeByte := by kernel_rfl
  neB5 := by decide }
open Go.RowKit in
/-- (*strings.Builder).String: "String returns the accumulated string.": OF A BUILDER THAT HOLDS AT LEAST ONE BYTE. ✋ THE MODEL FREEZES THOSE BYTES IN THE BUFFER (unsafe.String): a later write INTO them ends the model's run without an answer; a later append BEHIND them goes on. The statement's order of evaluation is drawn: one draw. (LAID: no walk: one application.) -/
theorem Tryz.Builder_String (B b : Nat) (l : List UInt8) (w : World) (h : Lib.IsBuilder 115 5 B b (Lib.byteCells l) w) (h0 : l ≠ []) :
    Calls Tryz.prog 108 #[.pointer (some ⟨b, 0, none⟩)] w fun e w' => e = .returned (.string ⟨l.toArray⟩) ∧ Below B w w' := Any.Builder_String Tryz.lays169 Tryz.Builder_Extra_169 B b l w h h0
open Go.RowKit in
/-- (*strings.Builder).String OF A BUILDER THAT HOLDS NO BYTE: the empty string. (Its buffer is nil, or a row of which it has taken nothing yet; where that row has NO capacity the model lays one new block for unsafe.SliceData's 'some address'.) One draw. (LAID: no walk: one application.) -/
theorem Tryz.Builder_String_empty (B b : Nat) (w : World) (h : Lib.IsBuilder 115 5 B b [] w) (hBw : B ≤ w.heap.size) :
    Calls Tryz.prog 108 #[.pointer (some ⟨b, 0, none⟩)] w fun e w' => e = .returned (.string ⟨#[]⟩) ∧ Below B w w' := Any.Builder_String_empty Tryz.lays169 Tryz.Builder_Extra_169 B b w h hBw
open Go.RowKit in
/-- (*strings.Builder).String: "String returns the accumulated string.": WHATEVER THE BUILDER HOLDS. (LAID: no walk: one application.) -/
theorem Tryz.Builder_String_any (B b : Nat) (l : List UInt8) (w : World) (h : Lib.IsBuilder 115 5 B b (Lib.byteCells l) w) (hBw : B ≤ w.heap.size) :
    Calls Tryz.prog 108 #[.pointer (some ⟨b, 0, none⟩)] w fun e w' => e = .returned (.string ⟨l.toArray⟩) ∧ Below B w w' := Any.Builder_String_any Tryz.lays169 Tryz.Builder_Extra_169 B b l w h hBw
def Tryz.lays241_ren : Go.Shelf.Ren := ⟨fun | 241 => 199 | 277 => 232 | n => n, fun | 70 => 113 | 3 => 3 | 0 => 0 | 72 => 115 | 37 => 75 | 5 => 5 | n => n, fun | n => n⟩
theorem Tryz.lays241 : Go.Proofs.Lays.n241 Tryz.prog Tryz.lays241_ren := {
  mixed := by kernel_rfl
  f241 := Tryz.func199.trans (congrArg some (by kernel_rfl))
  f277 := Tryz.func232.trans (congrArg some (by kernel_rfl))
  t0 := Tryz.underlying0
  a0 := Tryz.isAgg0
  z0 := Tryz.sizeOf0
  v0 := Tryz.zeroValue0
  t3 := Tryz.underlying3
  a3 := Tryz.isAgg3
  z3 := Tryz.sizeOf3
  v3 := Tryz.zeroValue3
  t37 := Tryz.underlying75
  a37 := Tryz.isAgg75
  z37 := Tryz.sizeOf75
  v37 := Tryz.zeroValue75
  t70 := Tryz.underlying113
  a70 := Tryz.isAgg113
  z70 := Tryz.sizeOf113
  v70 := Tryz.zeroValue113
  t72 := Tryz.underlying115
  a72 := Tryz.isAgg115
  z72 := Tryz.sizeOf115
  v72 := Tryz.zeroValue115 }
theorem Tryz.Builder_Extra_241 : Builder.Extra Tryz.prog Tryz.lays241_ren := {
  sizeBuilder := by kernel_rfl
  liesBuilder := by kernel_rfl
  t5 := Tryz.underlying5
  a5 := Tryz.isAgg5
  z5 := Tryz.sizeOf5
  v5 := Tryz.zeroValue5
  infoByte := by kernel_rfl
  cellsByte := by kernel_rfl
  sizeByte := by kernel_rfl
  neB5 := by decide }
open Go.RowKit in
/-- (*strings.Builder).grow (no doc but "grow copies the buffer to a new, larger buffer so that there are at least n bytes of capacity beyond len(b.buf)."): AT A BUILDER WITHOUT A BUFFER: a new row of whatever bytes for its buffer, none of them its own yet. Three draws. (LAID: no walk: one application.) -/
theorem Tryz.Builder_grow_fresh (B b n : Nat) (w : World) (hB : B ≤ b) (hbk : w.heap[b]? = some (.cells #[.pointer (some ⟨b, 0, none⟩), .slice none 0 0] 115 (0, 0))) (hBw : B ≤ w.heap.size) (hn : n ≤ 281474976710656) :
    Calls Tryz.prog 199 #[.pointer (some ⟨b, 0, none⟩), .int .i64 n] w fun e w' => e = .returned (.tuple #[]) ∧ (Lib.BuilderAt 115 5 B b (.pointer (some ⟨b, 0, none⟩)) [] w' ∧ Below B w w') := Any.Builder_grow_fresh Tryz.lays241 Tryz.Builder_Extra_241 B b n w hB hbk hBw hn
def Tryz.lays165_ren : Go.Shelf.Ren := ⟨fun | 165 => 153 | 240 => 198 | 241 => 199 | 276 => 231 | 277 => 232 | n => n, fun | 70 => 113 | 3 => 3 | 0 => 0 | 4 => 4 | 9 => 9 | 20 => 20 | 72 => 115 | 37 => 75 | 164 => 194 | 5 => 5 | n => n, fun | n => n⟩
theorem Tryz.lays165 : Go.Proofs.Lays.n165 Tryz.prog Tryz.lays165_ren := {
  mixed := by kernel_rfl
  f165 := Tryz.func153.trans (congrArg some (by kernel_rfl))
  f240 := Tryz.func198.trans (congrArg some (by kernel_rfl))
  f241 := Tryz.func199.trans (congrArg some (by kernel_rfl))
  f276 := Tryz.func231.trans (congrArg some (by kernel_rfl))
  f277 := Tryz.func232.trans (congrArg some (by kernel_rfl))
  t0 := Tryz.underlying0
  a0 := Tryz.isAgg0
  z0 := Tryz.sizeOf0
  v0 := Tryz.zeroValue0
  t3 := Tryz.underlying3
  a3 := Tryz.isAgg3
  z3 := Tryz.sizeOf3
  v3 := Tryz.zeroValue3
  t4 := Tryz.underlying4
  a4 := Tryz.isAgg4
  z4 := Tryz.sizeOf4
  v4 := Tryz.zeroValue4
  t9 := Tryz.underlying9
  a9 := Tryz.isAgg9
  z9 := Tryz.sizeOf9
  v9 := Tryz.zeroValue9
  t20 := Tryz.underlying20
  a20 := Tryz.isAgg20
  z20 := Tryz.sizeOf20
  v20 := Tryz.zeroValue20
  t37 := Tryz.underlying75
  a37 := Tryz.isAgg75
  z37 := Tryz.sizeOf75
  v37 := Tryz.zeroValue75
  t70 := Tryz.underlying113
  a70 := Tryz.isAgg113
  z70 := Tryz.sizeOf113
  v70 := Tryz.zeroValue113
  t72 := Tryz.underlying115
  a72 := Tryz.isAgg115
  z72 := Tryz.sizeOf115
  v72 := Tryz.zeroValue115
  t164 := Tryz.underlying194
  a164 := Tryz.isAgg194
  z164 := Tryz.sizeOf194
  v164 := Tryz.zeroValue194 }
theorem Tryz.Builder_Extra_165 : Builder.Extra Tryz.prog Tryz.lays165_ren := {
  sizeBuilder := by kernel_rfl
  liesBuilder := by kernel_rfl
  t5 := Tryz.underlying5
  a5 := Tryz.isAgg5
  z5 := Tryz.sizeOf5
  v5 := Tryz.zeroValue5
  infoByte := by kernel_rfl
  cellsByte := by kernel_rfl
  sizeByte := by kernel_rfl
  neB5 := by decide }
open Go.RowKit in
/-- (*strings.Builder).Grow AT A BUILDER THAT HAS NOT BEEN WRITTEN ('var b strings.Builder; b.Grow(n)'): "Grow grows b's capacity, if necessary, to guarantee space for another n bytes.": it holds no byte behind it as before it. (LAID: no walk: one application.) -/
theorem Tryz.Builder_Grow_fresh (B b n : Nat) (w : World) (hB : B ≤ b) (hbk : w.heap[b]? = some (.cells #[.pointer none, .slice none 0 0] 115 (0, 0))) (hBw : B ≤ w.heap.size) (hn : n ≤ 281474976710656) :
    Calls Tryz.prog 153 #[.pointer (some ⟨b, 0, none⟩), .int .i64 n] w fun e w' => e = .returned (.tuple #[]) ∧ (Lib.BuilderAt 115 5 B b (.pointer (some ⟨b, 0, none⟩)) [] w' ∧ Below B w w') := Any.Builder_Grow_fresh Tryz.lays165 Tryz.Builder_Extra_165 B b n w hB hbk hBw hn
def Tryz.lays119_ren : Go.Shelf.Ren := ⟨fun | 119 => 259 | n => n, fun | 21 => 21 | 4 => 4 | n => n, fun | n => n⟩
theorem Tryz.lays119 : Go.Proofs.Lays.n119 Tryz.prog Tryz.lays119_ren := {
  mixed := by kernel_rfl
  f119 := Tryz.func259.trans (congrArg some (by kernel_rfl))
  t4 := Tryz.underlying4
  a4 := Tryz.isAgg4
  z4 := Tryz.sizeOf4
  v4 := Tryz.zeroValue4
  t21 := Tryz.underlying21
  a21 := Tryz.isAgg21
  z21 := Tryz.sizeOf21
  v21 := Tryz.zeroValue21 }
/-- utf8.ValidRune: "ValidRune reports whether r can be legally encoded as UTF-8. Code points that are out of range or a surrogate half are illegal.": IT RETURNS 'Lib.validRune r'; the world is as it was. (LAID: no walk: one application.) -/
theorem Tryz.utf8_ValidRune (r : Int) (w : World) :
    Calls Tryz.prog 259 #[.int .i32 r] w fun e w' => e = .returned (.bool (Lib.validRune r)) ∧ w' = w := Any.utf8_ValidRune Tryz.lays119 r w
def Tryz.lays137_ren : Go.Shelf.Ren := ⟨fun | 137 => 254 | 217 => 246 | 266 => 257 | n => n, fun | 9 => 9 | 5 => 5 | 3 => 3 | n => n, fun | n => n⟩
theorem Tryz.lays137 : Go.Proofs.Lays.n137 Tryz.prog Tryz.lays137_ren := {
  mixed := by kernel_rfl
  f137 := Tryz.func254.trans (congrArg some (by kernel_rfl))
  f217 := Tryz.func246.trans (congrArg some (by kernel_rfl))
  f266 := Tryz.func257.trans (congrArg some (by kernel_rfl))
  t3 := Tryz.underlying3
  a3 := Tryz.isAgg3
  z3 := Tryz.sizeOf3
  v3 := Tryz.zeroValue3
  t5 := Tryz.underlying5
  a5 := Tryz.isAgg5
  z5 := Tryz.sizeOf5
  v5 := Tryz.zeroValue5
  t9 := Tryz.underlying9
  a9 := Tryz.isAgg9
  z9 := Tryz.sizeOf9
  v9 := Tryz.zeroValue9 }
open Go.RowKit in
/-- strings.IndexByte: "IndexByte returns the index of the first instance of c in s, or -1 if c is not present in s.": IT RETURNS 'Lib.indexByte s c'; the world is as it was. (LAID: no walk: one application.) -/
theorem Tryz.strings_IndexByte (s : ByteArray) (c : Int) (w : World) :
    Calls Tryz.prog 254 #[.string s, .int .u8 c] w fun e w' => e = .returned (.int .i64 (Lib.indexByte s.data.toList c.toNat.toUInt8)) ∧ w' = w := Any.strings_IndexByte Tryz.lays137 s c w
open Go.RowKit in
/-- (*strings.Builder).String: "String returns the accumulated string.": OF A BUILDER THAT HOLDS AT LEAST ONE BYTE. ✋ THE MODEL FREEZES THOSE BYTES IN THE BUFFER (unsafe.String): a later write INTO them ends the model's run without an answer; a later append BEHIND them goes on. The statement's order of evaluation is drawn: one draw. THE FORM '_f': IT SAYS BESIDES THAT THE BUILDER IS A BUILDER STILL ('Lib.IsBuilderF', the same bytes): SO IT CAN BE WRITTEN ON: 'b.WriteString(b.String()[:k])'. (LAID: no walk: one application.) -/
theorem Tryz.Builder_String_f (B b : Nat) (l : List UInt8) (w : World) (h : Lib.IsBuilderF 115 5 B b (Lib.byteCells l) w) (h0 : l ≠ []) :
    Calls Tryz.prog 108 #[.pointer (some ⟨b, 0, none⟩)] w fun e w' => e = .returned (.string ⟨l.toArray⟩) ∧ (Lib.IsBuilderF 115 5 B b (Lib.byteCells l) w' ∧ Below B w w') := Any.Builder_String_f Tryz.lays169 Tryz.Builder_Extra_169 B b l w h h0
open Go.RowKit in
/-- (*strings.Builder).String OF A BUILDER THAT HOLDS NO BYTE: the empty string; THE FORM '_f': a builder still. (LAID: no walk: one application.) -/
theorem Tryz.Builder_String_empty_f (B b : Nat) (w : World) (h : Lib.IsBuilderF 115 5 B b [] w) (hBw : B ≤ w.heap.size) :
    Calls Tryz.prog 108 #[.pointer (some ⟨b, 0, none⟩)] w fun e w' => e = .returned (.string ⟨#[]⟩) ∧ (Lib.IsBuilderF 115 5 B b [] w' ∧ Below B w w') := Any.Builder_String_empty_f Tryz.lays169 Tryz.Builder_Extra_169 B b w h hBw
open Go.RowKit in
/-- (*strings.Builder).String: "String returns the accumulated string.": WHATEVER THE BUILDER HOLDS; THE FORM '_f': OF A BUILDER THAT MAY HAVE BEEN READ BEFORE; AND IT IS A BUILDER STILL, holding the same bytes: it can be written on. (LAID: no walk: one application.) -/
theorem Tryz.Builder_String_any_f (B b : Nat) (l : List UInt8) (w : World) (h : Lib.IsBuilderF 115 5 B b (Lib.byteCells l) w) (hBw : B ≤ w.heap.size) :
    Calls Tryz.prog 108 #[.pointer (some ⟨b, 0, none⟩)] w fun e w' => e = .returned (.string ⟨l.toArray⟩) ∧ (Lib.IsBuilderF 115 5 B b (Lib.byteCells l) w' ∧ Below B w w') := Any.Builder_String_any_f Tryz.lays169 Tryz.Builder_Extra_169 B b l w h hBw
open Go.RowKit in
/-- (*strings.Builder).String: "String returns the accumulated string.": OF A BUILDER THAT HOLDS AT LEAST ONE BYTE. ✋ THE MODEL FREEZES THOSE BYTES IN THE BUFFER (unsafe.String): a later write INTO them ends the model's run without an answer; a later append BEHIND them goes on. The statement's order of evaluation is drawn: one draw. THE FORM '_k': OVER 'Lib.IsBuilderF' (a builder that 'String()' may have read), AND WITH THE FRAME THAT REACHES ABOVE THE BUILDER: 'Lib.OthersKept': every block that is not b and is no row of uint8's stands as it stood: the iterator of a range among them. (LAID: no walk: one application.) -/
theorem Tryz.Builder_String_k (B b : Nat) (l : List UInt8) (w : World) (h : Lib.IsBuilderF 115 5 B b (Lib.byteCells l) w) (h0 : l ≠ []) :
    Calls Tryz.prog 108 #[.pointer (some ⟨b, 0, none⟩)] w fun e w' => e = .returned (.string ⟨l.toArray⟩) ∧ (Lib.IsBuilderF 115 5 B b (Lib.byteCells l) w' ∧ Below B w w' ∧ Lib.OthersKept 5 (some b) w w') := Any.Builder_String_k Tryz.lays169 Tryz.Builder_Extra_169 B b l w h h0
open Go.RowKit in
/-- (*strings.Builder).String OF A BUILDER THAT HOLDS NO BYTE: the empty string; THE FORM '_k': OVER 'Lib.IsBuilderF' (a builder that 'String()' may have read), AND WITH THE FRAME THAT REACHES ABOVE THE BUILDER: 'Lib.OthersKept': every block that is not b and is no row of uint8's stands as it stood: the iterator of a range among them. (LAID: no walk: one application.) -/
theorem Tryz.Builder_String_empty_k (B b : Nat) (w : World) (h : Lib.IsBuilderF 115 5 B b [] w) (hBw : B ≤ w.heap.size) :
    Calls Tryz.prog 108 #[.pointer (some ⟨b, 0, none⟩)] w fun e w' => e = .returned (.string ⟨#[]⟩) ∧ (Lib.IsBuilderF 115 5 B b [] w' ∧ Below B w w' ∧ Lib.OthersKept 5 (some b) w w') := Any.Builder_String_empty_k Tryz.lays169 Tryz.Builder_Extra_169 B b w h hBw
open Go.RowKit in
/-- (*strings.Builder).String: "String returns the accumulated string.": WHATEVER THE BUILDER HOLDS; THE FORM '_k': OVER 'Lib.IsBuilderF' (a builder that 'String()' may have read), AND WITH THE FRAME THAT REACHES ABOVE THE BUILDER: 'Lib.OthersKept': every block that is not b and is no row of uint8's stands as it stood: the iterator of a range among them. (LAID: no walk: one application.) -/
theorem Tryz.Builder_String_any_k (B b : Nat) (l : List UInt8) (w : World) (h : Lib.IsBuilderF 115 5 B b (Lib.byteCells l) w) (hBw : B ≤ w.heap.size) :
    Calls Tryz.prog 108 #[.pointer (some ⟨b, 0, none⟩)] w fun e w' => e = .returned (.string ⟨l.toArray⟩) ∧ (Lib.IsBuilderF 115 5 B b (Lib.byteCells l) w' ∧ Below B w w' ∧ Lib.OthersKept 5 (some b) w w') := Any.Builder_String_any_k Tryz.lays169 Tryz.Builder_Extra_169 B b l w h hBw
def Tryz.lays278_ren : Go.Shelf.Ren := ⟨fun | 278 => 262 | n => n, fun | 37 => 75 | 21 => 21 | 51 => 221 | 4 => 4 | 46 => 213 | 5 => 5 | n => n, fun | n => n⟩
theorem Tryz.lays278 : Go.Proofs.Lays.n278 Tryz.prog Tryz.lays278_ren := {
  mixed := by kernel_rfl
  f278 := Tryz.func262.trans (congrArg some (by kernel_rfl))
  t4 := Tryz.underlying4
  a4 := Tryz.isAgg4
  z4 := Tryz.sizeOf4
  v4 := Tryz.zeroValue4
  t5 := Tryz.underlying5
  a5 := Tryz.isAgg5
  z5 := Tryz.sizeOf5
  v5 := Tryz.zeroValue5
  t21 := Tryz.underlying21
  a21 := Tryz.isAgg21
  z21 := Tryz.sizeOf21
  v21 := Tryz.zeroValue21
  t37 := Tryz.underlying75
  a37 := Tryz.isAgg75
  z37 := Tryz.sizeOf75
  v37 := Tryz.zeroValue75
  t46 := Tryz.underlying213
  a46 := Tryz.isAgg213
  z46 := Tryz.sizeOf213
  v46 := Tryz.zeroValue213
  t51 := Tryz.underlying221
  a51 := Tryz.isAgg221
  z51 := Tryz.sizeOf221
  v51 := Tryz.zeroValue221 }
open Go.RowKit in
/-- unicode/utf8.appendRuneNonASCII (what AppendRune calls for all but ASCII), ONTO A ROW OF BYTES THAT THE CALL OWNS: every int32 that is no ASCII rune: 'Lib.runeCells r' goes in behind what the row holds. (LAID: no walk: one application.) -/
theorem Tryz.utf8_appendRuneNonASCII_row (B : Nat) (v : Value) (n : Nat) (xs : List Value) (r : Int) (hr0 : -2147483648 ≤ r) (hr1 : r ≤ 2147483647) (hna : r < 0 ∨ 128 ≤ r) (w : World) (hown : w.ownsRowF B 5 1 v n xs) (hlen : n + 4 ≤ 140737488355328) (hBw : B ≤ w.heap.size) :
    Calls Tryz.prog 262 #[v, .int .i32 r] w fun e w' => ∃ v', e = .returned v' ∧ w'.ownsRowF B 5 1 v' (n + (Lib.runeCells r).length) (xs ++ Lib.runeCells r) ∧ ∃ o, (w.alloc o).grownBy w' v.ownBlock := Any.utf8_appendRuneNonASCII_row Tryz.lays278 (by kernel_rfl) B v n xs r hr0 hr1 hna w hown hlen hBw
def Tryz.lays242_ren : Go.Shelf.Ren := ⟨fun | 242 => 256 | 278 => 262 | n => n, fun | 37 => 75 | 21 => 21 | 51 => 221 | 4 => 4 | 5 => 5 | 46 => 213 | n => n, fun | n => n⟩
theorem Tryz.lays242 : Go.Proofs.Lays.n242 Tryz.prog Tryz.lays242_ren := {
  mixed := by kernel_rfl
  f242 := Tryz.func256.trans (congrArg some (by kernel_rfl))
  f278 := Tryz.func262.trans (congrArg some (by kernel_rfl))
  t4 := Tryz.underlying4
  a4 := Tryz.isAgg4
  z4 := Tryz.sizeOf4
  v4 := Tryz.zeroValue4
  t5 := Tryz.underlying5
  a5 := Tryz.isAgg5
  z5 := Tryz.sizeOf5
  v5 := Tryz.zeroValue5
  t21 := Tryz.underlying21
  a21 := Tryz.isAgg21
  z21 := Tryz.sizeOf21
  v21 := Tryz.zeroValue21
  t37 := Tryz.underlying75
  a37 := Tryz.isAgg75
  z37 := Tryz.sizeOf75
  v37 := Tryz.zeroValue75
  t46 := Tryz.underlying213
  a46 := Tryz.isAgg213
  z46 := Tryz.sizeOf213
  v46 := Tryz.zeroValue213
  t51 := Tryz.underlying221
  a51 := Tryz.isAgg221
  z51 := Tryz.sizeOf221
  v51 := Tryz.zeroValue221 }
open Go.RowKit in
/-- unicode/utf8.AppendRune: "AppendRune appends the UTF-8 encoding of r to the end of p and returns the extended buffer. If the rune is out of range, it appends the encoding of RuneError.": ONTO A ROW OF BYTES THAT THE CALL OWNS (its head frozen or not): EVERY int32: 'Lib.runeCells r' goes in behind what the row holds; the world: one new block (the bytes as the call's variadic argument), then what 'append' does to the row. (LAID: no walk: one application.) -/
theorem Tryz.utf8_AppendRune_row (B : Nat) (v : Value) (n : Nat) (xs : List Value) (r : Int) (hr0 : -2147483648 ≤ r) (hr1 : r ≤ 2147483647) (w : World) (hown : w.ownsRowF B 5 1 v n xs) (hlen : n + 4 ≤ 140737488355328) (hBw : B ≤ w.heap.size) :
    Calls Tryz.prog 256 #[v, .int .i32 r] w fun e w' => ∃ v', e = .returned v' ∧ w'.ownsRowF B 5 1 v' (n + (Lib.runeCells r).length) (xs ++ Lib.runeCells r) ∧ ∃ o, (w.alloc o).grownBy w' v.ownBlock := Any.utf8_AppendRune_row Tryz.lays242 (by kernel_rfl) B v n xs r hr0 hr1 w hown hlen hBw
open Go.RowKit in
/-- unicode/utf8.appendRuneNonASCII (what AppendRune calls for all but ASCII), ONTO A ROW OF BYTES THAT THE CALL OWNS: every int32 that is no ASCII rune: 'Lib.runeCells r' goes in behind what the row holds. (LAID: no walk: one application.) -/
theorem Tryz.utf8_appendRuneNonASCII_plain (B : Nat) (v : Value) (n : Nat) (xs : List Value) (r : Int) (hr0 : -2147483648 ≤ r) (hr1 : r ≤ 2147483647) (hna : r < 0 ∨ 128 ≤ r) (w : World) (hown : w.ownsRow B 5 1 v n xs) (hlen : n + 4 ≤ 140737488355328) (hBw : B ≤ w.heap.size) :
    Calls Tryz.prog 262 #[v, .int .i32 r] w fun e w' => ∃ v', e = .returned v' ∧ w'.ownsRow B 5 1 v' (n + (Lib.runeCells r).length) (xs ++ Lib.runeCells r) ∧ ∃ o, (w.alloc o).grownBy w' v.ownBlock := Any.utf8_appendRuneNonASCII_plain Tryz.lays278 (by kernel_rfl) B v n xs r hr0 hr1 hna w hown hlen hBw
open Go.RowKit in
/-- unicode/utf8.AppendRune: "AppendRune appends the UTF-8 encoding of r to the end of p and returns the extended buffer. If the rune is out of range, it appends the encoding of RuneError.": ONTO A ROW OF BYTES THAT THE CALL OWNS (its head frozen or not): EVERY int32: 'Lib.runeCells r' goes in behind what the row holds; the world: one new block (the bytes as the call's variadic argument), then what 'append' does to the row. (LAID: no walk: one application.) -/
theorem Tryz.utf8_AppendRune_plain (B : Nat) (v : Value) (n : Nat) (xs : List Value) (r : Int) (hr0 : -2147483648 ≤ r) (hr1 : r ≤ 2147483647) (w : World) (hown : w.ownsRow B 5 1 v n xs) (hlen : n + 4 ≤ 140737488355328) (hBw : B ≤ w.heap.size) :
    Calls Tryz.prog 256 #[v, .int .i32 r] w fun e w' => ∃ v', e = .returned v' ∧ w'.ownsRow B 5 1 v' (n + (Lib.runeCells r).length) (xs ++ Lib.runeCells r) ∧ ∃ o, (w.alloc o).grownBy w' v.ownBlock := Any.utf8_AppendRune_plain Tryz.lays242 (by kernel_rfl) B v n xs r hr0 hr1 w hown hlen hBw
def Tryz.lays195_ren : Go.Shelf.Ren := ⟨fun | 195 => 221 | n => n, fun | 9 => 9 | 3 => 3 | 0 => 0 | 4 => 4 | n => n, fun | n => n⟩
theorem Tryz.lays195 : Go.Proofs.Lays.n195 Tryz.prog Tryz.lays195_ren := {
  mixed := by kernel_rfl
  f195 := Tryz.func221.trans (congrArg some (by kernel_rfl))
  t0 := Tryz.underlying0
  a0 := Tryz.isAgg0
  z0 := Tryz.sizeOf0
  v0 := Tryz.zeroValue0
  t3 := Tryz.underlying3
  a3 := Tryz.isAgg3
  z3 := Tryz.sizeOf3
  v3 := Tryz.zeroValue3
  t4 := Tryz.underlying4
  a4 := Tryz.isAgg4
  z4 := Tryz.sizeOf4
  v4 := Tryz.zeroValue4
  t9 := Tryz.underlying9
  a9 := Tryz.isAgg9
  z9 := Tryz.sizeOf9
  v9 := Tryz.zeroValue9 }
open Go.RowKit in
/-- unicode/utf8.RuneCountInString: "RuneCountInString is like RuneCount but its input is a string." ("RuneCount returns the number of runes in p. Erroneous and short encodings are treated as single runes of width 1 byte."): EVERY STRING, valid UTF-8 or not: 'Lib.runeCount s' (plain Lean over the model's own 'Utf8.decode'; 'Lib.runeCount_le': at most len(s); 'Lib.runeCount_ascii': on ASCII: len(s)). THE ONE CONDITION: len(s) below 2^63 - 1 (the counter does not wrap): the form's reach pays it. THE WORLD BEHIND THE CALL: ONE BLOCK MORE: the model's iterator over s, at its end: all else as it was. (LAID: no walk: one application.) -/
theorem Tryz.utf8_RuneCountInString (s : ByteArray) (w : World) (hs : s.size < 9223372036854775807) :
    Calls Tryz.prog 221 #[.string s] w fun e w' => e = .returned (.int .i64 (Lib.runeCount s)) ∧ ∃ pos, w' = w.iter s pos := Any.utf8_RuneCountInString Tryz.lays195 s w hs
open Go.RowKit in
/-- (*strings.Builder).grow (no doc but "grow copies the buffer to a new, larger buffer so that there are at least n bytes of capacity beyond len(b.buf)."): AT A BUILDER WITHOUT A BUFFER: a new row of whatever bytes for its buffer, none of them its own yet. Three draws. (LAID: no walk: one application.) -/
theorem Tryz.Builder_grow_fresh_cap (B b n : Nat) (w : World) (hB : B ≤ b) (hbk : w.heap[b]? = some (.cells #[.pointer (some ⟨b, 0, none⟩), .slice none 0 0] 115 (0, 0))) (hBw : B ≤ w.heap.size) (hn : n ≤ 281474976710656) :
    Calls Tryz.prog 199 #[.pointer (some ⟨b, 0, none⟩), .int .i64 n] w fun e w' => e = .returned (.tuple #[]) ∧ (Lib.BuilderAt 115 5 B b (.pointer (some ⟨b, 0, none⟩)) [] w' ∧ Below B w w') ∧ ∃ p cap, w'.cell? ⟨b, 1, none⟩ = some (.slice p 0 cap) ∧ n ≤ cap := Any.Builder_grow_fresh_cap Tryz.lays241 Tryz.Builder_Extra_241 B b n w hB hbk hBw hn
open Go.RowKit in
/-- (*strings.Builder).Grow AT A BUILDER THAT HAS NOT BEEN WRITTEN ('var b strings.Builder; b.Grow(n)'): "Grow grows b's capacity, if necessary, to guarantee space for another n bytes.": it holds no byte behind it as before it. (LAID: no walk: one application.) -/
theorem Tryz.Builder_Grow_fresh_cap (B b n : Nat) (w : World) (hB : B ≤ b) (hbk : w.heap[b]? = some (.cells #[.pointer none, .slice none 0 0] 115 (0, 0))) (hBw : B ≤ w.heap.size) (hn : n ≤ 281474976710656) :
    Calls Tryz.prog 153 #[.pointer (some ⟨b, 0, none⟩), .int .i64 n] w fun e w' => e = .returned (.tuple #[]) ∧ (Lib.BuilderAt 115 5 B b (.pointer (some ⟨b, 0, none⟩)) [] w' ∧ Below B w w') ∧ ∃ p cap, w'.cell? ⟨b, 1, none⟩ = some (.slice p 0 cap) ∧ n ≤ cap := Any.Builder_Grow_fresh_cap Tryz.lays165 Tryz.Builder_Extra_165 B b n w hB hbk hBw hn
def Tryz.lays217_ren : Go.Shelf.Ren := ⟨fun | 217 => 246 | 266 => 257 | n => n, fun | 9 => 9 | 5 => 5 | 3 => 3 | n => n, fun | n => n⟩
theorem Tryz.lays217 : Go.Proofs.Lays.n217 Tryz.prog Tryz.lays217_ren := {
  mixed := by kernel_rfl
  f217 := Tryz.func246.trans (congrArg some (by kernel_rfl))
  f266 := Tryz.func257.trans (congrArg some (by kernel_rfl))
  t3 := Tryz.underlying3
  a3 := Tryz.isAgg3
  z3 := Tryz.sizeOf3
  v3 := Tryz.zeroValue3
  t5 := Tryz.underlying5
  a5 := Tryz.isAgg5
  z5 := Tryz.sizeOf5
  v5 := Tryz.zeroValue5
  t9 := Tryz.underlying9
  a9 := Tryz.isAgg9
  z9 := Tryz.sizeOf9
  v9 := Tryz.zeroValue9 }
open Go.RowKit Go.Lib in
/-- internal/stringslite.IndexByte (what strings.IndexByte calls): IT RETURNS 'Lib.indexByte s c'; the world is as it was. (LAID: no walk: one application.) -/
theorem Tryz.stringslite_IndexByte (s : ByteArray) (c : Int) (w : World) :
    Calls Tryz.prog 246 #[.string s, .int .u8 c] w fun e w' => e = .returned (.int .i64 (Lib.indexByte s.data.toList c.toNat.toUInt8)) ∧ w' = w := Any.stringslite_IndexByte Tryz.lays217 s c w
def Tryz.lays224_ren : Go.Shelf.Ren := ⟨fun | 224 => 248 | n => n, fun | 3 => 3 | n => n, fun | n => n⟩
theorem Tryz.lays224 : Go.Proofs.Lays.n224 Tryz.prog Tryz.lays224_ren := {
  mixed := by kernel_rfl
  f224 := Tryz.func248.trans (congrArg some (by kernel_rfl))
  t3 := Tryz.underlying3
  a3 := Tryz.isAgg3
  z3 := Tryz.sizeOf3
  v3 := Tryz.zeroValue3 }
open Go.RowKit Go.Lib in
/-- internal/bytealg.Cutover: "Cutover reports the number of failures of IndexByte we should tolerate before switching over to Index. n is the number of bytes processed so far.": on amd64: (n + 16) / 8. (LAID: no walk: one application.) -/
theorem Tryz.bytealg_Cutover (n : Int) (h0 : 0 ≤ n) (h1 : n < 4611686018427387904) (w : World) :
    Calls Tryz.prog 248 #[.int .i64 n] w fun e w' => e = .returned (.int .i64 ((n + 16) / 8)) ∧ w' = w := Any.bytealg_Cutover Tryz.lays224 n h0 h1 w
def Tryz.lays314_ren : Go.Shelf.Ren := ⟨fun | 314 => 258 | n => n, fun | 9 => 9 | 51 => 221 | 3 => 3 | 4 => 4 | 5 => 5 | 46 => 213 | n => n, fun | n => n⟩
theorem Tryz.lays314 : Go.Proofs.Lays.n314 Tryz.prog Tryz.lays314_ren := {
  mixed := by kernel_rfl
  f314 := Tryz.func258.trans (congrArg some (by kernel_rfl))
  t3 := Tryz.underlying3
  a3 := Tryz.isAgg3
  z3 := Tryz.sizeOf3
  v3 := Tryz.zeroValue3
  t4 := Tryz.underlying4
  a4 := Tryz.isAgg4
  z4 := Tryz.sizeOf4
  v4 := Tryz.zeroValue4
  t5 := Tryz.underlying5
  a5 := Tryz.isAgg5
  z5 := Tryz.sizeOf5
  v5 := Tryz.zeroValue5
  t9 := Tryz.underlying9
  a9 := Tryz.isAgg9
  z9 := Tryz.sizeOf9
  v9 := Tryz.zeroValue9
  t46 := Tryz.underlying213
  a46 := Tryz.isAgg213
  z46 := Tryz.sizeOf213
  v46 := Tryz.zeroValue213
  t51 := Tryz.underlying221
  a51 := Tryz.isAgg221
  z51 := Tryz.sizeOf221
  v51 := Tryz.zeroValue221 }
open Go.RowKit Go.Lib in
/-- hashStr: "returns the hash and the appropriate multiplicative factor for use in Rabin-Karp algorithm": THE HASH OF ALL OF sep, AND 16777619 ^ len(sep), both in uint32. (LAID: no walk: one application.) -/
theorem Tryz.bytealg_hashStr (sep : ByteArray) (hs : sep.size < 4294967281) (w : World) :
    Calls Tryz.prog 258 #[.string sep] w fun e w' => e = .returned (.tuple #[.int .u32 (RK.H sep.data.toList % 4294967296), .int .u32 (16777619 ^ sep.size % 4294967296)]) ∧ w' = w := Any.bytealg_hashStr Tryz.lays314 sep hs w
def Tryz.lays267_ren : Go.Shelf.Ren := ⟨fun | 267 => 249 | 314 => 258 | n => n, fun | 9 => 9 | 3 => 3 | 146 => 222 | 51 => 221 | 4 => 4 | 5 => 5 | 46 => 213 | n => n, fun | n => n⟩
theorem Tryz.lays267 : Go.Proofs.Lays.n267 Tryz.prog Tryz.lays267_ren := {
  mixed := by kernel_rfl
  f267 := Tryz.func249.trans (congrArg some (by kernel_rfl))
  f314 := Tryz.func258.trans (congrArg some (by kernel_rfl))
  t3 := Tryz.underlying3
  a3 := Tryz.isAgg3
  z3 := Tryz.sizeOf3
  v3 := Tryz.zeroValue3
  t4 := Tryz.underlying4
  a4 := Tryz.isAgg4
  z4 := Tryz.sizeOf4
  v4 := Tryz.zeroValue4
  t5 := Tryz.underlying5
  a5 := Tryz.isAgg5
  z5 := Tryz.sizeOf5
  v5 := Tryz.zeroValue5
  t9 := Tryz.underlying9
  a9 := Tryz.isAgg9
  z9 := Tryz.sizeOf9
  v9 := Tryz.zeroValue9
  t46 := Tryz.underlying213
  a46 := Tryz.isAgg213
  z46 := Tryz.sizeOf213
  v46 := Tryz.zeroValue213
  t51 := Tryz.underlying221
  a51 := Tryz.isAgg221
  z51 := Tryz.sizeOf221
  v51 := Tryz.zeroValue221
  t146 := Tryz.underlying222
  a146 := Tryz.isAgg222
  z146 := Tryz.sizeOf222
  v146 := Tryz.zeroValue222 }
open Go.RowKit Go.Lib in
theorem Tryz.bytealg_IndexRabinKarp (s sep : ByteArray) (h1 : 1 ≤ sep.size) (h2 : sep.size ≤ s.size) (hs : s.size < 4294967281) (w : World) :
    Calls Tryz.prog 249 #[.string s, .string sep] w fun e w' => e = .returned (.int .i64 (Lib.index s.data.toList sep.data.toList)) ∧ w' = w := Any.bytealg_IndexRabinKarp Tryz.lays267 s sep h1 h2 hs w
def Tryz.lays219_ren : Go.Shelf.Ren := ⟨fun | 219 => 223 | 217 => 246 | 225 => 247 | 224 => 248 | 267 => 249 | 266 => 257 | 314 => 258 | n => n, fun | 9 => 9 | 3 => 3 | 4 => 4 | 5 => 5 | 46 => 213 | 146 => 222 | 51 => 221 | n => n, fun | 1 => 1 | n => n⟩
theorem Tryz.lays219 : Go.Proofs.Lays.n219 Tryz.prog Tryz.lays219_ren := {
  mixed := by kernel_rfl
  f217 := Tryz.func246.trans (congrArg some (by kernel_rfl))
  f219 := Tryz.func223.trans (congrArg some (by kernel_rfl))
  f224 := Tryz.func248.trans (congrArg some (by kernel_rfl))
  f225 := Tryz.func247.trans (congrArg some (by kernel_rfl))
  f266 := Tryz.func257.trans (congrArg some (by kernel_rfl))
  f267 := Tryz.func249.trans (congrArg some (by kernel_rfl))
  f314 := Tryz.func258.trans (congrArg some (by kernel_rfl))
  t3 := Tryz.underlying3
  a3 := Tryz.isAgg3
  z3 := Tryz.sizeOf3
  v3 := Tryz.zeroValue3
  t4 := Tryz.underlying4
  a4 := Tryz.isAgg4
  z4 := Tryz.sizeOf4
  v4 := Tryz.zeroValue4
  t5 := Tryz.underlying5
  a5 := Tryz.isAgg5
  z5 := Tryz.sizeOf5
  v5 := Tryz.zeroValue5
  t9 := Tryz.underlying9
  a9 := Tryz.isAgg9
  z9 := Tryz.sizeOf9
  v9 := Tryz.zeroValue9
  t46 := Tryz.underlying213
  a46 := Tryz.isAgg213
  z46 := Tryz.sizeOf213
  v46 := Tryz.zeroValue213
  t51 := Tryz.underlying221
  a51 := Tryz.isAgg221
  z51 := Tryz.sizeOf221
  v51 := Tryz.zeroValue221
  t146 := Tryz.underlying222
  a146 := Tryz.isAgg222
  z146 := Tryz.sizeOf222
  v146 := Tryz.zeroValue222
  g1 := by kernel_rfl }
open Go.RowKit Go.Lib in
/-- internal/stringslite.Index (what strings.Index calls) AT A substr OF ONE BYTE c: IT RETURNS 'Lib.indexByte s c'; the world is as it was. (LAID: no walk: one application.) -/
theorem Tryz.stringslite_Index_one (s : ByteArray) (c : UInt8) (w : World) :
    Calls Tryz.prog 223 #[.string s, .string ⟨#[c]⟩] w fun e w' => e = .returned (.int .i64 (Lib.indexByte s.data.toList c)) ∧ w' = w := Any.stringslite_Index_one Tryz.lays219 s c w
open Go.RowKit Go.Lib in
/-- internal/stringslite.Index (what strings.Index calls) AT A substr OF WHATEVER LENGTH: IT RETURNS 'Lib.index s substr'; the world is as it was. 'm': what internal/bytealg.MaxLen holds: whatever. (LAID: no walk: one application.) -/
theorem Tryz.stringslite_Index (s sub : ByteArray) (m : Int) (w : World) (hs : s.size < 4294967281) (hm : w.cell? ⟨1, 0, none⟩ = some (.int .i64 m)) :
    Calls Tryz.prog 223 #[.string s, .string sub] w fun e w' => e = .returned (.int .i64 (Lib.index s.data.toList sub.data.toList)) ∧ w' = w := Any.stringslite_Index Tryz.lays219 s sub m w hs hm
def Tryz.lays143_ren : Go.Shelf.Ren := ⟨fun | 143 => 181 | 219 => 223 | 217 => 246 | 225 => 247 | 224 => 248 | 267 => 249 | 266 => 257 | 314 => 258 | n => n, fun | 9 => 9 | 3 => 3 | 4 => 4 | 5 => 5 | 46 => 213 | 146 => 222 | 51 => 221 | n => n, fun | 1 => 1 | n => n⟩
theorem Tryz.lays143 : Go.Proofs.Lays.n143 Tryz.prog Tryz.lays143_ren := {
  mixed := by kernel_rfl
  f143 := Tryz.func181.trans (congrArg some (by kernel_rfl))
  f217 := Tryz.func246.trans (congrArg some (by kernel_rfl))
  f219 := Tryz.func223.trans (congrArg some (by kernel_rfl))
  f224 := Tryz.func248.trans (congrArg some (by kernel_rfl))
  f225 := Tryz.func247.trans (congrArg some (by kernel_rfl))
  f266 := Tryz.func257.trans (congrArg some (by kernel_rfl))
  f267 := Tryz.func249.trans (congrArg some (by kernel_rfl))
  f314 := Tryz.func258.trans (congrArg some (by kernel_rfl))
  t3 := Tryz.underlying3
  a3 := Tryz.isAgg3
  z3 := Tryz.sizeOf3
  v3 := Tryz.zeroValue3
  t4 := Tryz.underlying4
  a4 := Tryz.isAgg4
  z4 := Tryz.sizeOf4
  v4 := Tryz.zeroValue4
  t5 := Tryz.underlying5
  a5 := Tryz.isAgg5
  z5 := Tryz.sizeOf5
  v5 := Tryz.zeroValue5
  t9 := Tryz.underlying9
  a9 := Tryz.isAgg9
  z9 := Tryz.sizeOf9
  v9 := Tryz.zeroValue9
  t46 := Tryz.underlying213
  a46 := Tryz.isAgg213
  z46 := Tryz.sizeOf213
  v46 := Tryz.zeroValue213
  t51 := Tryz.underlying221
  a51 := Tryz.isAgg221
  z51 := Tryz.sizeOf221
  v51 := Tryz.zeroValue221
  t146 := Tryz.underlying222
  a146 := Tryz.isAgg222
  z146 := Tryz.sizeOf222
  v146 := Tryz.zeroValue222
  g1 := by kernel_rfl }
open Go.RowKit Go.Lib in
/-- strings.Index: "Index returns the index of the first instance of substr in s, or -1 if substr is not present in s.": AT A substr OF ONE BYTE c: IT RETURNS 'Lib.indexByte s c'; the world is as it was. (LAID: no walk: one application.) -/
theorem Tryz.strings_Index_one (s : ByteArray) (c : UInt8) (w : World) :
    Calls Tryz.prog 181 #[.string s, .string ⟨#[c]⟩] w fun e w' => e = .returned (.int .i64 (Lib.indexByte s.data.toList c)) ∧ w' = w := Any.strings_Index_one Tryz.lays143 s c w
open Go.RowKit Go.Lib in
/-- strings.Index: "Index returns the index of the first instance of substr in s, or -1 if substr is not present in s.": IT RETURNS 'Lib.index s substr'; the world is as it was. (LAID: no walk: one application.) -/
theorem Tryz.strings_Index (s sub : ByteArray) (m : Int) (w : World) (hs : s.size < 4294967281) (hm : w.cell? ⟨1, 0, none⟩ = some (.int .i64 m)) :
    Calls Tryz.prog 181 #[.string s, .string sub] w fun e w' => e = .returned (.int .i64 (Lib.index s.data.toList sub.data.toList)) ∧ w' = w := Any.strings_Index Tryz.lays143 s sub m w hs hm
def Tryz.lays144_ren : Go.Shelf.Ren := ⟨fun | 144 => 252 | 143 => 181 | 219 => 223 | 217 => 246 | 225 => 247 | 224 => 248 | 267 => 249 | 266 => 257 | 314 => 258 | n => n, fun | 9 => 9 | 4 => 4 | 3 => 3 | 5 => 5 | 46 => 213 | 146 => 222 | 51 => 221 | n => n, fun | 1 => 1 | n => n⟩
theorem Tryz.lays144 : Go.Proofs.Lays.n144 Tryz.prog Tryz.lays144_ren := {
  mixed := by kernel_rfl
  f143 := Tryz.func181.trans (congrArg some (by kernel_rfl))
  f144 := Tryz.func252.trans (congrArg some (by kernel_rfl))
  f217 := Tryz.func246.trans (congrArg some (by kernel_rfl))
  f219 := Tryz.func223.trans (congrArg some (by kernel_rfl))
  f224 := Tryz.func248.trans (congrArg some (by kernel_rfl))
  f225 := Tryz.func247.trans (congrArg some (by kernel_rfl))
  f266 := Tryz.func257.trans (congrArg some (by kernel_rfl))
  f267 := Tryz.func249.trans (congrArg some (by kernel_rfl))
  f314 := Tryz.func258.trans (congrArg some (by kernel_rfl))
  t3 := Tryz.underlying3
  a3 := Tryz.isAgg3
  z3 := Tryz.sizeOf3
  v3 := Tryz.zeroValue3
  t4 := Tryz.underlying4
  a4 := Tryz.isAgg4
  z4 := Tryz.sizeOf4
  v4 := Tryz.zeroValue4
  t5 := Tryz.underlying5
  a5 := Tryz.isAgg5
  z5 := Tryz.sizeOf5
  v5 := Tryz.zeroValue5
  t9 := Tryz.underlying9
  a9 := Tryz.isAgg9
  z9 := Tryz.sizeOf9
  v9 := Tryz.zeroValue9
  t46 := Tryz.underlying213
  a46 := Tryz.isAgg213
  z46 := Tryz.sizeOf213
  v46 := Tryz.zeroValue213
  t51 := Tryz.underlying221
  a51 := Tryz.isAgg221
  z51 := Tryz.sizeOf221
  v51 := Tryz.zeroValue221
  t146 := Tryz.underlying222
  a146 := Tryz.isAgg222
  z146 := Tryz.sizeOf222
  v146 := Tryz.zeroValue222
  g1 := by kernel_rfl }
open Go.RowKit Go.Lib in
/-- strings.Contains: "Contains reports whether substr is within s.": AT A substr OF ONE BYTE c: IT RETURNS 'decide (0 ≤ Lib.indexByte s c)'; the world is as it was. (LAID: no walk: one application.) -/
theorem Tryz.strings_Contains_one (s : ByteArray) (c : UInt8) (w : World) :
    Calls Tryz.prog 252 #[.string s, .string ⟨#[c]⟩] w fun e w' => e = .returned (.bool (decide (0 ≤ Lib.indexByte s.data.toList c))) ∧ w' = w := Any.strings_Contains_one Tryz.lays144 s c w
open Go.RowKit Go.Lib in
/-- strings.Contains: "Contains reports whether substr is within s.": IT RETURNS 'Lib.contains s substr'; the world is as it was. (LAID: no walk: one application.) -/
theorem Tryz.strings_Contains (s sub : ByteArray) (m : Int) (w : World) (hs : s.size < 4294967281) (hm : w.cell? ⟨1, 0, none⟩ = some (.int .i64 m)) :
    Calls Tryz.prog 252 #[.string s, .string sub] w fun e w' => e = .returned (.bool (Lib.contains s.data.toList sub.data.toList)) ∧ w' = w := Any.strings_Contains Tryz.lays144 s sub m w hs hm
def Tryz.lays220_ren : Go.Shelf.Ren := ⟨fun | 220 => 220 | 219 => 223 | 217 => 246 | 225 => 247 | 224 => 248 | 267 => 249 | 266 => 257 | 314 => 258 | n => n, fun | 9 => 9 | 4 => 4 | 3 => 3 | 5 => 5 | 46 => 213 | 146 => 222 | 51 => 221 | n => n, fun | 1 => 1 | n => n⟩
theorem Tryz.lays220 : Go.Proofs.Lays.n220 Tryz.prog Tryz.lays220_ren := {
  mixed := by kernel_rfl
  f217 := Tryz.func246.trans (congrArg some (by kernel_rfl))
  f219 := Tryz.func223.trans (congrArg some (by kernel_rfl))
  f220 := Tryz.func220.trans (congrArg some (by kernel_rfl))
  f224 := Tryz.func248.trans (congrArg some (by kernel_rfl))
  f225 := Tryz.func247.trans (congrArg some (by kernel_rfl))
  f266 := Tryz.func257.trans (congrArg some (by kernel_rfl))
  f267 := Tryz.func249.trans (congrArg some (by kernel_rfl))
  f314 := Tryz.func258.trans (congrArg some (by kernel_rfl))
  t3 := Tryz.underlying3
  a3 := Tryz.isAgg3
  z3 := Tryz.sizeOf3
  v3 := Tryz.zeroValue3
  t4 := Tryz.underlying4
  a4 := Tryz.isAgg4
  z4 := Tryz.sizeOf4
  v4 := Tryz.zeroValue4
  t5 := Tryz.underlying5
  a5 := Tryz.isAgg5
  z5 := Tryz.sizeOf5
  v5 := Tryz.zeroValue5
  t9 := Tryz.underlying9
  a9 := Tryz.isAgg9
  z9 := Tryz.sizeOf9
  v9 := Tryz.zeroValue9
  t46 := Tryz.underlying213
  a46 := Tryz.isAgg213
  z46 := Tryz.sizeOf213
  v46 := Tryz.zeroValue213
  t51 := Tryz.underlying221
  a51 := Tryz.isAgg221
  z51 := Tryz.sizeOf221
  v51 := Tryz.zeroValue221
  t146 := Tryz.underlying222
  a146 := Tryz.isAgg222
  z146 := Tryz.sizeOf222
  v146 := Tryz.zeroValue222
  g1 := by kernel_rfl }
open Go.RowKit Go.Lib in
/-- internal/stringslite.Cut (what strings.Cut calls): IT RETURNS 'Lib.cut s sep'; the world is as it was but for the count of draws. (LAID: no walk: one application.) -/
theorem Tryz.stringslite_Cut (s sep : ByteArray) (m : Int) (w : World) (hs : s.size < 4294967281) (hm : w.cell? ⟨1, 0, none⟩ = some (.int .i64 m)) :
    Calls Tryz.prog 220 #[.string s, .string sep] w fun e w' => e = .returned (.tuple #[.string ⟨(Lib.cut s.data.toList sep.data.toList).1.toArray⟩, .string ⟨(Lib.cut s.data.toList sep.data.toList).2.1.toArray⟩, .bool (Lib.cut s.data.toList sep.data.toList).2.2]) ∧ ∃ n, w' = w.drewN n := Any.stringslite_Cut Tryz.lays220 s sep m w hs hm
def Tryz.lays145_ren : Go.Shelf.Ren := ⟨fun | 145 => 178 | 220 => 220 | 219 => 223 | 217 => 246 | 225 => 247 | 224 => 248 | 267 => 249 | 266 => 257 | 314 => 258 | n => n, fun | 9 => 9 | 4 => 4 | 59 => 163 | 3 => 3 | 5 => 5 | 46 => 213 | 146 => 222 | 51 => 221 | n => n, fun | 1 => 1 | n => n⟩
theorem Tryz.lays145 : Go.Proofs.Lays.n145 Tryz.prog Tryz.lays145_ren := {
  mixed := by kernel_rfl
  f145 := Tryz.func178.trans (congrArg some (by kernel_rfl))
  f217 := Tryz.func246.trans (congrArg some (by kernel_rfl))
  f219 := Tryz.func223.trans (congrArg some (by kernel_rfl))
  f220 := Tryz.func220.trans (congrArg some (by kernel_rfl))
  f224 := Tryz.func248.trans (congrArg some (by kernel_rfl))
  f225 := Tryz.func247.trans (congrArg some (by kernel_rfl))
  f266 := Tryz.func257.trans (congrArg some (by kernel_rfl))
  f267 := Tryz.func249.trans (congrArg some (by kernel_rfl))
  f314 := Tryz.func258.trans (congrArg some (by kernel_rfl))
  t3 := Tryz.underlying3
  a3 := Tryz.isAgg3
  z3 := Tryz.sizeOf3
  v3 := Tryz.zeroValue3
  t4 := Tryz.underlying4
  a4 := Tryz.isAgg4
  z4 := Tryz.sizeOf4
  v4 := Tryz.zeroValue4
  t5 := Tryz.underlying5
  a5 := Tryz.isAgg5
  z5 := Tryz.sizeOf5
  v5 := Tryz.zeroValue5
  t9 := Tryz.underlying9
  a9 := Tryz.isAgg9
  z9 := Tryz.sizeOf9
  v9 := Tryz.zeroValue9
  t46 := Tryz.underlying213
  a46 := Tryz.isAgg213
  z46 := Tryz.sizeOf213
  v46 := Tryz.zeroValue213
  t51 := Tryz.underlying221
  a51 := Tryz.isAgg221
  z51 := Tryz.sizeOf221
  v51 := Tryz.zeroValue221
  t59 := Tryz.underlying163
  a59 := Tryz.isAgg163
  z59 := Tryz.sizeOf163
  v59 := Tryz.zeroValue163
  t146 := Tryz.underlying222
  a146 := Tryz.isAgg222
  z146 := Tryz.sizeOf222
  v146 := Tryz.zeroValue222
  g1 := by kernel_rfl }
open Go.RowKit Go.Lib in
/-- strings.Cut: "Cut slices s around the first instance of sep, returning the text before and after sep. The found result reports whether sep appears in s. If sep does not appear in s, cut returns s, "", false.": IT RETURNS 'Lib.cut s sep'; the world is as it was but for the count of draws. (LAID: no walk: one application.) -/
theorem Tryz.strings_Cut (s sep : ByteArray) (m : Int) (w : World) (hs : s.size < 4294967281) (hm : w.cell? ⟨1, 0, none⟩ = some (.int .i64 m)) :
    Calls Tryz.prog 178 #[.string s, .string sep] w fun e w' => e = .returned (.tuple #[.string ⟨(Lib.cut s.data.toList sep.data.toList).1.toArray⟩, .string ⟨(Lib.cut s.data.toList sep.data.toList).2.1.toArray⟩, .bool (Lib.cut s.data.toList sep.data.toList).2.2]) ∧ ∃ n, w' = w.drewN n := Any.strings_Cut Tryz.lays145 s sep m w hs hm
def Tryz.lays138_ren : Go.Shelf.Ren := ⟨fun | 138 => 180 | 195 => 221 | 218 => 222 | 143 => 181 | 219 => 223 | 217 => 246 | 225 => 247 | 224 => 248 | 267 => 249 | 266 => 257 | 314 => 258 | n => n, fun | 9 => 9 | 3 => 3 | 4 => 4 | 5 => 5 | 0 => 0 | 46 => 213 | 146 => 222 | 51 => 221 | n => n, fun | 1 => 1 | n => n⟩
theorem Tryz.lays138 : Go.Proofs.Lays.n138 Tryz.prog Tryz.lays138_ren := {
  mixed := by kernel_rfl
  f138 := Tryz.func180.trans (congrArg some (by kernel_rfl))
  f143 := Tryz.func181.trans (congrArg some (by kernel_rfl))
  f195 := Tryz.func221.trans (congrArg some (by kernel_rfl))
  f217 := Tryz.func246.trans (congrArg some (by kernel_rfl))
  f218 := Tryz.func222.trans (congrArg some (by kernel_rfl))
  f219 := Tryz.func223.trans (congrArg some (by kernel_rfl))
  f224 := Tryz.func248.trans (congrArg some (by kernel_rfl))
  f225 := Tryz.func247.trans (congrArg some (by kernel_rfl))
  f266 := Tryz.func257.trans (congrArg some (by kernel_rfl))
  f267 := Tryz.func249.trans (congrArg some (by kernel_rfl))
  f314 := Tryz.func258.trans (congrArg some (by kernel_rfl))
  t0 := Tryz.underlying0
  a0 := Tryz.isAgg0
  z0 := Tryz.sizeOf0
  v0 := Tryz.zeroValue0
  t3 := Tryz.underlying3
  a3 := Tryz.isAgg3
  z3 := Tryz.sizeOf3
  v3 := Tryz.zeroValue3
  t4 := Tryz.underlying4
  a4 := Tryz.isAgg4
  z4 := Tryz.sizeOf4
  v4 := Tryz.zeroValue4
  t5 := Tryz.underlying5
  a5 := Tryz.isAgg5
  z5 := Tryz.sizeOf5
  v5 := Tryz.zeroValue5
  t9 := Tryz.underlying9
  a9 := Tryz.isAgg9
  z9 := Tryz.sizeOf9
  v9 := Tryz.zeroValue9
  t46 := Tryz.underlying213
  a46 := Tryz.isAgg213
  z46 := Tryz.sizeOf213
  v46 := Tryz.zeroValue213
  t51 := Tryz.underlying221
  a51 := Tryz.isAgg221
  z51 := Tryz.sizeOf221
  v51 := Tryz.zeroValue221
  t146 := Tryz.underlying222
  a146 := Tryz.isAgg222
  z146 := Tryz.sizeOf222
  v146 := Tryz.zeroValue222
  g1 := by kernel_rfl }
open Go.RowKit Go.Lib in
/-- strings.Count AT A substr OF ONE BYTE ('hp'): "Count counts the number of non-overlapping instances of substr in s.": IT RETURNS 'Lib.countByte s (that byte)'; the world is as it was. ✋ NO CONTRACT HERE YET at an empty substr (utf8.RuneCountInString) or at a longer one (a loop over strings.Index). (LAID: no walk: one application.) -/
theorem Tryz.strings_Count_one (s : ByteArray) (c : UInt8) (w : World) :
    Calls Tryz.prog 180 #[.string s, .string ⟨#[c]⟩] w fun e w' => e = .returned (.int .i64 (Lib.countByte s.data.toList c)) ∧ w' = w := Any.strings_Count_one Tryz.lays138 s c w
open Go.RowKit Go.Lib in
/-- strings.Count AT A substr OF TWO BYTES OR MORE: "Count counts the number of non-overlapping instances of substr in s.": IT RETURNS 'Lib.count s substr'; the world is as it was. (LAID: no walk: one application.) -/
theorem Tryz.strings_Count (s sub : ByteArray) (m : Int) (w : World) (hs : s.size < 4294967281) (hm : w.cell? ⟨1, 0, none⟩ = some (.int .i64 m)) (h2 : 2 ≤ sub.size) :
    Calls Tryz.prog 180 #[.string s, .string sub] w fun e w' => e = .returned (.int .i64 (Lib.countB s sub)) ∧ w' = w := Any.strings_Count Tryz.lays138 s sub m w hs hm h2
def Tryz.laysM219_ren : Go.Shelf.Ren := ⟨fun | 219 => 223 | 217 => 246 | 225 => 247 | 224 => 248 | 267 => 249 | 266 => 257 | 314 => 258 | n => n, fun | 9 => 9 | 3 => 3 | 4 => 4 | 5 => 5 | 46 => 213 | 146 => 222 | 51 => 221 | n => n, fun | 1 => 1 | n => n⟩
theorem Tryz.laysM219 : Go.Proofs.LaysM.n219 Tryz.prog Tryz.laysM219_ren := {
  mixed := by kernel_rfl
  f217 := Tryz.func246.trans (congrArg some (by kernel_rfl))
  f219 := Tryz.func223.trans (congrArg some (by kernel_rfl))
  f224 := Tryz.func248.trans (congrArg some (by kernel_rfl))
  f225 := Tryz.func247.trans (congrArg some (by kernel_rfl))
  f266 := Tryz.func257.trans (congrArg some (by kernel_rfl))
  f267 := Tryz.func249.trans (congrArg some (by kernel_rfl))
  f314 := Tryz.func258.trans (congrArg some (by kernel_rfl))
  t3 := Tryz.underlying3
  a3 := Tryz.isAgg3
  z3 := Tryz.sizeOf3
  v3 := Tryz.zeroValue3
  t4 := Tryz.underlying4
  a4 := Tryz.isAgg4
  z4 := Tryz.sizeOf4
  v4 := Tryz.zeroValue4
  t5 := Tryz.underlying5
  a5 := Tryz.isAgg5
  z5 := Tryz.sizeOf5
  v5 := Tryz.zeroValue5
  t9 := Tryz.underlying9
  a9 := Tryz.isAgg9
  z9 := Tryz.sizeOf9
  v9 := Tryz.zeroValue9
  t46 := Tryz.underlying213
  a46 := Tryz.isAgg213
  z46 := Tryz.sizeOf213
  v46 := Tryz.zeroValue213
  t51 := Tryz.underlying221
  a51 := Tryz.isAgg221
  z51 := Tryz.sizeOf221
  v51 := Tryz.zeroValue221
  t146 := Tryz.underlying222
  a146 := Tryz.isAgg222
  z146 := Tryz.sizeOf222
  v146 := Tryz.zeroValue222
  g1 := by kernel_rfl
  i3 := by kernel_rfl
  i4 := by kernel_rfl
  i5 := by kernel_rfl
  i9 := by kernel_rfl
  i46 := by kernel_rfl
  i51 := by kernel_rfl
  i146 := by kernel_rfl
  m1 := by kernel_rfl
  s1_3 := fun w h => Go.Proofs.cell_of_shapedOpen_int (zero := #[.int .i64 0]) (t := 3) h (of_decide_eq_true (by kernel_rfl)) (by kernel_rfl) rfl (by kernel_rfl) (by kernel_rfl) Tryz.underlying3 }
open Go.RowKit Go.Lib in
theorem Tryz.stringslite_Index_shaped (s sub : ByteArray) (w : World) (h : w.ShapedOpen Tryz.prog) (hs : s.size < 4294967281) :
    Calls Tryz.prog 223 #[.string s, .string sub] w fun e w' => e = .returned (.int .i64 (Lib.index s.data.toList sub.data.toList)) ∧ w' = w := Any.stringslite_Index_shaped Tryz.laysM219 s sub w h hs
def Tryz.laysM143_ren : Go.Shelf.Ren := ⟨fun | 143 => 181 | 219 => 223 | 217 => 246 | 225 => 247 | 224 => 248 | 267 => 249 | 266 => 257 | 314 => 258 | n => n, fun | 9 => 9 | 3 => 3 | 4 => 4 | 5 => 5 | 46 => 213 | 146 => 222 | 51 => 221 | n => n, fun | 1 => 1 | n => n⟩
theorem Tryz.laysM143 : Go.Proofs.LaysM.n143 Tryz.prog Tryz.laysM143_ren := {
  mixed := by kernel_rfl
  f143 := Tryz.func181.trans (congrArg some (by kernel_rfl))
  f217 := Tryz.func246.trans (congrArg some (by kernel_rfl))
  f219 := Tryz.func223.trans (congrArg some (by kernel_rfl))
  f224 := Tryz.func248.trans (congrArg some (by kernel_rfl))
  f225 := Tryz.func247.trans (congrArg some (by kernel_rfl))
  f266 := Tryz.func257.trans (congrArg some (by kernel_rfl))
  f267 := Tryz.func249.trans (congrArg some (by kernel_rfl))
  f314 := Tryz.func258.trans (congrArg some (by kernel_rfl))
  t3 := Tryz.underlying3
  a3 := Tryz.isAgg3
  z3 := Tryz.sizeOf3
  v3 := Tryz.zeroValue3
  t4 := Tryz.underlying4
  a4 := Tryz.isAgg4
  z4 := Tryz.sizeOf4
  v4 := Tryz.zeroValue4
  t5 := Tryz.underlying5
  a5 := Tryz.isAgg5
  z5 := Tryz.sizeOf5
  v5 := Tryz.zeroValue5
  t9 := Tryz.underlying9
  a9 := Tryz.isAgg9
  z9 := Tryz.sizeOf9
  v9 := Tryz.zeroValue9
  t46 := Tryz.underlying213
  a46 := Tryz.isAgg213
  z46 := Tryz.sizeOf213
  v46 := Tryz.zeroValue213
  t51 := Tryz.underlying221
  a51 := Tryz.isAgg221
  z51 := Tryz.sizeOf221
  v51 := Tryz.zeroValue221
  t146 := Tryz.underlying222
  a146 := Tryz.isAgg222
  z146 := Tryz.sizeOf222
  v146 := Tryz.zeroValue222
  g1 := by kernel_rfl
  i3 := by kernel_rfl
  i4 := by kernel_rfl
  i5 := by kernel_rfl
  i9 := by kernel_rfl
  i46 := by kernel_rfl
  i51 := by kernel_rfl
  i146 := by kernel_rfl
  m1 := by kernel_rfl
  s1_3 := fun w h => Go.Proofs.cell_of_shapedOpen_int (zero := #[.int .i64 0]) (t := 3) h (of_decide_eq_true (by kernel_rfl)) (by kernel_rfl) rfl (by kernel_rfl) (by kernel_rfl) Tryz.underlying3 }
open Go.RowKit Go.Lib in
theorem Tryz.strings_Index_shaped (s sub : ByteArray) (w : World) (h : w.ShapedOpen Tryz.prog) (hs : s.size < 4294967281) :
    Calls Tryz.prog 181 #[.string s, .string sub] w fun e w' => e = .returned (.int .i64 (Lib.index s.data.toList sub.data.toList)) ∧ w' = w := Any.strings_Index_shaped Tryz.laysM143 s sub w h hs
def Tryz.laysM144_ren : Go.Shelf.Ren := ⟨fun | 144 => 252 | 143 => 181 | 219 => 223 | 217 => 246 | 225 => 247 | 224 => 248 | 267 => 249 | 266 => 257 | 314 => 258 | n => n, fun | 9 => 9 | 4 => 4 | 3 => 3 | 5 => 5 | 46 => 213 | 146 => 222 | 51 => 221 | n => n, fun | 1 => 1 | n => n⟩
theorem Tryz.laysM144 : Go.Proofs.LaysM.n144 Tryz.prog Tryz.laysM144_ren := {
  mixed := by kernel_rfl
  f143 := Tryz.func181.trans (congrArg some (by kernel_rfl))
  f144 := Tryz.func252.trans (congrArg some (by kernel_rfl))
  f217 := Tryz.func246.trans (congrArg some (by kernel_rfl))
  f219 := Tryz.func223.trans (congrArg some (by kernel_rfl))
  f224 := Tryz.func248.trans (congrArg some (by kernel_rfl))
  f225 := Tryz.func247.trans (congrArg some (by kernel_rfl))
  f266 := Tryz.func257.trans (congrArg some (by kernel_rfl))
  f267 := Tryz.func249.trans (congrArg some (by kernel_rfl))
  f314 := Tryz.func258.trans (congrArg some (by kernel_rfl))
  t3 := Tryz.underlying3
  a3 := Tryz.isAgg3
  z3 := Tryz.sizeOf3
  v3 := Tryz.zeroValue3
  t4 := Tryz.underlying4
  a4 := Tryz.isAgg4
  z4 := Tryz.sizeOf4
  v4 := Tryz.zeroValue4
  t5 := Tryz.underlying5
  a5 := Tryz.isAgg5
  z5 := Tryz.sizeOf5
  v5 := Tryz.zeroValue5
  t9 := Tryz.underlying9
  a9 := Tryz.isAgg9
  z9 := Tryz.sizeOf9
  v9 := Tryz.zeroValue9
  t46 := Tryz.underlying213
  a46 := Tryz.isAgg213
  z46 := Tryz.sizeOf213
  v46 := Tryz.zeroValue213
  t51 := Tryz.underlying221
  a51 := Tryz.isAgg221
  z51 := Tryz.sizeOf221
  v51 := Tryz.zeroValue221
  t146 := Tryz.underlying222
  a146 := Tryz.isAgg222
  z146 := Tryz.sizeOf222
  v146 := Tryz.zeroValue222
  g1 := by kernel_rfl
  i3 := by kernel_rfl
  i4 := by kernel_rfl
  i5 := by kernel_rfl
  i9 := by kernel_rfl
  i46 := by kernel_rfl
  i51 := by kernel_rfl
  i146 := by kernel_rfl
  m1 := by kernel_rfl
  s1_3 := fun w h => Go.Proofs.cell_of_shapedOpen_int (zero := #[.int .i64 0]) (t := 3) h (of_decide_eq_true (by kernel_rfl)) (by kernel_rfl) rfl (by kernel_rfl) (by kernel_rfl) Tryz.underlying3 }
open Go.RowKit Go.Lib in
theorem Tryz.strings_Contains_shaped (s sub : ByteArray) (w : World) (h : w.ShapedOpen Tryz.prog) (hs : s.size < 4294967281) :
    Calls Tryz.prog 252 #[.string s, .string sub] w fun e w' => e = .returned (.bool (Lib.contains s.data.toList sub.data.toList)) ∧ w' = w := Any.strings_Contains_shaped Tryz.laysM144 s sub w h hs
def Tryz.laysM220_ren : Go.Shelf.Ren := ⟨fun | 220 => 220 | 219 => 223 | 217 => 246 | 225 => 247 | 224 => 248 | 267 => 249 | 266 => 257 | 314 => 258 | n => n, fun | 9 => 9 | 4 => 4 | 3 => 3 | 5 => 5 | 46 => 213 | 146 => 222 | 51 => 221 | n => n, fun | 1 => 1 | n => n⟩
theorem Tryz.laysM220 : Go.Proofs.LaysM.n220 Tryz.prog Tryz.laysM220_ren := {
  mixed := by kernel_rfl
  f217 := Tryz.func246.trans (congrArg some (by kernel_rfl))
  f219 := Tryz.func223.trans (congrArg some (by kernel_rfl))
  f220 := Tryz.func220.trans (congrArg some (by kernel_rfl))
  f224 := Tryz.func248.trans (congrArg some (by kernel_rfl))
  f225 := Tryz.func247.trans (congrArg some (by kernel_rfl))
  f266 := Tryz.func257.trans (congrArg some (by kernel_rfl))
  f267 := Tryz.func249.trans (congrArg some (by kernel_rfl))
  f314 := Tryz.func258.trans (congrArg some (by kernel_rfl))
  t3 := Tryz.underlying3
  a3 := Tryz.isAgg3
  z3 := Tryz.sizeOf3
  v3 := Tryz.zeroValue3
  t4 := Tryz.underlying4
  a4 := Tryz.isAgg4
  z4 := Tryz.sizeOf4
  v4 := Tryz.zeroValue4
  t5 := Tryz.underlying5
  a5 := Tryz.isAgg5
  z5 := Tryz.sizeOf5
  v5 := Tryz.zeroValue5
  t9 := Tryz.underlying9
  a9 := Tryz.isAgg9
  z9 := Tryz.sizeOf9
  v9 := Tryz.zeroValue9
  t46 := Tryz.underlying213
  a46 := Tryz.isAgg213
  z46 := Tryz.sizeOf213
  v46 := Tryz.zeroValue213
  t51 := Tryz.underlying221
  a51 := Tryz.isAgg221
  z51 := Tryz.sizeOf221
  v51 := Tryz.zeroValue221
  t146 := Tryz.underlying222
  a146 := Tryz.isAgg222
  z146 := Tryz.sizeOf222
  v146 := Tryz.zeroValue222
  g1 := by kernel_rfl
  i3 := by kernel_rfl
  i4 := by kernel_rfl
  i5 := by kernel_rfl
  i9 := by kernel_rfl
  i46 := by kernel_rfl
  i51 := by kernel_rfl
  i146 := by kernel_rfl
  m1 := by kernel_rfl
  s1_3 := fun w h => Go.Proofs.cell_of_shapedOpen_int (zero := #[.int .i64 0]) (t := 3) h (of_decide_eq_true (by kernel_rfl)) (by kernel_rfl) rfl (by kernel_rfl) (by kernel_rfl) Tryz.underlying3 }
open Go.RowKit Go.Lib in
theorem Tryz.stringslite_Cut_shaped (s sep : ByteArray) (w : World) (h : w.ShapedOpen Tryz.prog) (hs : s.size < 4294967281) :
    Calls Tryz.prog 220 #[.string s, .string sep] w fun e w' => e = .returned (.tuple #[.string ⟨(Lib.cut s.data.toList sep.data.toList).1.toArray⟩, .string ⟨(Lib.cut s.data.toList sep.data.toList).2.1.toArray⟩, .bool (Lib.cut s.data.toList sep.data.toList).2.2]) ∧ ∃ n, w' = w.drewN n := Any.stringslite_Cut_shaped Tryz.laysM220 s sep w h hs
def Tryz.laysM145_ren : Go.Shelf.Ren := ⟨fun | 145 => 178 | 220 => 220 | 219 => 223 | 217 => 246 | 225 => 247 | 224 => 248 | 267 => 249 | 266 => 257 | 314 => 258 | n => n, fun | 9 => 9 | 4 => 4 | 59 => 163 | 3 => 3 | 5 => 5 | 46 => 213 | 146 => 222 | 51 => 221 | n => n, fun | 1 => 1 | n => n⟩
theorem Tryz.laysM145 : Go.Proofs.LaysM.n145 Tryz.prog Tryz.laysM145_ren := {
  mixed := by kernel_rfl
  f145 := Tryz.func178.trans (congrArg some (by kernel_rfl))
  f217 := Tryz.func246.trans (congrArg some (by kernel_rfl))
  f219 := Tryz.func223.trans (congrArg some (by kernel_rfl))
  f220 := Tryz.func220.trans (congrArg some (by kernel_rfl))
  f224 := Tryz.func248.trans (congrArg some (by kernel_rfl))
  f225 := Tryz.func247.trans (congrArg some (by kernel_rfl))
  f266 := Tryz.func257.trans (congrArg some (by kernel_rfl))
  f267 := Tryz.func249.trans (congrArg some (by kernel_rfl))
  f314 := Tryz.func258.trans (congrArg some (by kernel_rfl))
  t3 := Tryz.underlying3
  a3 := Tryz.isAgg3
  z3 := Tryz.sizeOf3
  v3 := Tryz.zeroValue3
  t4 := Tryz.underlying4
  a4 := Tryz.isAgg4
  z4 := Tryz.sizeOf4
  v4 := Tryz.zeroValue4
  t5 := Tryz.underlying5
  a5 := Tryz.isAgg5
  z5 := Tryz.sizeOf5
  v5 := Tryz.zeroValue5
  t9 := Tryz.underlying9
  a9 := Tryz.isAgg9
  z9 := Tryz.sizeOf9
  v9 := Tryz.zeroValue9
  t46 := Tryz.underlying213
  a46 := Tryz.isAgg213
  z46 := Tryz.sizeOf213
  v46 := Tryz.zeroValue213
  t51 := Tryz.underlying221
  a51 := Tryz.isAgg221
  z51 := Tryz.sizeOf221
  v51 := Tryz.zeroValue221
  t59 := Tryz.underlying163
  a59 := Tryz.isAgg163
  z59 := Tryz.sizeOf163
  v59 := Tryz.zeroValue163
  t146 := Tryz.underlying222
  a146 := Tryz.isAgg222
  z146 := Tryz.sizeOf222
  v146 := Tryz.zeroValue222
  g1 := by kernel_rfl
  i3 := by kernel_rfl
  i4 := by kernel_rfl
  i5 := by kernel_rfl
  i9 := by kernel_rfl
  i46 := by kernel_rfl
  i51 := by kernel_rfl
  i59 := by kernel_rfl
  i146 := by kernel_rfl
  m1 := by kernel_rfl
  s1_3 := fun w h => Go.Proofs.cell_of_shapedOpen_int (zero := #[.int .i64 0]) (t := 3) h (of_decide_eq_true (by kernel_rfl)) (by kernel_rfl) rfl (by kernel_rfl) (by kernel_rfl) Tryz.underlying3 }
open Go.RowKit Go.Lib in
theorem Tryz.strings_Cut_shaped (s sep : ByteArray) (w : World) (h : w.ShapedOpen Tryz.prog) (hs : s.size < 4294967281) :
    Calls Tryz.prog 178 #[.string s, .string sep] w fun e w' => e = .returned (.tuple #[.string ⟨(Lib.cut s.data.toList sep.data.toList).1.toArray⟩, .string ⟨(Lib.cut s.data.toList sep.data.toList).2.1.toArray⟩, .bool (Lib.cut s.data.toList sep.data.toList).2.2]) ∧ ∃ n, w' = w.drewN n := Any.strings_Cut_shaped Tryz.laysM145 s sep w h hs
def Tryz.laysM138_ren : Go.Shelf.Ren := ⟨fun | 138 => 180 | 195 => 221 | 218 => 222 | 143 => 181 | 219 => 223 | 217 => 246 | 225 => 247 | 224 => 248 | 267 => 249 | 266 => 257 | 314 => 258 | n => n, fun | 9 => 9 | 3 => 3 | 4 => 4 | 5 => 5 | 0 => 0 | 46 => 213 | 146 => 222 | 51 => 221 | n => n, fun | 1 => 1 | n => n⟩
theorem Tryz.laysM138 : Go.Proofs.LaysM.n138 Tryz.prog Tryz.laysM138_ren := {
  mixed := by kernel_rfl
  f138 := Tryz.func180.trans (congrArg some (by kernel_rfl))
  f143 := Tryz.func181.trans (congrArg some (by kernel_rfl))
  f195 := Tryz.func221.trans (congrArg some (by kernel_rfl))
  f217 := Tryz.func246.trans (congrArg some (by kernel_rfl))
  f218 := Tryz.func222.trans (congrArg some (by kernel_rfl))
  f219 := Tryz.func223.trans (congrArg some (by kernel_rfl))
  f224 := Tryz.func248.trans (congrArg some (by kernel_rfl))
  f225 := Tryz.func247.trans (congrArg some (by kernel_rfl))
  f266 := Tryz.func257.trans (congrArg some (by kernel_rfl))
  f267 := Tryz.func249.trans (congrArg some (by kernel_rfl))
  f314 := Tryz.func258.trans (congrArg some (by kernel_rfl))
  t0 := Tryz.underlying0
  a0 := Tryz.isAgg0
  z0 := Tryz.sizeOf0
  v0 := Tryz.zeroValue0
  t3 := Tryz.underlying3
  a3 := Tryz.isAgg3
  z3 := Tryz.sizeOf3
  v3 := Tryz.zeroValue3
  t4 := Tryz.underlying4
  a4 := Tryz.isAgg4
  z4 := Tryz.sizeOf4
  v4 := Tryz.zeroValue4
  t5 := Tryz.underlying5
  a5 := Tryz.isAgg5
  z5 := Tryz.sizeOf5
  v5 := Tryz.zeroValue5
  t9 := Tryz.underlying9
  a9 := Tryz.isAgg9
  z9 := Tryz.sizeOf9
  v9 := Tryz.zeroValue9
  t46 := Tryz.underlying213
  a46 := Tryz.isAgg213
  z46 := Tryz.sizeOf213
  v46 := Tryz.zeroValue213
  t51 := Tryz.underlying221
  a51 := Tryz.isAgg221
  z51 := Tryz.sizeOf221
  v51 := Tryz.zeroValue221
  t146 := Tryz.underlying222
  a146 := Tryz.isAgg222
  z146 := Tryz.sizeOf222
  v146 := Tryz.zeroValue222
  g1 := by kernel_rfl
  i0 := by kernel_rfl
  i3 := by kernel_rfl
  i4 := by kernel_rfl
  i5 := by kernel_rfl
  i9 := by kernel_rfl
  i46 := by kernel_rfl
  i51 := by kernel_rfl
  i146 := by kernel_rfl
  m1 := by kernel_rfl
  s1_3 := fun w h => Go.Proofs.cell_of_shapedOpen_int (zero := #[.int .i64 0]) (t := 3) h (of_decide_eq_true (by kernel_rfl)) (by kernel_rfl) rfl (by kernel_rfl) (by kernel_rfl) Tryz.underlying3 }
open Go.RowKit Go.Lib in
theorem Tryz.strings_Count_shaped (s sub : ByteArray) (w : World) (h : w.ShapedOpen Tryz.prog) (hs : s.size < 4294967281) (h2 : 2 ≤ sub.size) :
    Calls Tryz.prog 180 #[.string s, .string sub] w fun e w' => e = .returned (.int .i64 (Lib.countB s sub)) ∧ w' = w := Any.strings_Count_shaped Tryz.laysM138 s sub w h hs h2
def Tryz.lays222_ren : Go.Shelf.Ren := ⟨fun | 222 => 260 | n => n, fun | 9 => 9 | 5 => 5 | 3 => 3 | 4 => 4 | n => n, fun | n => n⟩
theorem Tryz.lays222 : Go.Proofs.Lays.n222 Tryz.prog Tryz.lays222_ren := {
  mixed := by kernel_rfl
  f222 := Tryz.func260.trans (congrArg some (by kernel_rfl))
  t3 := Tryz.underlying3
  a3 := Tryz.isAgg3
  z3 := Tryz.sizeOf3
  v3 := Tryz.zeroValue3
  t4 := Tryz.underlying4
  a4 := Tryz.isAgg4
  z4 := Tryz.sizeOf4
  v4 := Tryz.zeroValue4
  t5 := Tryz.underlying5
  a5 := Tryz.isAgg5
  z5 := Tryz.sizeOf5
  v5 := Tryz.zeroValue5
  t9 := Tryz.underlying9
  a9 := Tryz.isAgg9
  z9 := Tryz.sizeOf9
  v9 := Tryz.zeroValue9 }
open Go.RowKit Go.Lib in
/-- internal/bytealg.LastIndexByteString: 'for i := len(s) - 1; i >= 0; i-- { if s[i] == c { return i } }; return -1'. (LAID: no walk: one application.) -/
theorem Tryz.bytealg_LastIndexByteString_nm (s : ByteArray) (c : Int) (hs : s.size < 4611686018427387904) (w : World) :
    Calls Tryz.prog 260 #[.string s, .int .u8 c] w fun e w' => e = .returned (.int .i64 (Lib.lastIndexByte s c)) ∧ w' = w := Any.bytealg_LastIndexByteString_nm Tryz.lays222 s c hs w
def Tryz.lays149_ren : Go.Shelf.Ren := ⟨fun | 149 => 253 | 222 => 260 | n => n, fun | 9 => 9 | 5 => 5 | 3 => 3 | 4 => 4 | n => n, fun | n => n⟩
theorem Tryz.lays149 : Go.Proofs.Lays.n149 Tryz.prog Tryz.lays149_ren := {
  mixed := by kernel_rfl
  f149 := Tryz.func253.trans (congrArg some (by kernel_rfl))
  f222 := Tryz.func260.trans (congrArg some (by kernel_rfl))
  t3 := Tryz.underlying3
  a3 := Tryz.isAgg3
  z3 := Tryz.sizeOf3
  v3 := Tryz.zeroValue3
  t4 := Tryz.underlying4
  a4 := Tryz.isAgg4
  z4 := Tryz.sizeOf4
  v4 := Tryz.zeroValue4
  t5 := Tryz.underlying5
  a5 := Tryz.isAgg5
  z5 := Tryz.sizeOf5
  v5 := Tryz.zeroValue5
  t9 := Tryz.underlying9
  a9 := Tryz.isAgg9
  z9 := Tryz.sizeOf9
  v9 := Tryz.zeroValue9 }
open Go.RowKit Go.Lib in
/-- strings.LastIndexByte: "LastIndexByte returns the index of the last instance of c in s, or -1 if c is not present in s." (LAID: no walk: one application.) -/
theorem Tryz.strings_LastIndexByte (s : ByteArray) (c : Int) (hs : s.size < 4611686018427387904) (w : World) :
    Calls Tryz.prog 253 #[.string s, .int .u8 c] w fun e w' => e = .returned (.int .i64 (Lib.lastIndexByte s c)) ∧ w' = w := Any.strings_LastIndexByte Tryz.lays149 s c hs w
def Tryz.lays315_ren : Go.Shelf.Ren := ⟨fun | 315 => 219 | n => n, fun | 9 => 9 | 40 => 93 | 4 => 4 | 3 => 3 | 0 => 0 | 21 => 21 | n => n, fun | n => n⟩
theorem Tryz.lays315 : Go.Proofs.Lays.n315 Tryz.prog Tryz.lays315_ren := {
  mixed := by kernel_rfl
  f315 := Tryz.func219.trans (congrArg some (by kernel_rfl))
  t0 := Tryz.underlying0
  a0 := Tryz.isAgg0
  z0 := Tryz.sizeOf0
  v0 := Tryz.zeroValue0
  t3 := Tryz.underlying3
  a3 := Tryz.isAgg3
  z3 := Tryz.sizeOf3
  v3 := Tryz.zeroValue3
  t4 := Tryz.underlying4
  a4 := Tryz.isAgg4
  z4 := Tryz.sizeOf4
  v4 := Tryz.zeroValue4
  t9 := Tryz.underlying9
  a9 := Tryz.isAgg9
  z9 := Tryz.sizeOf9
  v9 := Tryz.zeroValue9
  t21 := Tryz.underlying21
  a21 := Tryz.isAgg21
  z21 := Tryz.sizeOf21
  v21 := Tryz.zeroValue21
  t40 := Tryz.underlying93
  a40 := Tryz.isAgg93
  z40 := Tryz.sizeOf93
  v40 := Tryz.zeroValue93 }
open Go.RowKit Go.Lib in
theorem Tryz.strings_indexFunc (g : Nat) (lb : Array Value) (eg : ∀ args w, (callFunc g args).run Tryz.prog w = .ok (.enter g args) w) (p : Nat → Bool) (truth : Bool) (s : ByteArray) (w : World) (hp : PredAt Tryz.prog g lb encR p w) :
    Calls Tryz.prog 219 #[.string s, .func (.func g) #[] lb, .bool truth] w fun e w' => e = .returned (.int .i64 (Lib.idxFunc p truth s)) ∧ Below w.heap.size w w' := Any.strings_indexFunc Tryz.lays315 g lb eg p truth s w hp
def Tryz.laysGw15_ren : Go.Shelf.Ren := ⟨fun | 15 => 177 | 20 => 219 | n => n, fun | 9 => 9 | 23 => 93 | 3 => 3 | 4 => 4 | 0 => 0 | 21 => 21 | n => n, fun | n => n⟩
theorem Tryz.laysGw15 : Go.Proofs.LaysGw.n15 Tryz.prog Tryz.laysGw15_ren := {
  mixed := by kernel_rfl
  f15 := Tryz.func177.trans (congrArg some (by kernel_rfl))
  f20 := Tryz.func219.trans (congrArg some (by kernel_rfl))
  t0 := Tryz.underlying0
  a0 := Tryz.isAgg0
  z0 := Tryz.sizeOf0
  v0 := Tryz.zeroValue0
  i0 := by kernel_rfl
  t3 := Tryz.underlying3
  a3 := Tryz.isAgg3
  z3 := Tryz.sizeOf3
  v3 := Tryz.zeroValue3
  i3 := by kernel_rfl
  t4 := Tryz.underlying4
  a4 := Tryz.isAgg4
  z4 := Tryz.sizeOf4
  v4 := Tryz.zeroValue4
  i4 := by kernel_rfl
  t9 := Tryz.underlying9
  a9 := Tryz.isAgg9
  z9 := Tryz.sizeOf9
  v9 := Tryz.zeroValue9
  i9 := by kernel_rfl
  t21 := Tryz.underlying21
  a21 := Tryz.isAgg21
  z21 := Tryz.sizeOf21
  v21 := Tryz.zeroValue21
  i21 := by kernel_rfl
  t23 := Tryz.underlying93
  a23 := Tryz.isAgg93
  z23 := Tryz.sizeOf93
  v23 := Tryz.zeroValue93
  i23 := by kernel_rfl }
open Go.RowKit Go.Lib in
theorem Tryz.strings_IndexFunc (g : Nat) (lb : Array Value) (eg : ∀ args w, (callFunc g args).run Tryz.prog w = .ok (.enter g args) w) (p : Nat → Bool) (s : ByteArray) (w : World) (hp : PredAt Tryz.prog g lb encR p w) :
    Calls Tryz.prog 177 #[.string s, .func (.func g) #[] lb] w fun e w' => e = .returned (.int .i64 (Lib.idxFunc p true s)) ∧ Below w.heap.size w w' := Any.strings_IndexFunc Tryz.laysGw15 g lb eg p s w hp
open Go.RowKit Go.Lib in
theorem Tryz.strings_indexFunc_runes (g : Nat) (lb : Array Value) (eg : ∀ args w, (callFunc g args).run Tryz.prog w = .ok (.enter g args) w) (p : Nat → Bool) (truth : Bool) (s : ByteArray) (w : World) (hp : PredAtRunes Tryz.prog g lb p w) :
    Calls Tryz.prog 219 #[.string s, .func (.func g) #[] lb, .bool truth] w fun e w' => e = .returned (.int .i64 (Lib.idxFunc p truth s)) ∧ Below w.heap.size w w' := Any.strings_indexFunc_runes Tryz.lays315 g lb eg p truth s w hp
open Go.RowKit Go.Lib in
theorem Tryz.strings_IndexFunc_runes (g : Nat) (lb : Array Value) (eg : ∀ args w, (callFunc g args).run Tryz.prog w = .ok (.enter g args) w) (p : Nat → Bool) (s : ByteArray) (w : World) (hp : PredAtRunes Tryz.prog g lb p w) :
    Calls Tryz.prog 177 #[.string s, .func (.func g) #[] lb] w fun e w' => e = .returned (.int .i64 (Lib.idxFunc p true s)) ∧ Below w.heap.size w w' := Any.strings_IndexFunc_runes Tryz.laysGw15 g lb eg p s w hp
def Tryz.lays206_ren : Go.Shelf.Ren := ⟨fun | 206 => 184 | n => n, fun | 9 => 9 | 4 => 4 | 3 => 3 | n => n, fun | n => n⟩
theorem Tryz.lays206 : Go.Proofs.Lays.n206 Tryz.prog Tryz.lays206_ren := {
  mixed := by kernel_rfl
  f206 := Tryz.func184.trans (congrArg some (by kernel_rfl))
  t3 := Tryz.underlying3
  a3 := Tryz.isAgg3
  z3 := Tryz.sizeOf3
  v3 := Tryz.zeroValue3
  t4 := Tryz.underlying4
  a4 := Tryz.isAgg4
  z4 := Tryz.sizeOf4
  v4 := Tryz.zeroValue4
  t9 := Tryz.underlying9
  a9 := Tryz.isAgg9
  z9 := Tryz.sizeOf9
  v9 := Tryz.zeroValue9 }
open Go.RowKit Go.Lib in
/-- internal/stringslite.HasPrefix (what strings.HasPrefix calls). (LAID: no walk: one application.) -/
theorem Tryz.stringslite_HasPrefix (s p : ByteArray) (w : World) :
    Calls Tryz.prog 184 #[.string s, .string p] w fun e w' => e = .returned (.bool (Lib.hasPrefix s.data.toList p.data.toList)) ∧ w' = w := Any.stringslite_HasPrefix Tryz.lays206 s p w
def Tryz.lays99_ren : Go.Shelf.Ren := ⟨fun | 99 => 126 | 206 => 184 | n => n, fun | 9 => 9 | 4 => 4 | 3 => 3 | n => n, fun | n => n⟩
theorem Tryz.lays99 : Go.Proofs.Lays.n99 Tryz.prog Tryz.lays99_ren := {
  mixed := by kernel_rfl
  f99 := Tryz.func126.trans (congrArg some (by kernel_rfl))
  f206 := Tryz.func184.trans (congrArg some (by kernel_rfl))
  t3 := Tryz.underlying3
  a3 := Tryz.isAgg3
  z3 := Tryz.sizeOf3
  v3 := Tryz.zeroValue3
  t4 := Tryz.underlying4
  a4 := Tryz.isAgg4
  z4 := Tryz.sizeOf4
  v4 := Tryz.zeroValue4
  t9 := Tryz.underlying9
  a9 := Tryz.isAgg9
  z9 := Tryz.sizeOf9
  v9 := Tryz.zeroValue9 }
open Go.RowKit Go.Lib in
/-- strings.HasPrefix: "HasPrefix reports whether the string s begins with prefix.": IT RETURNS 'Lib.hasPrefix s prefix'; the world is as it was. (LAID: no walk: one application.) -/
theorem Tryz.strings_HasPrefix (s p : ByteArray) (w : World) :
    Calls Tryz.prog 126 #[.string s, .string p] w fun e w' => e = .returned (.bool (Lib.hasPrefix s.data.toList p.data.toList)) ∧ w' = w := Any.strings_HasPrefix Tryz.lays99 s p w
def Tryz.lays207_ren : Go.Shelf.Ren := ⟨fun | 207 => 216 | n => n, fun | 9 => 9 | 4 => 4 | 3 => 3 | n => n, fun | n => n⟩
theorem Tryz.lays207 : Go.Proofs.Lays.n207 Tryz.prog Tryz.lays207_ren := {
  mixed := by kernel_rfl
  f207 := Tryz.func216.trans (congrArg some (by kernel_rfl))
  t3 := Tryz.underlying3
  a3 := Tryz.isAgg3
  z3 := Tryz.sizeOf3
  v3 := Tryz.zeroValue3
  t4 := Tryz.underlying4
  a4 := Tryz.isAgg4
  z4 := Tryz.sizeOf4
  v4 := Tryz.zeroValue4
  t9 := Tryz.underlying9
  a9 := Tryz.isAgg9
  z9 := Tryz.sizeOf9
  v9 := Tryz.zeroValue9 }
open Go.RowKit Go.Lib in
/-- internal/stringslite.HasSuffix (what strings.HasSuffix calls). (LAID: no walk: one application.) -/
theorem Tryz.stringslite_HasSuffix (s p : ByteArray) (w : World) (hs : s.size ≤ 9223372036854775807) :
    Calls Tryz.prog 216 #[.string s, .string p] w fun e w' => e = .returned (.bool (Lib.hasSuffix s.data.toList p.data.toList)) ∧ w' = w := Any.stringslite_HasSuffix Tryz.lays207 s p w hs
def Tryz.lays100_ren : Go.Shelf.Ren := ⟨fun | 100 => 172 | 207 => 216 | n => n, fun | 9 => 9 | 4 => 4 | 3 => 3 | n => n, fun | n => n⟩
theorem Tryz.lays100 : Go.Proofs.Lays.n100 Tryz.prog Tryz.lays100_ren := {
  mixed := by kernel_rfl
  f100 := Tryz.func172.trans (congrArg some (by kernel_rfl))
  f207 := Tryz.func216.trans (congrArg some (by kernel_rfl))
  t3 := Tryz.underlying3
  a3 := Tryz.isAgg3
  z3 := Tryz.sizeOf3
  v3 := Tryz.zeroValue3
  t4 := Tryz.underlying4
  a4 := Tryz.isAgg4
  z4 := Tryz.sizeOf4
  v4 := Tryz.zeroValue4
  t9 := Tryz.underlying9
  a9 := Tryz.isAgg9
  z9 := Tryz.sizeOf9
  v9 := Tryz.zeroValue9 }
open Go.RowKit Go.Lib in
/-- strings.HasSuffix: "HasSuffix reports whether the string s ends with suffix.": IT RETURNS 'Lib.hasSuffix s suffix'; the world is as it was. ('hs': no Go string is longer: a caller has it of every string that it was handed.) (LAID: no walk: one application.) -/
theorem Tryz.strings_HasSuffix (s p : ByteArray) (w : World) (hs : s.size ≤ 9223372036854775807) :
    Calls Tryz.prog 172 #[.string s, .string p] w fun e w' => e = .returned (.bool (Lib.hasSuffix s.data.toList p.data.toList)) ∧ w' = w := Any.strings_HasSuffix Tryz.lays100 s p w hs
open Go.RowKit Go.Lib in
/-- strings.Count at whatever sep that is not empty: the two roads under one statement. (LAID: no walk: one application.) -/
theorem Tryz.strings_Count_any (s sep : ByteArray) (m : Int) (w : World) (hs : s.size < 4294967281) (hm : w.cell? ⟨1, 0, none⟩ = some (.int .i64 m)) (h1 : 1 ≤ sep.size) :
    Calls Tryz.prog 180 #[.string s, .string sep] w fun e w' => e = .returned (.int .i64 (Lib.countB s sep)) ∧ w' = w := Any.strings_Count_any Tryz.lays138 s sep m w hs hm h1
def Tryz.lays154_ren : Go.Shelf.Ren := ⟨fun | 154 => 123 | 138 => 180 | 165 => 153 | 143 => 181 | 166 => 155 | 197 => 182 | 169 => 108 | 195 => 221 | 218 => 222 | 240 => 198 | 241 => 199 | 219 => 223 | 260 => 224 | 276 => 231 | 277 => 232 | 217 => 246 | 225 => 247 | 224 => 248 | 267 => 249 | 266 => 257 | 314 => 258 | n => n, fun | 9 => 9 | 3 => 3 | 4 => 4 | 72 => 115 | 0 => 0 | 76 => 148 | 105 => 167 | 21 => 21 | 5 => 5 | 70 => 113 | 20 => 20 | 37 => 75 | 75 => 147 | 127 => 162 | 164 => 194 | 46 => 213 | 119 => 214 | 139 => 217 | 138 => 216 | 146 => 222 | 51 => 221 | 80 => 112 | n => n, fun | 1 => 1 | 3 => 2 | 4 => 3 | n => n⟩
theorem Tryz.lays154 : Go.Proofs.Lays.n154 Tryz.prog Tryz.lays154_ren := {
  mixed := by kernel_rfl
  f138 := Tryz.func180.trans (congrArg some (by kernel_rfl))
  f143 := Tryz.func181.trans (congrArg some (by kernel_rfl))
  f154 := Tryz.func123.trans (congrArg some (by kernel_rfl))
  f165 := Tryz.func153.trans (congrArg some (by kernel_rfl))
  f166 := Tryz.func155.trans (congrArg some (by kernel_rfl))
  f169 := Tryz.func108.trans (congrArg some (by kernel_rfl))
  f195 := Tryz.func221.trans (congrArg some (by kernel_rfl))
  f197 := Tryz.func182.trans (congrArg some (by kernel_rfl))
  f217 := Tryz.func246.trans (congrArg some (by kernel_rfl))
  f218 := Tryz.func222.trans (congrArg some (by kernel_rfl))
  f219 := Tryz.func223.trans (congrArg some (by kernel_rfl))
  f224 := Tryz.func248.trans (congrArg some (by kernel_rfl))
  f225 := Tryz.func247.trans (congrArg some (by kernel_rfl))
  f240 := Tryz.func198.trans (congrArg some (by kernel_rfl))
  f241 := Tryz.func199.trans (congrArg some (by kernel_rfl))
  f260 := Tryz.func224.trans (congrArg some (by kernel_rfl))
  f266 := Tryz.func257.trans (congrArg some (by kernel_rfl))
  f267 := Tryz.func249.trans (congrArg some (by kernel_rfl))
  f276 := Tryz.func231.trans (congrArg some (by kernel_rfl))
  f277 := Tryz.func232.trans (congrArg some (by kernel_rfl))
  f314 := Tryz.func258.trans (congrArg some (by kernel_rfl))
  t0 := Tryz.underlying0
  a0 := Tryz.isAgg0
  z0 := Tryz.sizeOf0
  v0 := Tryz.zeroValue0
  t3 := Tryz.underlying3
  a3 := Tryz.isAgg3
  z3 := Tryz.sizeOf3
  v3 := Tryz.zeroValue3
  t4 := Tryz.underlying4
  a4 := Tryz.isAgg4
  z4 := Tryz.sizeOf4
  v4 := Tryz.zeroValue4
  t5 := Tryz.underlying5
  a5 := Tryz.isAgg5
  z5 := Tryz.sizeOf5
  v5 := Tryz.zeroValue5
  t9 := Tryz.underlying9
  a9 := Tryz.isAgg9
  z9 := Tryz.sizeOf9
  v9 := Tryz.zeroValue9
  t20 := Tryz.underlying20
  a20 := Tryz.isAgg20
  z20 := Tryz.sizeOf20
  v20 := Tryz.zeroValue20
  t21 := Tryz.underlying21
  a21 := Tryz.isAgg21
  z21 := Tryz.sizeOf21
  v21 := Tryz.zeroValue21
  t37 := Tryz.underlying75
  a37 := Tryz.isAgg75
  z37 := Tryz.sizeOf75
  v37 := Tryz.zeroValue75
  t46 := Tryz.underlying213
  a46 := Tryz.isAgg213
  z46 := Tryz.sizeOf213
  v46 := Tryz.zeroValue213
  t51 := Tryz.underlying221
  a51 := Tryz.isAgg221
  z51 := Tryz.sizeOf221
  v51 := Tryz.zeroValue221
  t70 := Tryz.underlying113
  a70 := Tryz.isAgg113
  z70 := Tryz.sizeOf113
  v70 := Tryz.zeroValue113
  t72 := Tryz.underlying115
  a72 := Tryz.isAgg115
  z72 := Tryz.sizeOf115
  v72 := Tryz.zeroValue115
  t75 := Tryz.underlying147
  a75 := Tryz.isAgg147
  z75 := Tryz.sizeOf147
  v75 := Tryz.zeroValue147
  t76 := Tryz.underlying148
  a76 := Tryz.isAgg148
  z76 := Tryz.sizeOf148
  v76 := Tryz.zeroValue148
  t105 := Tryz.underlying167
  a105 := Tryz.isAgg167
  z105 := Tryz.sizeOf167
  v105 := Tryz.zeroValue167
  t119 := Tryz.underlying214
  a119 := Tryz.isAgg214
  z119 := Tryz.sizeOf214
  t127 := Tryz.underlying162
  a127 := Tryz.isAgg162
  z127 := Tryz.sizeOf162
  v127 := Tryz.zeroValue162
  t138 := Tryz.underlying216
  a138 := Tryz.isAgg216
  z138 := Tryz.sizeOf216
  v138 := Tryz.zeroValue216
  t139 := Tryz.underlying217
  a139 := Tryz.isAgg217
  z139 := Tryz.sizeOf217
  v139 := Tryz.zeroValue217
  t146 := Tryz.underlying222
  a146 := Tryz.isAgg222
  z146 := Tryz.sizeOf222
  v146 := Tryz.zeroValue222
  t164 := Tryz.underlying194
  a164 := Tryz.isAgg194
  z164 := Tryz.sizeOf194
  v164 := Tryz.zeroValue194
  g1 := by kernel_rfl
  g3 := by kernel_rfl
  g4 := by kernel_rfl }
theorem Tryz.Builder_Extra_154 : Builder.Extra Tryz.prog Tryz.lays154_ren := {
  sizeBuilder := by kernel_rfl
  liesBuilder := by kernel_rfl
  t5 := Tryz.underlying5
  a5 := Tryz.isAgg5
  z5 := Tryz.sizeOf5
  v5 := Tryz.zeroValue5
  infoByte := by kernel_rfl
  cellsByte := by kernel_rfl
  sizeByte := by kernel_rfl
  neB5 := by decide }
open Go.RowKit Go.Lib in
/-- WHERE SOMETHING IS REPLACED: old is not new, n is not 0, there is an instance. (LAID: no walk: one application.) -/
theorem Tryz.strings_Replace_some (s old new : ByteArray) (n : Int) (m : Int) (w : World) (hs : s.size < 4294967281) (hm : w.cell? ⟨1, 0, none⟩ = some (.int .i64 m)) (h1 : 1 ≤ old.size) (hne : old ≠ new) (hn0 : n ≠ 0) (hc0 : Lib.countB s old ≠ 0) (hlen : s.size + Lib.countB s old * new.size ≤ 140737488355328) :
    Calls Tryz.prog 123 #[.string s, .string old, .string new, .int .i64 n] w fun e w' =>
      e = .returned (.string ⟨(Lib.replaceK old.data.toList new.data.toList (Lib.replaceNum s.data.toList old.data.toList n) s.data.toList).toArray⟩) ∧ Below w.heap.size w w' := Any.strings_Replace_some Tryz.lays154 Tryz.Builder_Extra_154 s old new n m w hs hm h1 hne hn0 hc0 hlen
open Go.RowKit Go.Lib in
/-- 'if old == new || n == 0 { return s }'. (LAID: no walk: one application.) -/
theorem Tryz.strings_Replace_none (s old new : ByteArray) (n : Int) (w : World) (h : old = new ∨ n = 0) :
    Calls Tryz.prog 123 #[.string s, .string old, .string new, .int .i64 n] w fun e w' => e = .returned (.string s) ∧ w' = w := Any.strings_Replace_none Tryz.lays154 s old new n w h
open Go.RowKit Go.Lib in
/-- 'if m := Count(s, old); m == 0 { return s }'. (LAID: no walk: one application.) -/
theorem Tryz.strings_Replace_absent (s old new : ByteArray) (n : Int) (m : Int) (w : World) (hs : s.size < 4294967281) (hm : w.cell? ⟨1, 0, none⟩ = some (.int .i64 m)) (h1 : 1 ≤ old.size) (hne : old ≠ new) (hn0 : n ≠ 0) (hc0 : Lib.countB s old = 0) :
    Calls Tryz.prog 123 #[.string s, .string old, .string new, .int .i64 n] w fun e w' => e = .returned (.string s) ∧ w' = w := Any.strings_Replace_absent Tryz.lays154 s old new n m w hs hm h1 hne hn0 hc0
open Go.RowKit Go.Lib in
/-- strings.Replace: "Replace returns a copy of the string s with the first n non-overlapping instances of old replaced by new. .. If n < 0, there is no limit on the number of replacements.": AT AN old THAT IS NOT EMPTY: IT RETURNS 'Lib.replace s old new n'. Below the heap's end the world is as it was. IT ASKS, as strings.Index's contract: 'len(s) < 4294967281', 'hm'; and that what comes out has room: 'len(s) + Count(s, old) * len(new) ≤ 2^47'. (LAID: no walk: one application.) -/
theorem Tryz.strings_Replace (s old new : ByteArray) (n : Int) (m : Int) (w : World) (hs : s.size < 4294967281) (hm : w.cell? ⟨1, 0, none⟩ = some (.int .i64 m)) (h1 : 1 ≤ old.size) (hlen : s.size + Lib.countB s old * new.size ≤ 140737488355328) :
    Calls Tryz.prog 123 #[.string s, .string old, .string new, .int .i64 n] w fun e w' =>
      e = .returned (.string ⟨(Lib.replace s.data.toList old.data.toList new.data.toList n).toArray⟩) ∧ Below w.heap.size w w' := Any.strings_Replace Tryz.lays154 Tryz.Builder_Extra_154 s old new n m w hs hm h1 hlen
def Tryz.lays155_ren : Go.Shelf.Ren := ⟨fun | 155 => 58 | 154 => 123 | 138 => 180 | 165 => 153 | 143 => 181 | 166 => 155 | 197 => 182 | 169 => 108 | 195 => 221 | 218 => 222 | 240 => 198 | 241 => 199 | 219 => 223 | 260 => 224 | 276 => 231 | 277 => 232 | 217 => 246 | 225 => 247 | 224 => 248 | 267 => 249 | 266 => 257 | 314 => 258 | n => n, fun | 9 => 9 | 3 => 3 | 4 => 4 | 72 => 115 | 0 => 0 | 76 => 148 | 105 => 167 | 21 => 21 | 5 => 5 | 70 => 113 | 20 => 20 | 37 => 75 | 75 => 147 | 127 => 162 | 164 => 194 | 46 => 213 | 119 => 214 | 139 => 217 | 138 => 216 | 146 => 222 | 51 => 221 | 80 => 112 | n => n, fun | 1 => 1 | 3 => 2 | 4 => 3 | n => n⟩
theorem Tryz.lays155 : Go.Proofs.Lays.n155 Tryz.prog Tryz.lays155_ren := {
  mixed := by kernel_rfl
  f138 := Tryz.func180.trans (congrArg some (by kernel_rfl))
  f143 := Tryz.func181.trans (congrArg some (by kernel_rfl))
  f154 := Tryz.func123.trans (congrArg some (by kernel_rfl))
  f155 := Tryz.func58.trans (congrArg some (by kernel_rfl))
  f165 := Tryz.func153.trans (congrArg some (by kernel_rfl))
  f166 := Tryz.func155.trans (congrArg some (by kernel_rfl))
  f169 := Tryz.func108.trans (congrArg some (by kernel_rfl))
  f195 := Tryz.func221.trans (congrArg some (by kernel_rfl))
  f197 := Tryz.func182.trans (congrArg some (by kernel_rfl))
  f217 := Tryz.func246.trans (congrArg some (by kernel_rfl))
  f218 := Tryz.func222.trans (congrArg some (by kernel_rfl))
  f219 := Tryz.func223.trans (congrArg some (by kernel_rfl))
  f224 := Tryz.func248.trans (congrArg some (by kernel_rfl))
  f225 := Tryz.func247.trans (congrArg some (by kernel_rfl))
  f240 := Tryz.func198.trans (congrArg some (by kernel_rfl))
  f241 := Tryz.func199.trans (congrArg some (by kernel_rfl))
  f260 := Tryz.func224.trans (congrArg some (by kernel_rfl))
  f266 := Tryz.func257.trans (congrArg some (by kernel_rfl))
  f267 := Tryz.func249.trans (congrArg some (by kernel_rfl))
  f276 := Tryz.func231.trans (congrArg some (by kernel_rfl))
  f277 := Tryz.func232.trans (congrArg some (by kernel_rfl))
  f314 := Tryz.func258.trans (congrArg some (by kernel_rfl))
  t0 := Tryz.underlying0
  a0 := Tryz.isAgg0
  z0 := Tryz.sizeOf0
  v0 := Tryz.zeroValue0
  t3 := Tryz.underlying3
  a3 := Tryz.isAgg3
  z3 := Tryz.sizeOf3
  v3 := Tryz.zeroValue3
  t4 := Tryz.underlying4
  a4 := Tryz.isAgg4
  z4 := Tryz.sizeOf4
  v4 := Tryz.zeroValue4
  t5 := Tryz.underlying5
  a5 := Tryz.isAgg5
  z5 := Tryz.sizeOf5
  v5 := Tryz.zeroValue5
  t9 := Tryz.underlying9
  a9 := Tryz.isAgg9
  z9 := Tryz.sizeOf9
  v9 := Tryz.zeroValue9
  t20 := Tryz.underlying20
  a20 := Tryz.isAgg20
  z20 := Tryz.sizeOf20
  v20 := Tryz.zeroValue20
  t21 := Tryz.underlying21
  a21 := Tryz.isAgg21
  z21 := Tryz.sizeOf21
  v21 := Tryz.zeroValue21
  t37 := Tryz.underlying75
  a37 := Tryz.isAgg75
  z37 := Tryz.sizeOf75
  v37 := Tryz.zeroValue75
  t46 := Tryz.underlying213
  a46 := Tryz.isAgg213
  z46 := Tryz.sizeOf213
  v46 := Tryz.zeroValue213
  t51 := Tryz.underlying221
  a51 := Tryz.isAgg221
  z51 := Tryz.sizeOf221
  v51 := Tryz.zeroValue221
  t70 := Tryz.underlying113
  a70 := Tryz.isAgg113
  z70 := Tryz.sizeOf113
  v70 := Tryz.zeroValue113
  t72 := Tryz.underlying115
  a72 := Tryz.isAgg115
  z72 := Tryz.sizeOf115
  v72 := Tryz.zeroValue115
  t75 := Tryz.underlying147
  a75 := Tryz.isAgg147
  z75 := Tryz.sizeOf147
  v75 := Tryz.zeroValue147
  t76 := Tryz.underlying148
  a76 := Tryz.isAgg148
  z76 := Tryz.sizeOf148
  v76 := Tryz.zeroValue148
  t105 := Tryz.underlying167
  a105 := Tryz.isAgg167
  z105 := Tryz.sizeOf167
  v105 := Tryz.zeroValue167
  t119 := Tryz.underlying214
  a119 := Tryz.isAgg214
  z119 := Tryz.sizeOf214
  t127 := Tryz.underlying162
  a127 := Tryz.isAgg162
  z127 := Tryz.sizeOf162
  v127 := Tryz.zeroValue162
  t138 := Tryz.underlying216
  a138 := Tryz.isAgg216
  z138 := Tryz.sizeOf216
  v138 := Tryz.zeroValue216
  t139 := Tryz.underlying217
  a139 := Tryz.isAgg217
  z139 := Tryz.sizeOf217
  v139 := Tryz.zeroValue217
  t146 := Tryz.underlying222
  a146 := Tryz.isAgg222
  z146 := Tryz.sizeOf222
  v146 := Tryz.zeroValue222
  t164 := Tryz.underlying194
  a164 := Tryz.isAgg194
  z164 := Tryz.sizeOf194
  v164 := Tryz.zeroValue194
  g1 := by kernel_rfl
  g3 := by kernel_rfl
  g4 := by kernel_rfl }
theorem Tryz.Builder_Extra_155 : Builder.Extra Tryz.prog Tryz.lays155_ren := {
  sizeBuilder := by kernel_rfl
  liesBuilder := by kernel_rfl
  t5 := Tryz.underlying5
  a5 := Tryz.isAgg5
  z5 := Tryz.sizeOf5
  v5 := Tryz.zeroValue5
  infoByte := by kernel_rfl
  cellsByte := by kernel_rfl
  sizeByte := by kernel_rfl
  neB5 := by decide }
open Go.RowKit Go.Lib in
/-- strings.ReplaceAll: "ReplaceAll returns a copy of the string s with all non-overlapping instances of old replaced by new.": AT AN old THAT IS NOT EMPTY: 'Lib.replaceAll s old new'. (LAID: no walk: one application.) -/
theorem Tryz.strings_ReplaceAll (s old new : ByteArray) (m : Int) (w : World) (hs : s.size < 4294967281) (hm : w.cell? ⟨1, 0, none⟩ = some (.int .i64 m)) (h1 : 1 ≤ old.size) (hlen : s.size + Lib.countB s old * new.size ≤ 140737488355328) :
    Calls Tryz.prog 58 #[.string s, .string old, .string new] w fun e w' =>
      e = .returned (.string ⟨(Lib.replaceAll s.data.toList old.data.toList new.data.toList).toArray⟩) ∧ Below w.heap.size w w' := Any.strings_ReplaceAll Tryz.lays155 Tryz.Builder_Extra_155 s old new m w hs hm h1 hlen
def Tryz.laysM154_ren : Go.Shelf.Ren := ⟨fun | 154 => 123 | 138 => 180 | 165 => 153 | 143 => 181 | 166 => 155 | 197 => 182 | 169 => 108 | 195 => 221 | 218 => 222 | 240 => 198 | 241 => 199 | 219 => 223 | 260 => 224 | 276 => 231 | 277 => 232 | 217 => 246 | 225 => 247 | 224 => 248 | 267 => 249 | 266 => 257 | 314 => 258 | n => n, fun | 9 => 9 | 3 => 3 | 4 => 4 | 72 => 115 | 0 => 0 | 76 => 148 | 105 => 167 | 21 => 21 | 5 => 5 | 70 => 113 | 20 => 20 | 37 => 75 | 75 => 147 | 127 => 162 | 164 => 194 | 46 => 213 | 119 => 214 | 139 => 217 | 138 => 216 | 146 => 222 | 51 => 221 | 80 => 112 | n => n, fun | 1 => 1 | 3 => 2 | 4 => 3 | n => n⟩
theorem Tryz.laysM154 : Go.Proofs.LaysM.n154 Tryz.prog Tryz.laysM154_ren := {
  mixed := by kernel_rfl
  f138 := Tryz.func180.trans (congrArg some (by kernel_rfl))
  f143 := Tryz.func181.trans (congrArg some (by kernel_rfl))
  f154 := Tryz.func123.trans (congrArg some (by kernel_rfl))
  f165 := Tryz.func153.trans (congrArg some (by kernel_rfl))
  f166 := Tryz.func155.trans (congrArg some (by kernel_rfl))
  f169 := Tryz.func108.trans (congrArg some (by kernel_rfl))
  f195 := Tryz.func221.trans (congrArg some (by kernel_rfl))
  f197 := Tryz.func182.trans (congrArg some (by kernel_rfl))
  f217 := Tryz.func246.trans (congrArg some (by kernel_rfl))
  f218 := Tryz.func222.trans (congrArg some (by kernel_rfl))
  f219 := Tryz.func223.trans (congrArg some (by kernel_rfl))
  f224 := Tryz.func248.trans (congrArg some (by kernel_rfl))
  f225 := Tryz.func247.trans (congrArg some (by kernel_rfl))
  f240 := Tryz.func198.trans (congrArg some (by kernel_rfl))
  f241 := Tryz.func199.trans (congrArg some (by kernel_rfl))
  f260 := Tryz.func224.trans (congrArg some (by kernel_rfl))
  f266 := Tryz.func257.trans (congrArg some (by kernel_rfl))
  f267 := Tryz.func249.trans (congrArg some (by kernel_rfl))
  f276 := Tryz.func231.trans (congrArg some (by kernel_rfl))
  f277 := Tryz.func232.trans (congrArg some (by kernel_rfl))
  f314 := Tryz.func258.trans (congrArg some (by kernel_rfl))
  t0 := Tryz.underlying0
  a0 := Tryz.isAgg0
  z0 := Tryz.sizeOf0
  v0 := Tryz.zeroValue0
  t3 := Tryz.underlying3
  a3 := Tryz.isAgg3
  z3 := Tryz.sizeOf3
  v3 := Tryz.zeroValue3
  t4 := Tryz.underlying4
  a4 := Tryz.isAgg4
  z4 := Tryz.sizeOf4
  v4 := Tryz.zeroValue4
  t5 := Tryz.underlying5
  a5 := Tryz.isAgg5
  z5 := Tryz.sizeOf5
  v5 := Tryz.zeroValue5
  t9 := Tryz.underlying9
  a9 := Tryz.isAgg9
  z9 := Tryz.sizeOf9
  v9 := Tryz.zeroValue9
  t20 := Tryz.underlying20
  a20 := Tryz.isAgg20
  z20 := Tryz.sizeOf20
  v20 := Tryz.zeroValue20
  t21 := Tryz.underlying21
  a21 := Tryz.isAgg21
  z21 := Tryz.sizeOf21
  v21 := Tryz.zeroValue21
  t37 := Tryz.underlying75
  a37 := Tryz.isAgg75
  z37 := Tryz.sizeOf75
  v37 := Tryz.zeroValue75
  t46 := Tryz.underlying213
  a46 := Tryz.isAgg213
  z46 := Tryz.sizeOf213
  v46 := Tryz.zeroValue213
  t51 := Tryz.underlying221
  a51 := Tryz.isAgg221
  z51 := Tryz.sizeOf221
  v51 := Tryz.zeroValue221
  t70 := Tryz.underlying113
  a70 := Tryz.isAgg113
  z70 := Tryz.sizeOf113
  v70 := Tryz.zeroValue113
  t72 := Tryz.underlying115
  a72 := Tryz.isAgg115
  z72 := Tryz.sizeOf115
  v72 := Tryz.zeroValue115
  t75 := Tryz.underlying147
  a75 := Tryz.isAgg147
  z75 := Tryz.sizeOf147
  v75 := Tryz.zeroValue147
  t76 := Tryz.underlying148
  a76 := Tryz.isAgg148
  z76 := Tryz.sizeOf148
  v76 := Tryz.zeroValue148
  t105 := Tryz.underlying167
  a105 := Tryz.isAgg167
  z105 := Tryz.sizeOf167
  v105 := Tryz.zeroValue167
  t119 := Tryz.underlying214
  a119 := Tryz.isAgg214
  z119 := Tryz.sizeOf214
  t127 := Tryz.underlying162
  a127 := Tryz.isAgg162
  z127 := Tryz.sizeOf162
  v127 := Tryz.zeroValue162
  t138 := Tryz.underlying216
  a138 := Tryz.isAgg216
  z138 := Tryz.sizeOf216
  v138 := Tryz.zeroValue216
  t139 := Tryz.underlying217
  a139 := Tryz.isAgg217
  z139 := Tryz.sizeOf217
  v139 := Tryz.zeroValue217
  t146 := Tryz.underlying222
  a146 := Tryz.isAgg222
  z146 := Tryz.sizeOf222
  v146 := Tryz.zeroValue222
  t164 := Tryz.underlying194
  a164 := Tryz.isAgg194
  z164 := Tryz.sizeOf194
  v164 := Tryz.zeroValue194
  g1 := by kernel_rfl
  g3 := by kernel_rfl
  g4 := by kernel_rfl
  t80 := Tryz.underlying112
  a80 := Tryz.isAgg112
  z80 := Tryz.sizeOf112
  v80 := Tryz.zeroValue112
  i0 := by kernel_rfl
  i3 := by kernel_rfl
  i4 := by kernel_rfl
  i5 := by kernel_rfl
  i9 := by kernel_rfl
  i20 := by kernel_rfl
  i21 := by kernel_rfl
  i37 := by kernel_rfl
  i46 := by kernel_rfl
  i51 := by kernel_rfl
  i70 := by kernel_rfl
  i72 := by kernel_rfl
  i75 := by kernel_rfl
  i76 := by kernel_rfl
  i80 := by kernel_rfl
  i105 := by kernel_rfl
  i127 := by kernel_rfl
  i138 := by kernel_rfl
  i139 := by kernel_rfl
  i146 := by kernel_rfl
  i164 := by kernel_rfl
  m1 := by kernel_rfl
  s1_3 := fun w h => Go.Proofs.cell_of_shapedOpen_int (zero := #[.int .i64 0]) (t := 3) h (of_decide_eq_true (by kernel_rfl)) (by kernel_rfl) rfl (by kernel_rfl) (by kernel_rfl) Tryz.underlying3
  m3 := by kernel_rfl
  m4 := by kernel_rfl }
theorem Tryz.Builder_Extra_M154 : Builder.Extra Tryz.prog Tryz.laysM154_ren := {
  sizeBuilder := by kernel_rfl
  liesBuilder := by kernel_rfl
  t5 := Tryz.underlying5
  a5 := Tryz.isAgg5
  z5 := Tryz.sizeOf5
  v5 := Tryz.zeroValue5
  infoByte := by kernel_rfl
  cellsByte := by kernel_rfl
  sizeByte := by kernel_rfl
  neB5 := by decide }
open Go.RowKit Go.Lib in
/-- strings.Replace, old not empty. (LAID: no walk: one application.) -/
theorem Tryz.strings_Replace_shaped (s old new : ByteArray) (n : Int) (w : World) (h : w.ShapedOpen Tryz.prog) (hs : s.size < 4294967281) (h1 : 1 ≤ old.size) (hlen : s.size + Lib.countB s old * new.size ≤ 140737488355328) :
    Calls Tryz.prog 123 #[.string s, .string old, .string new, .int .i64 n] w fun e w' =>
      e = .returned (.string ⟨(Lib.replace s.data.toList old.data.toList new.data.toList n).toArray⟩) ∧ Below w.heap.size w w' := Any.strings_Replace_shaped Tryz.laysM154 Tryz.Builder_Extra_M154 s old new n w h hs h1 hlen
def Tryz.laysM155_ren : Go.Shelf.Ren := ⟨fun | 155 => 58 | 154 => 123 | 138 => 180 | 165 => 153 | 143 => 181 | 166 => 155 | 197 => 182 | 169 => 108 | 195 => 221 | 218 => 222 | 240 => 198 | 241 => 199 | 219 => 223 | 260 => 224 | 276 => 231 | 277 => 232 | 217 => 246 | 225 => 247 | 224 => 248 | 267 => 249 | 266 => 257 | 314 => 258 | n => n, fun | 9 => 9 | 3 => 3 | 4 => 4 | 72 => 115 | 0 => 0 | 76 => 148 | 105 => 167 | 21 => 21 | 5 => 5 | 70 => 113 | 20 => 20 | 37 => 75 | 75 => 147 | 127 => 162 | 164 => 194 | 46 => 213 | 119 => 214 | 139 => 217 | 138 => 216 | 146 => 222 | 51 => 221 | 80 => 112 | n => n, fun | 1 => 1 | 3 => 2 | 4 => 3 | n => n⟩
theorem Tryz.laysM155 : Go.Proofs.LaysM.n155 Tryz.prog Tryz.laysM155_ren := {
  mixed := by kernel_rfl
  f138 := Tryz.func180.trans (congrArg some (by kernel_rfl))
  f143 := Tryz.func181.trans (congrArg some (by kernel_rfl))
  f154 := Tryz.func123.trans (congrArg some (by kernel_rfl))
  f155 := Tryz.func58.trans (congrArg some (by kernel_rfl))
  f165 := Tryz.func153.trans (congrArg some (by kernel_rfl))
  f166 := Tryz.func155.trans (congrArg some (by kernel_rfl))
  f169 := Tryz.func108.trans (congrArg some (by kernel_rfl))
  f195 := Tryz.func221.trans (congrArg some (by kernel_rfl))
  f197 := Tryz.func182.trans (congrArg some (by kernel_rfl))
  f217 := Tryz.func246.trans (congrArg some (by kernel_rfl))
  f218 := Tryz.func222.trans (congrArg some (by kernel_rfl))
  f219 := Tryz.func223.trans (congrArg some (by kernel_rfl))
  f224 := Tryz.func248.trans (congrArg some (by kernel_rfl))
  f225 := Tryz.func247.trans (congrArg some (by kernel_rfl))
  f240 := Tryz.func198.trans (congrArg some (by kernel_rfl))
  f241 := Tryz.func199.trans (congrArg some (by kernel_rfl))
  f260 := Tryz.func224.trans (congrArg some (by kernel_rfl))
  f266 := Tryz.func257.trans (congrArg some (by kernel_rfl))
  f267 := Tryz.func249.trans (congrArg some (by kernel_rfl))
  f276 := Tryz.func231.trans (congrArg some (by kernel_rfl))
  f277 := Tryz.func232.trans (congrArg some (by kernel_rfl))
  f314 := Tryz.func258.trans (congrArg some (by kernel_rfl))
  t0 := Tryz.underlying0
  a0 := Tryz.isAgg0
  z0 := Tryz.sizeOf0
  v0 := Tryz.zeroValue0
  t3 := Tryz.underlying3
  a3 := Tryz.isAgg3
  z3 := Tryz.sizeOf3
  v3 := Tryz.zeroValue3
  t4 := Tryz.underlying4
  a4 := Tryz.isAgg4
  z4 := Tryz.sizeOf4
  v4 := Tryz.zeroValue4
  t5 := Tryz.underlying5
  a5 := Tryz.isAgg5
  z5 := Tryz.sizeOf5
  v5 := Tryz.zeroValue5
  t9 := Tryz.underlying9
  a9 := Tryz.isAgg9
  z9 := Tryz.sizeOf9
  v9 := Tryz.zeroValue9
  t20 := Tryz.underlying20
  a20 := Tryz.isAgg20
  z20 := Tryz.sizeOf20
  v20 := Tryz.zeroValue20
  t21 := Tryz.underlying21
  a21 := Tryz.isAgg21
  z21 := Tryz.sizeOf21
  v21 := Tryz.zeroValue21
  t37 := Tryz.underlying75
  a37 := Tryz.isAgg75
  z37 := Tryz.sizeOf75
  v37 := Tryz.zeroValue75
  t46 := Tryz.underlying213
  a46 := Tryz.isAgg213
  z46 := Tryz.sizeOf213
  v46 := Tryz.zeroValue213
  t51 := Tryz.underlying221
  a51 := Tryz.isAgg221
  z51 := Tryz.sizeOf221
  v51 := Tryz.zeroValue221
  t70 := Tryz.underlying113
  a70 := Tryz.isAgg113
  z70 := Tryz.sizeOf113
  v70 := Tryz.zeroValue113
  t72 := Tryz.underlying115
  a72 := Tryz.isAgg115
  z72 := Tryz.sizeOf115
  v72 := Tryz.zeroValue115
  t75 := Tryz.underlying147
  a75 := Tryz.isAgg147
  z75 := Tryz.sizeOf147
  v75 := Tryz.zeroValue147
  t76 := Tryz.underlying148
  a76 := Tryz.isAgg148
  z76 := Tryz.sizeOf148
  v76 := Tryz.zeroValue148
  t105 := Tryz.underlying167
  a105 := Tryz.isAgg167
  z105 := Tryz.sizeOf167
  v105 := Tryz.zeroValue167
  t119 := Tryz.underlying214
  a119 := Tryz.isAgg214
  z119 := Tryz.sizeOf214
  t127 := Tryz.underlying162
  a127 := Tryz.isAgg162
  z127 := Tryz.sizeOf162
  v127 := Tryz.zeroValue162
  t138 := Tryz.underlying216
  a138 := Tryz.isAgg216
  z138 := Tryz.sizeOf216
  v138 := Tryz.zeroValue216
  t139 := Tryz.underlying217
  a139 := Tryz.isAgg217
  z139 := Tryz.sizeOf217
  v139 := Tryz.zeroValue217
  t146 := Tryz.underlying222
  a146 := Tryz.isAgg222
  z146 := Tryz.sizeOf222
  v146 := Tryz.zeroValue222
  t164 := Tryz.underlying194
  a164 := Tryz.isAgg194
  z164 := Tryz.sizeOf194
  v164 := Tryz.zeroValue194
  g1 := by kernel_rfl
  g3 := by kernel_rfl
  g4 := by kernel_rfl
  t80 := Tryz.underlying112
  a80 := Tryz.isAgg112
  z80 := Tryz.sizeOf112
  v80 := Tryz.zeroValue112
  i0 := by kernel_rfl
  i3 := by kernel_rfl
  i4 := by kernel_rfl
  i5 := by kernel_rfl
  i9 := by kernel_rfl
  i20 := by kernel_rfl
  i21 := by kernel_rfl
  i37 := by kernel_rfl
  i46 := by kernel_rfl
  i51 := by kernel_rfl
  i70 := by kernel_rfl
  i72 := by kernel_rfl
  i75 := by kernel_rfl
  i76 := by kernel_rfl
  i80 := by kernel_rfl
  i105 := by kernel_rfl
  i127 := by kernel_rfl
  i138 := by kernel_rfl
  i139 := by kernel_rfl
  i146 := by kernel_rfl
  i164 := by kernel_rfl
  m1 := by kernel_rfl
  s1_3 := fun w h => Go.Proofs.cell_of_shapedOpen_int (zero := #[.int .i64 0]) (t := 3) h (of_decide_eq_true (by kernel_rfl)) (by kernel_rfl) rfl (by kernel_rfl) (by kernel_rfl) Tryz.underlying3
  m3 := by kernel_rfl
  m4 := by kernel_rfl }
theorem Tryz.Builder_Extra_M155 : Builder.Extra Tryz.prog Tryz.laysM155_ren := {
  sizeBuilder := by kernel_rfl
  liesBuilder := by kernel_rfl
  t5 := Tryz.underlying5
  a5 := Tryz.isAgg5
  z5 := Tryz.sizeOf5
  v5 := Tryz.zeroValue5
  infoByte := by kernel_rfl
  cellsByte := by kernel_rfl
  sizeByte := by kernel_rfl
  neB5 := by decide }
open Go.RowKit Go.Lib in
/-- strings.ReplaceAll, old not empty. (LAID: no walk: one application.) -/
theorem Tryz.strings_ReplaceAll_shaped (s old new : ByteArray) (w : World) (h : w.ShapedOpen Tryz.prog) (hs : s.size < 4294967281) (h1 : 1 ≤ old.size) (hlen : s.size + Lib.countB s old * new.size ≤ 140737488355328) :
    Calls Tryz.prog 58 #[.string s, .string old, .string new] w fun e w' =>
      e = .returned (.string ⟨(Lib.replaceAll s.data.toList old.data.toList new.data.toList).toArray⟩) ∧ Below w.heap.size w w' := Any.strings_ReplaceAll_shaped Tryz.laysM155 Tryz.Builder_Extra_M155 s old new w h hs h1 hlen
def Tryz.lays197_ren : Go.Shelf.Ren := ⟨fun | 197 => 182 | 260 => 224 | n => n, fun | 9 => 9 | 21 => 21 | 3 => 3 | 4 => 4 | 5 => 5 | 105 => 167 | 119 => 214 | 0 => 0 | 46 => 213 | 139 => 217 | 138 => 216 | n => n, fun | 3 => 2 | 4 => 3 | n => n⟩
theorem Tryz.lays197 : Go.Proofs.Lays.n197 Tryz.prog Tryz.lays197_ren := {
  mixed := by kernel_rfl
  f197 := Tryz.func182.trans (congrArg some (by kernel_rfl))
  f260 := Tryz.func224.trans (congrArg some (by kernel_rfl))
  t0 := Tryz.underlying0
  a0 := Tryz.isAgg0
  z0 := Tryz.sizeOf0
  v0 := Tryz.zeroValue0
  t3 := Tryz.underlying3
  a3 := Tryz.isAgg3
  z3 := Tryz.sizeOf3
  v3 := Tryz.zeroValue3
  t4 := Tryz.underlying4
  a4 := Tryz.isAgg4
  z4 := Tryz.sizeOf4
  v4 := Tryz.zeroValue4
  t5 := Tryz.underlying5
  a5 := Tryz.isAgg5
  z5 := Tryz.sizeOf5
  v5 := Tryz.zeroValue5
  t9 := Tryz.underlying9
  a9 := Tryz.isAgg9
  z9 := Tryz.sizeOf9
  v9 := Tryz.zeroValue9
  t21 := Tryz.underlying21
  a21 := Tryz.isAgg21
  z21 := Tryz.sizeOf21
  v21 := Tryz.zeroValue21
  t46 := Tryz.underlying213
  a46 := Tryz.isAgg213
  z46 := Tryz.sizeOf213
  v46 := Tryz.zeroValue213
  t105 := Tryz.underlying167
  a105 := Tryz.isAgg167
  z105 := Tryz.sizeOf167
  v105 := Tryz.zeroValue167
  t119 := Tryz.underlying214
  a119 := Tryz.isAgg214
  z119 := Tryz.sizeOf214
  t138 := Tryz.underlying216
  a138 := Tryz.isAgg216
  z138 := Tryz.sizeOf216
  v138 := Tryz.zeroValue216
  t139 := Tryz.underlying217
  a139 := Tryz.isAgg217
  z139 := Tryz.sizeOf217
  v139 := Tryz.zeroValue217
  g3 := by kernel_rfl
  g4 := by kernel_rfl }
open Go.RowKit Go.Lib in
/-- unicode/utf8.DecodeRuneInString: "DecodeRuneInString is like DecodeRune but its input is a string.": ("DecodeRune unpacks the first UTF-8 encoding in p and returns the rune and its width in bytes."): WHERE s BEGINS WITH AN ASCII BYTE x: (x, 1). (LAID: no walk: one application.) -/
theorem Tryz.utf8_DecodeRuneInString_ascii (s : ByteArray) (x : UInt8) (w : World) (h0 : s.data.toList[0]? = some x) (hx : x.toNat < 128) :
    Calls Tryz.prog 182 #[.string s] w fun e w' => e = .returned (.tuple #[.int .i32 x.toNat, .int .i64 1]) ∧ w' = w := Any.utf8_DecodeRuneInString_ascii Tryz.lays197 s x w h0 hx
def Tryz.lays152_ren : Go.Shelf.Ren := ⟨fun | 152 => 250 | 137 => 254 | 119 => 259 | 224 => 248 | 225 => 247 | 217 => 246 | 266 => 257 | n => n, fun | 9 => 9 | 21 => 21 | 3 => 3 | 4 => 4 | 5 => 5 | 0 => 0 | 46 => 213 | n => n, fun | n => n⟩
theorem Tryz.lays152 : Go.Proofs.Lays.n152 Tryz.prog Tryz.lays152_ren := {
  mixed := by kernel_rfl
  f119 := Tryz.func259.trans (congrArg some (by kernel_rfl))
  f137 := Tryz.func254.trans (congrArg some (by kernel_rfl))
  f152 := Tryz.func250.trans (congrArg some (by kernel_rfl))
  f217 := Tryz.func246.trans (congrArg some (by kernel_rfl))
  f224 := Tryz.func248.trans (congrArg some (by kernel_rfl))
  f225 := Tryz.func247.trans (congrArg some (by kernel_rfl))
  f266 := Tryz.func257.trans (congrArg some (by kernel_rfl))
  t0 := Tryz.underlying0
  a0 := Tryz.isAgg0
  z0 := Tryz.sizeOf0
  v0 := Tryz.zeroValue0
  t3 := Tryz.underlying3
  a3 := Tryz.isAgg3
  z3 := Tryz.sizeOf3
  v3 := Tryz.zeroValue3
  t4 := Tryz.underlying4
  a4 := Tryz.isAgg4
  z4 := Tryz.sizeOf4
  v4 := Tryz.zeroValue4
  t5 := Tryz.underlying5
  a5 := Tryz.isAgg5
  z5 := Tryz.sizeOf5
  v5 := Tryz.zeroValue5
  t9 := Tryz.underlying9
  a9 := Tryz.isAgg9
  z9 := Tryz.sizeOf9
  v9 := Tryz.zeroValue9
  t21 := Tryz.underlying21
  a21 := Tryz.isAgg21
  z21 := Tryz.sizeOf21
  v21 := Tryz.zeroValue21
  t46 := Tryz.underlying213
  a46 := Tryz.isAgg213
  z46 := Tryz.sizeOf213
  v46 := Tryz.zeroValue213 }
open Go.RowKit Go.Lib in
theorem Tryz.strings_IndexRune_ascii (s : ByteArray) (r : Int) (w : World) (h0 : 0 ≤ r) (h1 : r < 128) :
    Calls Tryz.prog 250 #[.string s, .int .i32 r] w fun e w' => e = .returned (.int .i64 (Lib.indexByte s.data.toList r.toNat.toUInt8)) ∧ w' = w := Any.strings_IndexRune_ascii Tryz.lays152 s r w h0 h1
def Tryz.lays151_ren : Go.Shelf.Ren := ⟨fun | 151 => 226 | 152 => 250 | 137 => 254 | 119 => 259 | 224 => 248 | 225 => 247 | 217 => 246 | 266 => 257 | n => n, fun | 9 => 9 | 21 => 21 | 4 => 4 | 3 => 3 | 5 => 5 | 0 => 0 | 46 => 213 | n => n, fun | n => n⟩
theorem Tryz.lays151 : Go.Proofs.Lays.n151 Tryz.prog Tryz.lays151_ren := {
  mixed := by kernel_rfl
  f119 := Tryz.func259.trans (congrArg some (by kernel_rfl))
  f137 := Tryz.func254.trans (congrArg some (by kernel_rfl))
  f151 := Tryz.func226.trans (congrArg some (by kernel_rfl))
  f152 := Tryz.func250.trans (congrArg some (by kernel_rfl))
  f217 := Tryz.func246.trans (congrArg some (by kernel_rfl))
  f224 := Tryz.func248.trans (congrArg some (by kernel_rfl))
  f225 := Tryz.func247.trans (congrArg some (by kernel_rfl))
  f266 := Tryz.func257.trans (congrArg some (by kernel_rfl))
  t0 := Tryz.underlying0
  a0 := Tryz.isAgg0
  z0 := Tryz.sizeOf0
  v0 := Tryz.zeroValue0
  t3 := Tryz.underlying3
  a3 := Tryz.isAgg3
  z3 := Tryz.sizeOf3
  v3 := Tryz.zeroValue3
  t4 := Tryz.underlying4
  a4 := Tryz.isAgg4
  z4 := Tryz.sizeOf4
  v4 := Tryz.zeroValue4
  t5 := Tryz.underlying5
  a5 := Tryz.isAgg5
  z5 := Tryz.sizeOf5
  v5 := Tryz.zeroValue5
  t9 := Tryz.underlying9
  a9 := Tryz.isAgg9
  z9 := Tryz.sizeOf9
  v9 := Tryz.zeroValue9
  t21 := Tryz.underlying21
  a21 := Tryz.isAgg21
  z21 := Tryz.sizeOf21
  v21 := Tryz.zeroValue21
  t46 := Tryz.underlying213
  a46 := Tryz.isAgg213
  z46 := Tryz.sizeOf213
  v46 := Tryz.zeroValue213 }
open Go.RowKit Go.Lib in
theorem Tryz.strings_ContainsRune_ascii (s : ByteArray) (r : Int) (w : World) (h0 : 0 ≤ r) (h1 : r < 128) :
    Calls Tryz.prog 226 #[.string s, .int .i32 r] w fun e w' => e = .returned (.bool (decide (0 ≤ Lib.indexByte s.data.toList r.toNat.toUInt8))) ∧ w' = w := Any.strings_ContainsRune_ascii Tryz.lays151 s r w h0 h1
open Go.RowKit Go.Lib in
theorem Tryz.utf8_RuneCountInString_ascii (s : ByteArray) (w : World) (hs : s.size < 4294967281) (hascii : ∀ (j : Nat) b, s.data.toList[j]? = some b → b.toNat < 128) :
    Calls Tryz.prog 221 #[.string s] w fun e w' => e = .returned (.int .i64 s.size) ∧ w' = w.iter s s.size := Any.utf8_RuneCountInString_ascii Tryz.lays195 s w hs hascii
def Tryz.lays260_ren : Go.Shelf.Ren := ⟨fun | 260 => 224 | n => n, fun | 9 => 9 | 21 => 21 | 3 => 3 | 4 => 4 | 5 => 5 | 119 => 214 | 0 => 0 | 46 => 213 | 139 => 217 | 138 => 216 | n => n, fun | 3 => 2 | 4 => 3 | n => n⟩
theorem Tryz.lays260 : Go.Proofs.Lays.n260 Tryz.prog Tryz.lays260_ren := {
  mixed := by kernel_rfl
  f260 := Tryz.func224.trans (congrArg some (by kernel_rfl))
  t0 := Tryz.underlying0
  a0 := Tryz.isAgg0
  z0 := Tryz.sizeOf0
  v0 := Tryz.zeroValue0
  t3 := Tryz.underlying3
  a3 := Tryz.isAgg3
  z3 := Tryz.sizeOf3
  v3 := Tryz.zeroValue3
  t4 := Tryz.underlying4
  a4 := Tryz.isAgg4
  z4 := Tryz.sizeOf4
  v4 := Tryz.zeroValue4
  t5 := Tryz.underlying5
  a5 := Tryz.isAgg5
  z5 := Tryz.sizeOf5
  v5 := Tryz.zeroValue5
  t9 := Tryz.underlying9
  a9 := Tryz.isAgg9
  z9 := Tryz.sizeOf9
  v9 := Tryz.zeroValue9
  t21 := Tryz.underlying21
  a21 := Tryz.isAgg21
  z21 := Tryz.sizeOf21
  v21 := Tryz.zeroValue21
  t46 := Tryz.underlying213
  a46 := Tryz.isAgg213
  z46 := Tryz.sizeOf213
  v46 := Tryz.zeroValue213
  t119 := Tryz.underlying214
  a119 := Tryz.isAgg214
  z119 := Tryz.sizeOf214
  t138 := Tryz.underlying216
  a138 := Tryz.isAgg216
  z138 := Tryz.sizeOf216
  v138 := Tryz.zeroValue216
  t139 := Tryz.underlying217
  a139 := Tryz.isAgg217
  z139 := Tryz.sizeOf217
  v139 := Tryz.zeroValue217
  g3 := by kernel_rfl
  g4 := by kernel_rfl }
open Go.RowKit Go.Lib in
theorem Tryz.utf8_decodeRuneInStringSlow (s : ByteArray) (w : World) (hT : Lib.Utf8Tabs 2 3 w) :
    Calls Tryz.prog 224 #[.string s] w fun e w' => e = .returned (.tuple #[.int .i32 (Lib.decodeGo s).1, .int .i64 (Lib.decodeGo s).2]) ∧ Below w.heap.size w w' := Any.utf8_decodeRuneInStringSlow Tryz.lays260 s w hT
open Go.RowKit Go.Lib in
/-- **unicode/utf8.DecodeRuneInString AT EVERY STRING.** (LAID: no walk: one application.) -/
theorem Tryz.utf8_DecodeRuneInString (s : ByteArray) (w : World) (hT : Lib.Utf8Tabs 2 3 w) :
    Calls Tryz.prog 182 #[.string s] w fun e w' => e = .returned (.tuple #[.int .i32 (Lib.decodeGo s).1, .int .i64 (Lib.decodeGo s).2]) ∧ Below w.heap.size w w' := Any.utf8_DecodeRuneInString Tryz.lays197 s w hT
open Go.RowKit Go.Lib in
theorem Tryz.strings_indexFunc_grows (g : Nat) (lb : Array Value) (eg : ∀ args w, (callFunc g args).run Tryz.prog w = .ok (.enter g args) w) (p : Nat → Bool) (truth : Bool) (s : ByteArray) (w : World) (hp : PredGrows Tryz.prog g lb p w) :
    Calls Tryz.prog 219 #[.string s, .func (.func g) #[] lb, .bool truth] w fun e w' => e = .returned (.int .i64 (Lib.idxFunc p truth s)) ∧ Below w.heap.size w w' := Any.strings_indexFunc_grows Tryz.lays315 g lb eg p truth s w hp
open Go.RowKit Go.Lib in
theorem Tryz.strings_IndexFunc_grows (g : Nat) (lb : Array Value) (eg : ∀ args w, (callFunc g args).run Tryz.prog w = .ok (.enter g args) w) (p : Nat → Bool) (s : ByteArray) (w : World) (hp : PredGrows Tryz.prog g lb p w) :
    Calls Tryz.prog 177 #[.string s, .func (.func g) #[] lb] w fun e w' => e = .returned (.int .i64 (Lib.idxFunc p true s)) ∧ Below w.heap.size w w' := Any.strings_IndexFunc_grows Tryz.laysGw15 g lb eg p s w hp
def Tryz.laysPa45_ren : Go.Shelf.Ren := ⟨fun | 45 => 260 | n => n, fun | 9 => 9 | 5 => 5 | 3 => 3 | 4 => 4 | n => n, fun | n => n⟩
theorem Tryz.laysPa45 : Go.Proofs.Lays.p45 Tryz.prog Tryz.laysPa45_ren := {
  mixed := by kernel_rfl
  f45 := Tryz.func260.trans (congrArg some (by kernel_rfl))
  t3 := Tryz.underlying3
  a3 := Tryz.isAgg3
  z3 := Tryz.sizeOf3
  v3 := Tryz.zeroValue3
  t4 := Tryz.underlying4
  a4 := Tryz.isAgg4
  z4 := Tryz.sizeOf4
  v4 := Tryz.zeroValue4
  t5 := Tryz.underlying5
  a5 := Tryz.isAgg5
  z5 := Tryz.sizeOf5
  v5 := Tryz.zeroValue5
  t9 := Tryz.underlying9
  a9 := Tryz.isAgg9
  z9 := Tryz.sizeOf9
  v9 := Tryz.zeroValue9 }
open Go.RowKit Go.Lib in
/-- internal/bytealg.LastIndexByteString (what strings.LastIndexByte calls: "LastIndexByte returns the index of the last instance of c in s, or -1 if c is not present in s."): IT RETURNS 'Pa.lastIndexByte s c'; the world is as it was. (LAID: no walk: one application.) -/
theorem Tryz.bytealg_LastIndexByteString (s : ByteArray) (c : UInt8) (w : World) (hs : s.size ≤ 9223372036854775807) :
    Calls Tryz.prog 260 #[.string s, .int .u8 c.toNat] w fun e w' => e = .returned (.int .i64 (Pa.lastIndexByte s.data.toList c)) ∧ w' = w := Any.bytealg_LastIndexByteString Tryz.laysPa45 s c w hs
end Go.Proofs
