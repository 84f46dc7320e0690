/-
  Small lemmas on worlds: what lies below stays as it was, one step after the other.
  The table of the encodings, and what its rows say. No program in sight.
  A cursor in memory: its two cells, in a block that may hold more.
  What a numeric reference stands for, as plain numbers. No program in sight.
-/
import Derived.WalkKit
import Derived.Handy
import Derived.WalkLawsBesides
import Derived.WalkSpells
import Derived.Lib.Hide
import Derived.Deep.QuietTactic
import Derived.BigQuiet
import Derived.WalkSmall
namespace Go.Proofs.YtnfccckodgknjaaGreatDoor
open Go.RowKit

theorem bcell {W w1 : World} (hb : Below W.heap.size W w1) : (∀ b o, b < W.heap.size → w1.cell? ⟨b, o, none⟩ = W.cell? ⟨b, o, none⟩) ∧ (∀ b o, b < W.heap.size → w1.frozen? ⟨b, o, none⟩ = W.frozen? ⟨b, o, none⟩) :=
  ⟨fun b o h => hb.cell (p := ⟨b, o, none⟩) h, fun b o h => hb.frozen (p := ⟨b, o, none⟩) h⟩
theorem below_next {w W w1 : World} (h : Below w.heap.size w W) (hb : Below W.heap.size W w1) : Below w.heap.size w w1 := h.trans (hb.mono h.size)
theorem below_alloc {w W : World} (h : Below w.heap.size w W) (o : Obj) : Below w.heap.size w (W.alloc o) := h.alloc h.size o
theorem mem_byte (s : ByteArray) (k : Nat) (h : k < s.size) : s[k] ∈ s.data.toList := Array.getElem_mem_toList (xs := s.data) h
theorem ret_bool {a b : Bool} (h : a = b) : Ending.returned (.bool a) = .returned (.bool b) := by rw [h]
theorem ret_int {k : IntKind} {a b : Int} (h : a = b) : Ending.returned (.int k a) = .returned (.int k b) := by rw [h]
theorem ret_str {a b : ByteArray} (h : a = b) : Ending.returned (.string a) = .returned (.string b) := by rw [h]
end Go.Proofs.YtnfccckodgknjaaGreatDoor

namespace Go.Proofs.YtnfccckodgknjaaGreatDoor
open Go.RowKit

def encT : List (Int × Int × List (Int × Int)) :=
  [(0, 127, []), (194, 223, [(128, 191)]), (224, 224, [(160, 191), (128, 191)]), (225, 236, [(128, 191), (128, 191)]), (237, 237, [(128, 159), (128, 191)]), (238, 239, [(128, 191), (128, 191)]),
   (240, 240, [(144, 191), (128, 191), (128, 191)]), (241, 243, [(128, 191), (128, 191), (128, 191)]), (244, 244, [(128, 143), (128, 191), (128, 191)])]
def tLo (k : Nat) : Int := (encT.getD k (0, 0, [])).1
def tHi (k : Nat) : Int := (encT.getD k (0, 0, [])).2.1
def tRest (k : Nat) : List (Int × Int) := (encT.getD k (0, 0, [])).2.2

def inB (lo hi b : Int) : Bool := decide (lo ≤ b) && decide (b ≤ hi)

def measRest : List (Int × Int) → List UInt8 → Nat → Nat × Bool
  | [], _, n => (n, true)
  | _ :: _, [], n => (n, false)
  | (lo, hi) :: rs, b :: t, n => if inB lo hi b.toNat then measRest rs t (n + 1) else (n, false)

def measTab : List (Int × Int × List (Int × Int)) → UInt8 → List UInt8 → Nat × Bool
  | [], _, _ => (1, false)
  | (lo, hi, rs) :: es, b, t => if inB lo hi b.toNat then measRest rs t 1 else measTab es b t

/-- Block k is a row of type t. -/
def RowOf (w : World) (k : Nat) (t : TypeId) : Prop := ∃ c fz, w.heap[k]? = some (.cells c t fz)

/-- The table lies in block T; it and its rows are blocks from n on. -/
structure TabW (n : Nat) (w : World) (T : Nat) : Prop where
  lo : ∀ k, k < 9 → w.cell? ⟨T, k * 3, none⟩ = some (.int .u8 (tLo k))
  hi : ∀ k, k < 9 → w.cell? ⟨T, k * 3 + 1, none⟩ = some (.int .u8 (tHi k))
  rs : ∀ k, k < 9 → ∃ a, w.cell? ⟨T, k * 3 + 2, none⟩ = some (.slice a (tRest k).length (tRest k).length) ∧
    ∀ j, j < (tRest k).length → ∃ R, a = some ⟨R, 0, none⟩ ∧ w.cell? ⟨R, j * 2, none⟩ = some (.int .u8 ((tRest k).getD j (0, 0)).1) ∧ w.cell? ⟨R, j * 2 + 1, none⟩ = some (.int .u8 ((tRest k).getD j (0, 0)).2) ∧ n ≤ R ∧ RowOf w R 198
  at_ : n ≤ T
  row : RowOf w T 201

/-- Every block of cells but B, and but rows of bytes, stands as it stood. -/
structure CellsKept (B : Nat) (w w' : World) : Prop where
  size : w.heap.size ≤ w'.heap.size
  same : ∀ (k : Nat) (c : Array Value) (t : TypeId) (fz : Nat × Nat), w.heap[k]? = some (.cells c t fz) → k ≠ B → t ≠ 5 → w'.heap[k]? = some (.cells c t fz)

theorem CellsKept.refl (B : Nat) (w : World) : CellsKept B w w := ⟨Nat.le_refl _, fun _ _ _ _ h _ _ => h⟩
theorem CellsKept.trans {B : Nat} {a b c : World} (h : CellsKept B a b) (k : CellsKept B b c) : CellsKept B a c :=
  ⟨Nat.le_trans h.size k.size, fun i x t fz hi hb ht => k.same i x t fz (h.same i x t fz hi hb ht) hb ht⟩
theorem CellsKept.below {B : Nat} {w w' : World} (h : Below w.heap.size w w') : CellsKept B w w' :=
  ⟨h.size, fun k _ _ _ hk _ _ => (h.block k (Array.getElem?_eq_some_iff.1 hk).1).trans hk⟩
theorem CellsKept.cell {B : Nat} {w w' : World} (h : CellsKept B w w') {k : Nat} {t : TypeId} (hr : RowOf w k t) (ht : t ≠ 5) (hk : k ≠ B) (o : Nat) : w'.cell? ⟨k, o, none⟩ = w.cell? ⟨k, o, none⟩ := by
  obtain ⟨c, fz, hc⟩ := hr
  have h1 := h.same k c t fz hc hk ht
  exact World.cell?_of_block (w := w) (a := ⟨k, o, none⟩) (h1.trans hc.symm)
theorem CellsKept.row {B : Nat} {w w' : World} (h : CellsKept B w w') {k : Nat} {t : TypeId} (hr : RowOf w k t) (ht : t ≠ 5) (hk : k ≠ B) : RowOf w' k t := by
  obtain ⟨c, fz, hc⟩ := hr
  exact ⟨c, fz, h.same k c t fz hc hk ht⟩
theorem RowOf.kept {w w' : World} {k : Nat} {t : TypeId} (h : RowOf w k t) (hb : Below w.heap.size w w') : RowOf w' k t := by
  obtain ⟨c, fz, hc⟩ := h
  exact ⟨c, fz, (hb.block k (Array.getElem?_eq_some_iff.1 hc).1).trans hc⟩

theorem TabW.kept {n : Nat} {w w' : World} {T : Nat} (h : TabW n w T) (hb : Below w.heap.size w w') : TabW n w' T := by
  have key : ∀ {a : Addr} {v : Value}, w.cell? a = some v → w'.cell? a = some v := fun {a v} hc => (hb.cell (World.block_lt_of_cell? _ _ hc)).trans hc
  refine ⟨fun k hk => key (h.lo k hk), fun k hk => key (h.hi k hk), fun k hk => ?_, h.at_, h.row.kept hb⟩
  obtain ⟨a, h1, h2⟩ := h.rs k hk
  refine ⟨a, key h1, fun j hj => ?_⟩
  obtain ⟨R, h3, h4, h5, h6, h7⟩ := h2 j hj
  exact ⟨R, h3, key h4, key h5, h6, h7.kept hb⟩

theorem TabW.cells {n : Nat} {w w' : World} {T B : Nat} (h : TabW n w T) (hB : B < n) (hc : CellsKept B w w') : TabW n w' T := by
  have hT : T ≠ B := by have := h.at_; omega
  refine ⟨fun k hk => ?_, fun k hk => ?_, fun k hk => ?_, h.at_, hc.row h.row (by decide) hT⟩
  · rw [hc.cell h.row (by decide) hT]; exact h.lo k hk
  · rw [hc.cell h.row (by decide) hT]; exact h.hi k hk
  · obtain ⟨a, h1, h2⟩ := h.rs k hk
    refine ⟨a, by rw [hc.cell h.row (by decide) hT]; exact h1, fun j hj => ?_⟩
    obtain ⟨R, h3, h4, h5, h6, h7⟩ := h2 j hj
    have hR : R ≠ B := by omega
    exact ⟨R, h3, by rw [hc.cell h7 (by decide) hR]; exact h4, by rw [hc.cell h7 (by decide) hR]; exact h5, h6, hc.row h7 (by decide) hR⟩

theorem tLo_bd (k : Nat) (hk : k < 9) : 0 ≤ tLo k ∧ tLo k ≤ 255 ∧ 0 ≤ tHi k ∧ tHi k ≤ 255 ∧ (tRest k).length ≤ 3 := by
  have key : ∀ k : Fin 9, 0 ≤ tLo k ∧ tLo k ≤ 255 ∧ 0 ≤ tHi k ∧ tHi k ≤ 255 ∧ (tRest k).length ≤ 3 := by decide
  exact key ⟨k, hk⟩

theorem drop_enc (k : Nat) (hk : k < 9) : encT.drop k = (tLo k, tHi k, tRest k) :: encT.drop (k + 1) := by
  have key : ∀ k : Fin 9, encT.drop k = (tLo k, tHi k, tRest k) :: encT.drop (k + 1) := by decide
  exact key ⟨k, hk⟩

theorem measRest_end (R : List (Int × Int)) (j n : Nat) (hj : j < R.length) : measRest (R.drop j) [] n = (n, false) := by
  rw [List.drop_eq_getElem_cons hj]; rfl
theorem measRest_done (R : List (Int × Int)) (j n : Nat) (l : List UInt8) (hj : ¬ j < R.length) : measRest (R.drop j) l n = (n, true) := by
  rw [List.drop_eq_nil_of_le (by omega)]; cases l <;> rfl
theorem measRest_no (R : List (Int × Int)) (j n : Nat) (hj : j < R.length) (b : UInt8) (t : List UInt8) (h : inB (R.getD j (0, 0)).1 (R.getD j (0, 0)).2 b.toNat = false) : measRest (R.drop j) (b :: t) n = (n, false) := by
  have e : R.getD j (0, 0) = R[j] := by simp [List.getD, hj]
  rw [e] at h
  rw [List.drop_eq_getElem_cons hj]
  show measRest ((R[j].1, R[j].2) :: _) (b :: t) n = _
  unfold measRest
  rw [h, if_neg (by simp)]
theorem measRest_yes (R : List (Int × Int)) (j n : Nat) (hj : j < R.length) (b : UInt8) (t : List UInt8) (h : inB (R.getD j (0, 0)).1 (R.getD j (0, 0)).2 b.toNat = true) : measRest (R.drop j) (b :: t) n = measRest (R.drop (j + 1)) t (n + 1) := by
  have e : R.getD j (0, 0) = R[j] := by simp [List.getD, hj]
  rw [e] at h
  rw [List.drop_eq_getElem_cons hj]
  show measRest ((R[j].1, R[j].2) :: _) (b :: t) n = _
  rw [measRest, h, if_pos rfl]
theorem drop_byte (s : ByteArray) (j : Nat) (h : j < s.size) : s.data.toList.drop j = s[j] :: s.data.toList.drop (j + 1) := by
  rw [List.drop_eq_getElem_cons (by simpa using h)]; rfl
theorem drop_end (s : ByteArray) (j : Nat) (h : s.size ≤ j) : s.data.toList.drop j = [] := List.drop_eq_nil_of_le (by rw [Array.length_toList]; exact h)
end Go.Proofs.YtnfccckodgknjaaGreatDoor

namespace Go.Proofs.YtnfccckodgknjaaGreatDoor
open Go.RowKit

/-- Block b holds the cells c, the first two of which are a cursor over s at k. -/
structure At (w : World) (b : Nat) (c : Array Value) (T : TypeId) (s : ByteArray) (k : Nat) : Prop where
  blk : w.heap[b]? = some (.cells c T (0, 0))
  c0 : c[0]? = some (.string s)
  c1 : c[1]? = some (.int .i64 k)
def mv (c : Array Value) (k : Nat) : Array Value := c.setIfInBounds 1 (.int .i64 k)

theorem At.lt {w : World} {b : Nat} {c : Array Value} {T : TypeId} {s : ByteArray} {k : Nat} (h : At w b c T s k) : b < w.heap.size := (Array.getElem?_eq_some_iff.1 h.blk).1
theorem At.cell {w : World} {b : Nat} {c : Array Value} {T : TypeId} {s : ByteArray} {k : Nat} (h : At w b c T s k) (o : Nat) : w.cell? ⟨b, o, none⟩ = c[o]? := by simp [World.cell?, h.blk]
theorem At.cell0 {w : World} {b : Nat} {c : Array Value} {T : TypeId} {s : ByteArray} {k : Nat} (h : At w b c T s k) : w.cell? ⟨b, 0, none⟩ = some (.string s) := (h.cell 0).trans h.c0
theorem At.cell1 {w : World} {b : Nat} {c : Array Value} {T : TypeId} {s : ByteArray} {k : Nat} (h : At w b c T s k) : w.cell? ⟨b, 1, none⟩ = some (.int .i64 k) := (h.cell 1).trans h.c1
theorem At.frozen {w : World} {b : Nat} {c : Array Value} {T : TypeId} {s : ByteArray} {k : Nat} (h : At w b c T s k) (o : Nat) : w.frozen? ⟨b, o, none⟩ = false := by simp [World.frozen?, h.blk]
theorem At.same {w w' : World} {b : Nat} {c : Array Value} {T : TypeId} {s : ByteArray} {k : Nat} (h : At w b c T s k) (e : w'.heap[b]? = w.heap[b]?) : At w' b c T s k := ⟨e.trans h.blk, h.c0, h.c1⟩
theorem At.below {w w' : World} {b : Nat} {c : Array Value} {T : TypeId} {s : ByteArray} {k : Nat} (h : At w b c T s k) (hb : Below w.heap.size w w') : At w' b c T s k := h.same (hb.block b h.lt)
theorem heap_set {w : World} {b : Nat} {c : Array Value} {T : TypeId} (h : w.heap[b]? = some (.cells c T (0, 0))) (o : Nat) (v : Value) : (w.setCell ⟨b, o, none⟩ v).heap[b]? = some (.cells (c.setIfInBounds o v) T (0, 0)) := by
  show (w.heap.modify b _)[b]? = _
  rw [Array.getElem?_modify, if_pos rfl, h]
  rfl
theorem At.set {w : World} {b : Nat} {c : Array Value} {T : TypeId} {s : ByteArray} {k : Nat} (h : At w b c T s k) (k' : Nat) : At (w.setCell ⟨b, 1, none⟩ (.int .i64 k')) b (mv c k') T s k' := by
  refine ⟨heap_set h.blk 1 _, ?_, ?_⟩
  · unfold mv
    rw [Array.getElem?_setIfInBounds_ne (by decide)]
    exact h.c0
  · unfold mv
    have hlt : 1 < c.size := (Array.getElem?_eq_some_iff.1 h.c1).1
    rw [Array.getElem?_setIfInBounds_self, if_pos hlt]
theorem mv_mv (c : Array Value) (k j : Nat) : mv (mv c k) j = mv c j := by simp [mv]
theorem mv_two (s : ByteArray) (x : Value) (k : Nat) : mv #[.string s, x] k = #[.string s, .int .i64 k] := rfl

/-- Nothing but block b has turned. -/
abbrev But (b : Nat) (w w' : World) : Prop := w.grownBy w' (some b)
theorem But.of_below {b : Nat} {w w' : World} (h : Below w.heap.size w w') : But b w w' := ⟨h.os, h.tape, h.output, h.size, fun j hj _ => h.block j hj⟩
theorem But.set (w : World) (b o : Nat) (v : Value) : But b w (w.setCell ⟨b, o, none⟩ v) := ⟨rfl, rfl, rfl, by simp [World.setCell], fun j _ hj => Below.heap_setCell _ _ _ _ (fun e => hj (by rw [e]))⟩
theorem But.trans {b : Nat} {w w1 w2 : World} (h : But b w w1) (k : But b w1 w2) : But b w w2 :=
  ⟨k.os.trans h.os, k.tape.trans h.tape, k.output.trans h.output, Nat.le_trans h.size k.size, fun j hj hb => (k.block j (Nat.lt_of_lt_of_le hj h.size) hb).trans (h.block j hj hb)⟩
theorem But.below {b : Nat} {w w1 w2 : World} {B : Nat} (h : Below B w w1) (k : But b w1 w2) (hB : B ≤ w1.heap.size) (hb : B ≤ b) : Below B w w2 := h.grown k hB (fun j e => by cases e; exact hb)
theorem But.refl (b : Nat) (w : World) : But b w w := But.of_below (Below.refl _ _)
theorem At.but {w w' : World} {b b' : Nat} {c : Array Value} {T : TypeId} {s : ByteArray} {k : Nat} (h : At w b c T s k) (hb : But b' w w') (hne : b ≠ b') : At w' b c T s k := h.same (hb.block b h.lt (fun e => hne (by cases e; rfl)))
theorem Below.of_but {b B : Nat} {w w' : World} (h : But b w w') (hb : B ≤ b) (hB : B ≤ w.heap.size) : Below B w w' := But.below (Below.refl _ _) h hB hb
end Go.Proofs.YtnfccckodgknjaaGreatDoor

namespace Go.Proofs.YtnfccckodgknjaaGreatDoor

def ctlT : List Int := [0x20AC, 0x81, 0x201A, 0x0192, 0x201E, 0x2026, 0x2020, 0x2021, 0x02C6, 0x2030, 0x0160, 0x2039, 0x0152, 0x8D, 0x017D, 0x8F,
  0x90, 0x2018, 0x2019, 0x201C, 0x201D, 0x2022, 0x2013, 0x2014, 0x02DC, 0x2122, 0x0161, 0x203A, 0x0153, 0x9D, 0x017E, 0x0178]
def winT : List (Int × Int) := [(0x80, 0x20ac), (0x82, 0x201a), (0x83, 0x0192), (0x84, 0x201e), (0x85, 0x2026), (0x86, 0x2020), (0x87, 0x2021), (0x88, 0x02c6), (0x89, 0x2030), (0x8a, 0x0160), (0x8b, 0x2039), (0x8c, 0x0152), (0x8e, 0x017d), (0x91, 0x2018), (0x92, 0x2019), (0x93, 0x201c), (0x94, 0x201d), (0x95, 0x2022), (0x96, 0x2013), (0x97, 0x2014), (0x98, 0x02dc), (0x99, 0x2122), (0x9a, 0x0161), (0x9b, 0x203a), (0x9c, 0x0153), (0x9e, 0x017e), (0x9f, 0x0178)]
def badB (code : Int) : Bool := decide (code ≤ 0) || decide (1114112 ≤ code) || (decide (55296 ≤ code) && decide (code ≤ 57343))
def cpZ (code : Int) : Int := if badB code then 65533 else if 128 ≤ code ∧ code ≤ 159 then ctlT.getD (code - 128).toNat 0 else code
/-- The list is searched from the left. -/
def winF (code : Int) : List (Int × Int) → Int
  | [] => code
  | (c, r) :: l => if c = code then r else winF code l
theorem winF_none (code : Int) : ∀ l : List (Int × Int), (∀ p ∈ l, p.1 ≠ code) → winF code l = code
  | [], _ => rfl
  | (c, r) :: l, h => by
    rw [winF, if_neg (h (c, r) (by simp)), winF_none code l fun p hp => h p (by simp [hp])]
theorem winF_cp (code : Int) (h : badB code = false) : winF code winT = cpZ code := by
  unfold cpZ
  rw [h, if_neg (by simp)]
  by_cases hc : 128 ≤ code ∧ code ≤ 159
  · rw [if_pos hc]
    obtain ⟨k, rfl⟩ : ∃ k : Fin 32, code = 128 + (k.val : Int) := ⟨⟨(code - 128).toNat, by omega⟩, by simp; omega⟩
    have key : ∀ k : Fin 32, winF (128 + (k.val : Int)) winT = ctlT.getD ((128 + (k.val : Int)) - 128).toNat 0 := by decide +kernel
    exact key k
  · rw [if_neg hc]
    refine winF_none _ _ ?_
    intro p hp e
    have key : ∀ p ∈ winT, 128 ≤ p.1 ∧ p.1 ≤ 159 := by decide +kernel
    have := key p hp
    omega
theorem cpZ_bd (code : Int) : 1 ≤ cpZ code ∧ cpZ code ≤ 1114111 ∧ (cpZ code ≤ 55295 ∨ 57344 ≤ cpZ code) := by
  unfold cpZ
  by_cases h : badB code = true
  · rw [if_pos h]; omega
  · rw [if_neg h]
    simp [badB] at h
    by_cases hc : 128 ≤ code ∧ code ≤ 159
    · rw [if_pos hc]
      obtain ⟨k, hk⟩ : ∃ k : Fin 32, (code - 128).toNat = k.val := ⟨⟨(code - 128).toNat, by omega⟩, rfl⟩
      rw [hk]
      have key : ∀ k : Fin 32, 1 ≤ ctlT.getD k.val 0 ∧ ctlT.getD k.val 0 ≤ 1114111 ∧ (ctlT.getD k.val 0 ≤ 55295 ∨ 57344 ≤ ctlT.getD k.val 0) := by decide +kernel
      exact key k
    · rw [if_neg hc]; omega
end Go.Proofs.YtnfccckodgknjaaGreatDoor
