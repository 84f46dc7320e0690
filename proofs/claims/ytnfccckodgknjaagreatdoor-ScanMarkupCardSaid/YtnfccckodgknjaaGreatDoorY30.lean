/-
  The simple readers: CDATA, Bogus, Name, Plaintext.
  What follows a "<", as lists of bytes: which reader reads on, and where. No program in sight.
  The first mark, and the first end of a comment, in the document's words. No program in sight.
-/
import Derived.Test.YtnfccckodgknjaaGreatDoorY29
import Derived.Test.YtnfccckodgknjaaGreatDoorY17
import Derived.Test.YtnfccckodgknjaaGreatDoorY27
import Derived.Test.YtnfccckodgknjaaGreatDoorY02
namespace Go.Proofs.YtnfccckodgknjaaGreatDoor
open Go.RowKit Go.Shelf Go.Lib
set_option maxHeartbeats 1000000
set_option maxRecDepth 100000

/-- What stands ahead of the first p, and how many bytes that is, with p. -/
def utL (p t : List UInt8) : List UInt8 × Nat := ((Lib.cut t p).1, (Lib.cut t p).1.length + if p.isPrefixOf (t.drop (Lib.cut t p).1.length) then p.length else 0)
/-- What is left at an offset. -/
def tlS (s : ByteArray) (a : Int) : List UInt8 := s.data.toList.drop (clip s a)

theorem ret2_si {l l' : List UInt8} {i j : Int} (h : l = l') (h2 : i = j) : Ending.returned (.tuple #[.string (bl l), .int .i64 i]) = .returned (.tuple #[.string (bl l'), .int .i64 j]) := by rw [h, h2]

theorem below_but {w W W' : World} {b : Nat} (h : Below w.heap.size w W) (k : But b W W') (hb : w.heap.size ≤ b) : Below w.heap.size w W' := But.below h k h.size hb

theorem at_new {w : World} {s : ByteArray} {k : Nat} {W : World} (h : W = w.alloc (.cells #[.string s, .int .i64 k] 79)) : At W w.heap.size #[.string s, .int .i64 k] 79 s k := by
  subst h
  exact ⟨by show (w.heap.push _)[w.heap.size]? = _; exact Array.getElem?_push_size, rfl, rfl⟩

theorem upTo2 (b : Nat) (x : Value) (T : TypeId) (s p : ByteArray) (k : Nat) (hk : k ≤ s.size) (hs : s.size ≤ 1000000000) (m : Int) (w : World) (hm : w.cell? ⟨1, 0, none⟩ = some (.int .i64 m)) (h : At w b #[.string s, x] T s k) :
    Calls Tryz.prog 109 #[.pointer (some ⟨b, 0, none⟩), .string p] w fun e w' => ∃ n, n = (utL p.data.toList (s.data.toList.drop k)).2 ∧ e = .returned (.string (bl (utL p.data.toList (s.data.toList.drop k)).1)) ∧
      (utL p.data.toList (s.data.toList.drop k)).1.length ≤ n ∧ k + n ≤ s.size ∧ At w' b #[.string s, .int .i64 ((k + n : Nat) : Int)] T s (k + n) ∧ But b w w' := by
  refine (curUpTo b #[.string s, x] T s p k hk hs m w hm h).mono ?_
  rintro e w' ⟨B, rfl, hB, hkB, hbut, hor⟩
  have hBl : B.size = (Lib.cut (s.data.toList.drop k) p.data.toList).1.length := by rw [← hB, size_list]
  have e1 : B = bl (utL p.data.toList (s.data.toList.drop k)).1 := bl_eq hB
  have hdd : (s.data.toList.drop k).drop (Lib.cut (s.data.toList.drop k) p.data.toList).1.length = s.data.toList.drop (k + B.size) := by rw [List.drop_drop, hBl]
  rcases hor with ⟨h1, h2, h3⟩ | ⟨h1, h3⟩
  · have e2 : (utL p.data.toList (s.data.toList.drop k)).2 = B.size + p.size := by
      unfold utL
      simp only
      rw [hdd, if_pos (List.isPrefixOf_iff_prefix.2 h1), hBl, size_list]
    refine ⟨_, rfl, by rw [← e1], ?_, ?_, ?_, hbut⟩
    · rw [e2]
      show (Lib.cut (s.data.toList.drop k) p.data.toList).1.length ≤ _
      omega
    · rw [e2]; omega
    · rw [e2, ← Nat.add_assoc]; exact h3
  · have e2 : (utL p.data.toList (s.data.toList.drop k)).2 = B.size := by
      unfold utL
      simp only
      rw [hdd, if_neg (fun h => h1 (List.isPrefixOf_iff_prefix.1 h)), hBl]
      rfl
    refine ⟨_, rfl, by rw [← e1], ?_, ?_, ?_, hbut⟩
    · rw [e2]
      show (Lib.cut (s.data.toList.drop k) p.data.toList).1.length ≤ _
      omega
    · rw [e2]; omega
    · rw [e2]; exact h3

theorem cdata (s : ByteArray) (a : Int) (m : Int) (hs : s.size ≤ 10000000) (w : World) (hm : w.cell? ⟨1, 0, none⟩ = some (.int .i64 m)) :
    Calls Tryz.prog 51 #[.string s, .int .i64 a] w fun e w' => e = .returned (.tuple #[.string (bl (utL [93, 93, 62] (tlS s a)).1), .int .i64 ((clip s a + (utL [93, 93, 62] (tlS s a)).2 : Nat) : Int)]) ∧ Below w.heap.size w w' := by
  have HC := Lib.hid (cursorAt s a (by unfold maxLen; omega))
  have HM := Lib.hid hm
  have hk := clip_le s a
  unfold tlS
  generalize clip s a = k at HC hk ⊢
  have HK := Lib.hid hk
  have HS := Lib.hid hs
  clear hm hk hs
  go_enter Tryz.func51, Tryz.ntmps51
  go_wp2_with fail
  refine (HC.out _).mono ?_
  rintro e w1 ⟨rfl, hb1⟩
  have hat : At (w1.alloc (.cells #[.string s, .int .i64 k] 79)) w1.heap.size #[.string s, .int .i64 k] 79 s k := at_new rfl
  have hB : Below w.heap.size w (w1.alloc (.cells #[.string s, .int .i64 k] 79)) := below_alloc hb1 _
  have hle : w.heap.size ≤ w1.heap.size := hb1.size
  have HAT := Lib.hid hat
  have hm1 := carry HM.out hB
  have HU := Lib.hid (upTo2 w1.heap.size _ 79 s ⟨#[93, 93, 62]⟩ k HK.out (by have := HS.out; omega) m _ hm1 hat)
  clear hm1 hat
  go_wp2_with fail
  refine HU.out.mono ?_
  rintro e w2 ⟨n, hn, rfl, hl, hkn, h2, hB2⟩
  have HN := Lib.hid hn
  have c1 := h2.cell1
  clear hn hl hkn
  go_wp2_with fail
  go_quiet (fail)
  go_wp2_with fail
  go_ret2
  exact ⟨ret2_si rfl (by have := HN.out; simp; omega), _root_.Go.below_drewN (below_but hB hB2 hle) nq⟩

theorem bogusC (s : ByteArray) (a : Int) (m : Int) (hs : s.size ≤ 10000000) (w : World) (hm : w.cell? ⟨1, 0, none⟩ = some (.int .i64 m)) :
    Calls Tryz.prog 84 #[.string s, .int .i64 a] w fun e w' => e = .returned (.tuple #[.string (bl (nulL (utL [62] (tlS s a)).1)), .int .i64 ((clip s a + (utL [62] (tlS s a)).2 : Nat) : Int)]) ∧ Below w.heap.size w w' := by
  have HC := Lib.hid (cursorAt s a (by unfold maxLen; omega))
  have HM := Lib.hid hm
  have hk := clip_le s a
  unfold tlS
  generalize clip s a = k at HC hk ⊢
  have HK := Lib.hid hk
  have HS := Lib.hid hs
  clear hm hk hs
  go_enter Tryz.func84, Tryz.ntmps84
  go_wp2_with fail
  refine (HC.out _).mono ?_
  rintro e w1 ⟨rfl, hb1⟩
  have hat : At (w1.alloc (.cells #[.string s, .int .i64 k] 79)) w1.heap.size #[.string s, .int .i64 k] 79 s k := at_new rfl
  have hB : Below w.heap.size w (w1.alloc (.cells #[.string s, .int .i64 k] 79)) := below_alloc hb1 _
  have hle : w.heap.size ≤ w1.heap.size := hb1.size
  have HAT := Lib.hid hat
  have hm1 := carry HM.out hB
  have HU := Lib.hid (upTo2 w1.heap.size _ 79 s ⟨#[62]⟩ k HK.out (by have := HS.out; omega) m _ hm1 hat)
  clear hm1 hat
  go_wp2_with fail
  refine HU.out.mono ?_
  rintro e w2 ⟨n, hn, rfl, hl, hkn, h2, hB2⟩
  have hBB : Below w.heap.size w w2 := below_but hB hB2 hle
  have hlen : (bl (utL [62] (s.data.toList.drop k)).1).size ≤ 10000000 := by rw [bl_size]; have := HS.out; exact Nat.le_trans hl (by omega)
  have HKe := Lib.hid (kept m _ hlen w2 (carry HM.out hBB))
  have HN := Lib.hid hn
  clear hn hl hkn hlen
  go_wp2_with fail
  refine HKe.out.mono ?_
  rintro e w3 ⟨rfl, hb3⟩
  have h3 := h2.below hb3
  have c1 := h3.cell1
  go_wp2_with fail
  go_quiet (fail)
  go_wp2_with fail
  go_ret2
  exact ⟨ret2_si rfl (by have := HN.out; simp; omega), _root_.Go.below_drewN (below_next hBB hb3) nq⟩
end Go.Proofs.YtnfccckodgknjaaGreatDoor

namespace Go.Proofs.YtnfccckodgknjaaGreatDoor
open Go.Lib

/-- A comment and how far; a doctype, a tag (an end tag?) that begins so far on; characters and how far. -/
inductive Mk where
  | com (d : List UInt8) (n : Nat)
  | doc (o : Nat)
  | tag (en : Bool) (o : Nat)
  | chars (c : List UInt8) (n : Nat)
def Mk.shift (k : Nat) : Mk → Mk
  | .com d n => .com d (k + n)
  | .doc o => .doc (k + o)
  | .tag en o => .tag en (k + o)
  | .chars c n => .chars c (k + n)
def sDoctype : List UInt8 := [100, 111, 99, 116, 121, 112, 101]
def sCdata : List UInt8 := [91, 67, 68, 65, 84, 65, 91]
def bogZ (t : List UInt8) : Mk := .com (nulL (utL [62] t).1) (utL [62] t).2
/-- Behind "<!". -/
def declZ (cd : Bool) (t : List UInt8) : Mk :=
  if [45, 45].isPrefixOf t then (Mk.com (comL (t.drop 2)).1 (comL (t.drop 2)).2).shift 2
  else if lowL (t.take 7) = sDoctype then .doc 7
  else if cd && sCdata.isPrefixOf t then (Mk.chars (utL [93, 93, 62] (t.drop 7)).1 (utL [93, 93, 62] (t.drop 7)).2).shift 7
  else bogZ t
/-- Behind "</". -/
def closeZ (t : List UInt8) : Mk :=
  match t with
  | [] => .chars [60, 47] 0
  | d :: _ => if leU d then .tag true 0 else if d = 62 then .chars [] 1 else bogZ t
/-- Behind "<". -/
def mkZ (cd : Bool) (t : List UInt8) : Mk :=
  match t with
  | [] => .chars [60] 0
  | c :: r => if c = 33 then (declZ cd r).shift 1 else if leU c then .tag false 0 else if c = 47 then (closeZ r).shift 1 else if c = 63 then bogZ t else .chars [60] 0
end Go.Proofs.YtnfccckodgknjaaGreatDoor

namespace Go.Proofs.YtnfccckodgknjaaGreatDoor
open Go.Lib
set_option maxRecDepth 100000

theorem cut_no {s p : List UInt8} (h : Lib.index s p = -1) : (Lib.cut s p).1 = s := by unfold Lib.cut; rw [h, if_neg (by decide)]
theorem cut_yes {s p : List UInt8} {n : Nat} (h : Lib.index s p = n) : (Lib.cut s p).1 = s.take n := by
  unfold Lib.cut
  rw [h, if_pos (by omega)]
  rfl
theorem utL_of {p t x : List UInt8} (h : (Lib.cut t p).1 = x) : utL p t = (x, x.length + if p.isPrefixOf (t.drop x.length) then p.length else 0) := by subst h; rfl
theorem utL_nil (p : List UInt8) (hp : p ≠ []) : utL p [] = ([], 0) := by
  have h : Lib.index [] p = -1 := by
    cases p with
    | nil => exact absurd rfl hp
    | cons a p => rfl
  rw [utL_of (cut_no h)]
  cases p with
  | nil => exact absurd rfl hp
  | cons a p => rfl
theorem utL_cons (p : List UInt8) (b : UInt8) (t : List UInt8) : utL p (b :: t) = if p.isPrefixOf (b :: t) then ([], p.length) else pre [b] 1 (utL p t) := by
  have hi : Lib.index (b :: t) p = if p.isPrefixOf (b :: t) then 0 else if Lib.index t p == -1 then -1 else Lib.index t p + 1 := rfl
  by_cases h : p.isPrefixOf (b :: t) = true
  · rw [if_pos h]
    rw [if_pos h] at hi
    rw [utL_of (cut_yes (n := 0) hi)]
    simp [h]
  · rw [if_neg h]
    rw [if_neg h] at hi
    by_cases h1 : Lib.index t p = -1
    · rw [h1, if_pos (by decide)] at hi
      rw [utL_of (cut_no hi), utL_of (cut_no h1)]
      refine Prod.ext rfl ?_
      show (t.length + 1) + (if p.isPrefixOf (t.drop t.length) then p.length else 0) = 1 + (t.length + (if p.isPrefixOf (t.drop t.length) then p.length else 0))
      omega
    · have hg := Lib.index_ge t p
      rw [if_neg (by rw [beq_iff_eq]; exact h1)] at hi
      obtain ⟨n, hn⟩ : ∃ n : Nat, Lib.index t p = n := ⟨(Lib.index t p).toNat, by omega⟩
      rw [hn] at hi
      rw [utL_of (cut_yes (n := n + 1) hi), utL_of (cut_yes hn), List.take_succ_cons]
      refine Prod.ext rfl ?_
      show ((t.take n).length + 1) + (if p.isPrefixOf (t.drop (t.take n).length) then p.length else 0) = 1 + ((t.take n).length + (if p.isPrefixOf (t.drop (t.take n).length) then p.length else 0))
      omega
/-! ### Comments -/
def endAt (t : List UInt8) : Bool := [45, 45, 62].isPrefixOf t || [45, 45, 33, 62].isPrefixOf t
/-- No end so far, and one here. -/
theorem comS_at : ∀ (k : Nat) (t : List UInt8), (∀ j, j < k → endAt (t.drop j) = false) → endAt (t.drop k) = true → comS t = pre (nulL (t.take k)) k (comS (t.drop k))
  | 0, t, _, _ => by simp [pre_nil, nulL_nil]
  | k + 1, [], _, h => by simp [endAt] at h
  | k + 1, b :: t, hn, h => by
    have h0 : endAt (b :: t) = false := hn 0 (by omega)
    unfold endAt at h0
    rw [Bool.or_eq_false_iff] at h0
    have ih := comS_at k t (fun j hj => by have := hn (j + 1) (by omega); simpa using this) (by simpa using h)
    have tl : b :: t ≠ [45, 45, 33] ∧ b :: t ≠ [45, 45] ∧ b :: t ≠ [45] := by
      refine ⟨?_, ?_, ?_⟩
      all_goals
        intro e
        injection e with e1 e2
        subst e1
        subst e2
        rcases k with _ | _ | _ | k <;> simp [endAt] at h
    rw [comS, h0.1, h0.2, if_neg (by simp), if_neg (by simp), if_neg tl.1, if_neg tl.2.1, if_neg tl.2.2, ih, pre_pre, List.take_succ_cons, List.drop_succ_cons, nulL_cons, Nat.add_comm 1]
/-- The end of the string, with what of an end may stand there. -/
def tailR (t : List UInt8) : List UInt8 × Nat :=
  if [45, 45, 33].isSuffixOf t then (nulL (t.take (t.length - 3)), t.length)
  else if [45, 45].isSuffixOf t then (nulL (t.take (t.length - 2)), t.length)
  else if [45].isSuffixOf t then (nulL (t.take (t.length - 1)), t.length)
  else (nulL t, t.length)
theorem suf_cons (x : List UInt8) (b : UInt8) (t : List UInt8) (h : b :: t ≠ x) : x.isSuffixOf (b :: t) = x.isSuffixOf t := by
  rw [Bool.eq_iff_iff, List.isSuffixOf_iff_suffix, List.isSuffixOf_iff_suffix, List.suffix_cons_iff]
  constructor
  · rintro (e | e)
    · exact absurd e.symm h
    · exact e
  · exact .inr
theorem suf_len {x t : List UInt8} (h : x.isSuffixOf t = true) : x.length ≤ t.length := (List.isSuffixOf_iff_suffix.1 h).length_le
theorem tailR_cons (b : UInt8) (t : List UInt8) (h3 : b :: t ≠ [45, 45, 33]) (h2 : b :: t ≠ [45, 45]) (h1 : b :: t ≠ [45]) : tailR (b :: t) = pre (nul1 b) 1 (tailR t) := by
  unfold tailR
  rw [suf_cons _ b t h3, suf_cons _ b t h2, suf_cons _ b t h1]
  have key : ∀ n, n ≤ t.length → ((b :: t).take ((b :: t).length - n)) = b :: t.take (t.length - n) := by
    intro n hn
    rw [List.length_cons, show t.length + 1 - n = t.length - n + 1 by omega, List.take_succ_cons]
  have p : ∀ l : List UInt8, pre (nul1 b) 1 (nulL l, t.length) = (nulL (b :: l), (b :: t).length) := by
    intro l
    rw [nulL_cons, List.length_cons]
    show (_, 1 + t.length) = _
    rw [Nat.add_comm]
  by_cases c3 : [45, 45, 33].isSuffixOf t = true
  · rw [if_pos c3, if_pos c3, p, key 3 (suf_len c3)]
  · rw [if_neg c3, if_neg c3]
    by_cases c2 : [45, 45].isSuffixOf t = true
    · rw [if_pos c2, if_pos c2, p, key 2 (suf_len c2)]
    · rw [if_neg c2, if_neg c2]
      by_cases c1 : [45].isSuffixOf t = true
      · rw [if_pos c1, if_pos c1, p, key 1 (suf_len c1)]
      · rw [if_neg c1, if_neg c1, p]
theorem comS_tail : ∀ t : List UInt8, (∀ j, j < t.length → endAt (t.drop j) = false) → comS t = tailR t
  | [], _ => by decide
  | b :: t, hn => by
    have h0 : endAt (b :: t) = false := hn 0 (by simp)
    unfold endAt at h0
    rw [Bool.or_eq_false_iff] at h0
    by_cases h3 : b :: t = [45, 45, 33]
    · rw [h3]; decide
    by_cases h2 : b :: t = [45, 45]
    · rw [h2]; decide
    by_cases h1 : b :: t = [45]
    · rw [h1]; decide
    have ih := comS_tail t (fun j hj => by have := hn (j + 1) (by simp; omega); simpa using this)
    rw [comS, h0.1, h0.2, if_neg (by simp), if_neg (by simp), if_neg h3, if_neg h2, if_neg h1, ih, tailR_cons b t h3 h2 h1]
theorem comS_3e {t : List UInt8} (h : [45, 45, 62].isPrefixOf t = true) : comS t = ([], 3) := by
  cases t with
  | nil => simp [List.isPrefixOf] at h
  | cons b t => rw [comS, if_pos h]
theorem comS_4e {t : List UInt8} (h3 : [45, 45, 62].isPrefixOf t = false) (h : [45, 45, 33, 62].isPrefixOf t = true) : comS t = ([], 4) := by
  cases t with
  | nil => simp [List.isPrefixOf] at h
  | cons b t => rw [comS, h3, if_neg (by simp), if_pos h]
end Go.Proofs.YtnfccckodgknjaaGreatDoor
