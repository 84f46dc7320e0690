/-
  The simple readers: CDATA, Bogus, Name, Plaintext.
-/
import Derived.Test.YtofiaodpjpjedaaGreatDoorY20
import Derived.Test.YtofiaodpjpjedaaGreatDoorY32
namespace Go.Proofs.YtofiaodpjpjedaaGreatDoor
open Go.RowKit Go.Shelf Go.Lib
set_option maxHeartbeats 1000000
set_option maxRecDepth 100000

/-- What stands ahead of the first p, and how many bytes that is, with p. -/
def utL (p t : List UInt8) : List UInt8 × Nat := ((Lib.cut t p).1, (Lib.cut t p).1.length + if p.isPrefixOf (t.drop (Lib.cut t p).1.length) then p.length else 0)
/-- What is left at an offset. -/
def tlS (s : ByteArray) (a : Int) : List UInt8 := s.data.toList.drop (clip s a)

theorem ret2_si {l l' : List UInt8} {i j : Int} (h : l = l') (h2 : i = j) : Ending.returned (.tuple #[.string (bl l), .int .i64 i]) = .returned (.tuple #[.string (bl l'), .int .i64 j]) := by rw [h, h2]

theorem below_but {w W W' : World} {b : Nat} (h : Below w.heap.size w W) (k : But b W W') (hb : w.heap.size ≤ b) : Below w.heap.size w W' := But.below h k h.size hb

theorem at_new {w : World} {s : ByteArray} {k : Nat} {W : World} (h : W = w.alloc (.cells #[.string s, .int .i64 k] 68)) : At W w.heap.size #[.string s, .int .i64 k] 68 s k := by
  subst h
  exact ⟨by show (w.heap.push _)[w.heap.size]? = _; exact Array.getElem?_push_size, rfl, rfl⟩

theorem upTo2 (b : Nat) (x : Value) (T : TypeId) (s p : ByteArray) (k : Nat) (hk : k ≤ s.size) (hs : s.size ≤ 1000000000) (m : Int) (w : World) (hm : w.cell? ⟨1, 0, none⟩ = some (.int .i64 m)) (h : At w b #[.string s, x] T s k) :
    Calls Tryz.prog 70 #[.pointer (some ⟨b, 0, none⟩), .string p] w fun e w' => ∃ n, n = (utL p.data.toList (s.data.toList.drop k)).2 ∧ e = .returned (.string (bl (utL p.data.toList (s.data.toList.drop k)).1)) ∧
      (utL p.data.toList (s.data.toList.drop k)).1.length ≤ n ∧ k + n ≤ s.size ∧ At w' b #[.string s, .int .i64 ((k + n : Nat) : Int)] T s (k + n) ∧ But b w w' := by
  refine (curUpTo b #[.string s, x] T s p k hk hs m w hm h).mono ?_
  rintro e w' ⟨B, rfl, hB, hkB, hbut, hor⟩
  have hBl : B.size = (Lib.cut (s.data.toList.drop k) p.data.toList).1.length := by rw [← hB, size_list]
  have e1 : B = bl (utL p.data.toList (s.data.toList.drop k)).1 := bl_eq hB
  have hdd : (s.data.toList.drop k).drop (Lib.cut (s.data.toList.drop k) p.data.toList).1.length = s.data.toList.drop (k + B.size) := by rw [List.drop_drop, hBl]
  rcases hor with ⟨h1, h2, h3⟩ | ⟨h1, h3⟩
  · have e2 : (utL p.data.toList (s.data.toList.drop k)).2 = B.size + p.size := by
      unfold utL
      simp only
      rw [hdd, if_pos (List.isPrefixOf_iff_prefix.2 h1), hBl, size_list]
    refine ⟨_, rfl, by rw [← e1], ?_, ?_, ?_, hbut⟩
    · rw [e2]
      show (Lib.cut (s.data.toList.drop k) p.data.toList).1.length ≤ _
      omega
    · rw [e2]; omega
    · rw [e2, ← Nat.add_assoc]; exact h3
  · have e2 : (utL p.data.toList (s.data.toList.drop k)).2 = B.size := by
      unfold utL
      simp only
      rw [hdd, if_neg (fun h => h1 (List.isPrefixOf_iff_prefix.1 h)), hBl]
      rfl
    refine ⟨_, rfl, by rw [← e1], ?_, ?_, ?_, hbut⟩
    · rw [e2]
      show (Lib.cut (s.data.toList.drop k) p.data.toList).1.length ≤ _
      omega
    · rw [e2]; omega
    · rw [e2]; exact h3

theorem cdata (s : ByteArray) (a : Int) (m : Int) (hs : s.size ≤ 10000000) (w : World) (hm : w.cell? ⟨1, 0, none⟩ = some (.int .i64 m)) :
    Calls Tryz.prog 22 #[.string s, .int .i64 a] w fun e w' => e = .returned (.tuple #[.string (bl (utL [93, 93, 62] (tlS s a)).1), .int .i64 ((clip s a + (utL [93, 93, 62] (tlS s a)).2 : Nat) : Int)]) ∧ Below w.heap.size w w' := by
  have HC := Lib.hid (cursorAt s a (by unfold maxLen; omega))
  have HM := Lib.hid hm
  have hk := clip_le s a
  unfold tlS
  generalize clip s a = k at HC hk ⊢
  have HK := Lib.hid hk
  have HS := Lib.hid hs
  clear hm hk hs
  go_enter Tryz.func22, Tryz.ntmps22
  go_wp2_with fail
  refine (HC.out _).mono ?_
  rintro e w1 ⟨rfl, hb1⟩
  have hat : At (w1.alloc (.cells #[.string s, .int .i64 k] 68)) w1.heap.size #[.string s, .int .i64 k] 68 s k := at_new rfl
  have hB : Below w.heap.size w (w1.alloc (.cells #[.string s, .int .i64 k] 68)) := below_alloc hb1 _
  have hle : w.heap.size ≤ w1.heap.size := hb1.size
  have HAT := Lib.hid hat
  have hm1 := carry HM.out hB
  have HU := Lib.hid (upTo2 w1.heap.size _ 68 s ⟨#[93, 93, 62]⟩ k HK.out (by have := HS.out; omega) m _ hm1 hat)
  clear hm1 hat
  go_wp2_with fail
  refine HU.out.mono ?_
  rintro e w2 ⟨n, hn, rfl, hl, hkn, h2, hB2⟩
  have HN := Lib.hid hn
  have c1 := h2.cell1
  clear hn hl hkn
  go_wp2_with fail
  go_quiet (fail)
  go_wp2_with fail
  go_ret2
  exact ⟨ret2_si rfl (by have := HN.out; simp; omega), _root_.Go.below_drewN (below_but hB hB2 hle) nq⟩

theorem bogusC (s : ByteArray) (a : Int) (m : Int) (hs : s.size ≤ 10000000) (w : World) (hm : w.cell? ⟨1, 0, none⟩ = some (.int .i64 m)) :
    Calls Tryz.prog 20 #[.string s, .int .i64 a] w fun e w' => e = .returned (.tuple #[.string (bl (nulL (utL [62] (tlS s a)).1)), .int .i64 ((clip s a + (utL [62] (tlS s a)).2 : Nat) : Int)]) ∧ Below w.heap.size w w' := by
  have HC := Lib.hid (cursorAt s a (by unfold maxLen; omega))
  have HM := Lib.hid hm
  have hk := clip_le s a
  unfold tlS
  generalize clip s a = k at HC hk ⊢
  have HK := Lib.hid hk
  have HS := Lib.hid hs
  clear hm hk hs
  go_enter Tryz.func20, Tryz.ntmps20
  go_wp2_with fail
  refine (HC.out _).mono ?_
  rintro e w1 ⟨rfl, hb1⟩
  have hat : At (w1.alloc (.cells #[.string s, .int .i64 k] 68)) w1.heap.size #[.string s, .int .i64 k] 68 s k := at_new rfl
  have hB : Below w.heap.size w (w1.alloc (.cells #[.string s, .int .i64 k] 68)) := below_alloc hb1 _
  have hle : w.heap.size ≤ w1.heap.size := hb1.size
  have HAT := Lib.hid hat
  have hm1 := carry HM.out hB
  have HU := Lib.hid (upTo2 w1.heap.size _ 68 s ⟨#[62]⟩ k HK.out (by have := HS.out; omega) m _ hm1 hat)
  clear hm1 hat
  go_wp2_with fail
  refine HU.out.mono ?_
  rintro e w2 ⟨n, hn, rfl, hl, hkn, h2, hB2⟩
  have hBB : Below w.heap.size w w2 := below_but hB hB2 hle
  have hlen : (bl (utL [62] (s.data.toList.drop k)).1).size ≤ 10000000 := by rw [bl_size]; have := HS.out; exact Nat.le_trans hl (by omega)
  have HKe := Lib.hid (kept m _ hlen w2 (carry HM.out hBB))
  have HN := Lib.hid hn
  clear hn hl hkn hlen
  go_wp2_with fail
  refine HKe.out.mono ?_
  rintro e w3 ⟨rfl, hb3⟩
  have h3 := h2.below hb3
  have c1 := h3.cell1
  go_wp2_with fail
  go_quiet (fail)
  go_wp2_with fail
  go_ret2
  exact ⟨ret2_si rfl (by have := HN.out; simp; omega), _root_.Go.below_drewN (below_next hBB hb3) nq⟩
end Go.Proofs.YtofiaodpjpjedaaGreatDoor
