/-
  The document's own prefix test.
  The document's readers: offsets, the rule for U+0000, and what stands ahead of a mark.
  Data of comments is read back; what any comment is read as is such data. No program in sight.
  The first mark, and the first end of a comment, in the document's words. No program in sight.
  The document's readers of comments, bogus comments and CDATA sections.
  The document's own reading of the table: where entries and names end, and their values.
  The document's own searches of the table.
  The digits of a number, with zeros ahead, as a numeric reference.
  The document's reader of character references.
  ScanCommentsBack: the data of a comment is read back, and what any comment is read as is such data.
  A call of Reference whose answer is known.
  The document's reader of character references: numbers, and all.
  The document's reader of character references.
  The end tag of raw text, in the document's words. No program in sight.
  The document's readers of raw text: where an end tag closes it.
  A byte that no reference goes on with ends it. No program in sight.
  The document's readers of raw text, with and without references.
  The document's readers: spaces, letters, the name of a tag.
  The document's reader of script data.
  ScanScripts: the reader of script data is that of the document.
  The frame of the rows that list the table of the controls as well.
-/
import Derived.Test.YtofiaodpjpjedaaGreatDoorY27
import Derived.Test.YtofiaodpjpjedaaGreatDoorY29
import Derived.Test.YtofiaodpjpjedaaGreatDoorY33
import Derived.Test.YtofiaodpjpjedaaGreatDoorY34
import Derived.Test.YtofiaodpjpjedaaGreatDoorY03
import Derived.Test.YtofiaodpjpjedaaGreatDoorY15
import Derived.Test.YtofiaodpjpjedaaGreatDoorY28
import Derived.Test.YtofiaodpjpjedaaGreatDoorY30
import Derived.Test.YtofiaodpjpjedaaGreatDoorKs3
import Derived.Test.YtofiaodpjpjedaaGreatDoorY13
namespace Go.Proofs.YtofiaodpjpjedaaGreatDoor
open Go.RowKit Go.Lib
set_option maxHeartbeats 1000000
set_option maxRecDepth 100000

theorem preB_cut (s p : ByteArray) : ((s.extract 0 p.size).toList == p.toList) = p.data.toList.isPrefixOf s.data.toList := by
  rw [Bool.eq_iff_iff, List.isPrefixOf_iff_prefix, List.prefix_iff_eq_take, beq_iff_eq, ByteArray.toList_eq, ByteArray.toList_eq, Lib.extract_data, List.drop_zero, Nat.sub_zero, size_list]
  exact ⟨fun h => h.symm, fun h => h.symm⟩
theorem preB_long {s p : ByteArray} (h : ¬ p.size ≤ s.size) : p.data.toList.isPrefixOf s.data.toList = false := by
  rw [Bool.eq_false_iff]
  intro e
  have := (List.isPrefixOf_iff_prefix.1 e).length_le
  rw [size_list, size_list] at this
  exact h this

theorem rBegins1 (s p : ByteArray) (w : World) :
    Calls Tryz.prog 67 #[.string s, .string p] w fun e w' => e = .returned (.bool (p.data.toList.isPrefixOf s.data.toList)) ∧ w' = w := by
  by_cases hl : p.size ≤ s.size
  · have hI : (p.size : Int) ≤ (s.size : Int) := by omega
    have HE := Lib.hid (preB_cut s p)
    go_enter Tryz.func67, Tryz.ntmps67
    go_wp2
    go_ret
    exact ⟨ret_bool HE.out, rfl⟩
  · have hI : (s.size : Int) < (p.size : Int) := by omega
    have HE := Lib.hid (preB_long hl)
    go_enter Tryz.func67, Tryz.ntmps67
    go_wp2
    go_ret
    exact ⟨ret_bool HE.out.symm, rfl⟩
end Go.Proofs.YtofiaodpjpjedaaGreatDoor

namespace Go.Proofs.YtofiaodpjpjedaaGreatDoor
open Go.RowKit Go.Shelf Go.Lib
set_option maxHeartbeats 2000000
set_option maxRecDepth 100000

theorem qClip (s : ByteArray) (a : Int) (w : World) : Calls Tryz.prog 57 #[.string s, .int .i64 a] w fun e w' => e = .returned (.int .i64 (clip s a : Nat)) ∧ w' = w := by
  go_enter Tryz.func57, Tryz.ntmps57
  go_wp2
  go_ret
  exact ⟨ret_int (by unfold clip; omega), rfl⟩

theorem nul_take (s : ByteArray) (k : Nat) (h : k < s.size) : bl (nulL (s.data.toList.take (k + 1))) = bl (nulL (s.data.toList.take k)) ++ bl (nul1 (s[k]'h)) := by
  have e : s.data.toList[k]? = some (s[k]'h) := by
    rw [Array.getElem?_toList]
    exact Array.getElem?_eq_getElem (xs := s.data) h
  rw [List.take_add_one, e, nulL_app]
  show bl (nulL (s.data.toList.take k) ++ nulL [s[k]'h]) = _
  rw [nulL_cons, nulL_nil, List.append_nil]
  unfold bl
  ext1
  simp

theorem qNul (s : ByteArray) (hs : s.size ≤ 1000000) (w : World) : Calls Tryz.prog 68 #[.string s] w fun e w' => e = .returned (.string (bl (nulL s.data.toList))) ∧ w' = w := by
  have HSZ := Lib.hid hs
  clear hs
  go_enter Tryz.func68, Tryz.ntmps68
  go_wp2_with fail
  go_loop [3, 4] (fun v i => ∃ k : Nat, k ≤ s.size ∧ i = .int .i64 k ∧ v = .string (bl (nulL (s.data.toList.take k)))) (fun _ i => s.size - (intOf i).toNat)
  case atStart => exact ⟨0, Nat.zero_le _, rfl, rfl⟩
  case round =>
    obtain ⟨k, hk, rfl, rfl⟩ := hrel
    by_cases hlt : k < s.size
    · have hI : (k : Int) < (s.size : Int) := by omega
      have hst := nul_take s k hlt
      have hz : (bl (nulL (s.data.toList.take k))).size ≤ 3000000 := by
        rw [bl_size]
        have h1 := nulL_len (s.data.toList.take k)
        have h2 : (s.data.toList.take k).length ≤ k := by rw [List.length_take]; omega
        have := HSZ.out
        omega
      obtain ⟨V, hV⟩ : ∃ V, V = bl (nulL (s.data.toList.take k)) := ⟨_, rfl⟩
      rw [← hV] at hst hz ⊢
      have HST := Lib.hid hst
      clear hst hV
      by_cases h0 : (s[k]'hlt) = 0
      · have t0 : (((s[k]'hlt).toNat : Int) == 0) = true := by rw [h0]; rfl
        have hn : nul1 (s[k]'hlt) = [239, 191, 189] := by unfold nul1; rw [if_pos h0]
        have hz2 : (s.size : Int) ≤ 1000000 := by have := HSZ.out; omega
        have HN := Lib.hid hn
        clear hn h0
        go_wp2_with fail
        go_round
        case rel => exact ⟨k + 1, by omega, by go_num, by rw [HST.out, HN.out]; rfl⟩
        case measure => simp [intOf]; omega
      · have t0 : (((s[k]'hlt).toNat : Int) == 0) = false := by
          rw [beq_eq_false_iff_ne]
          intro e
          exact h0 (UInt8.toNat_inj.1 (by show (s[k]'hlt).toNat = 0; omega))
        have hx : s.extract k (k + 1) = bl (nul1 (s[k]'hlt)) := by
          have h1 := ext_take s k 1 (by omega)
          rw [drop_byte s k hlt] at h1
          have h2 : nul1 (s[k]'hlt) = [s[k]'hlt] := nul1_b h0
          rw [h2]
          exact bl_eq h1
        have hz2 : (s.size : Int) ≤ 1000000 := by have := HSZ.out; omega
        have HX := Lib.hid hx
        clear hx h0
        go_wp2_with fail
        go_round
        case rel => exact ⟨k + 1, by omega, by go_num, by rw [HST.out, ← HX.out]⟩
        case measure => simp [intOf]; omega
    · have hI2 : ¬ (k : Int) < (s.size : Int) := by omega
      have hk' : k = s.size := by omega
      have he : s.data.toList.take k = s.data.toList := List.take_of_length_le (by rw [size_list]; omega)
      rw [he]
      clear he hk' hlt
      go_wp2_with fail
      go_ret
      exact ⟨rfl, rfl⟩
end Go.Proofs.YtofiaodpjpjedaaGreatDoor

namespace Go.Proofs.YtofiaodpjpjedaaGreatDoor
open Go.Lib
set_option maxRecDepth 100000

def noEnd : List UInt8 → Bool
  | [] => true
  | b :: t => !([45, 45, 62].isPrefixOf (b :: t)) && !([45, 45, 33, 62].isPrefixOf (b :: t)) && noEnd t
def fitL (l : List UInt8) : Bool := !([62].isPrefixOf l) && !([45, 62].isPrefixOf l) && noEnd l

/-- Where no comment ends, a byte is data. -/
theorem comS_or (b : UInt8) (t : List UInt8) : (comS (b :: t)).1 = [] ∨ (comS (b :: t) = pre (nul1 b) 1 (comS t) ∧ [45, 45, 62].isPrefixOf (b :: t) = false ∧ [45, 45, 33, 62].isPrefixOf (b :: t) = false) := by
  rw [comS]
  by_cases h1 : [45, 45, 62].isPrefixOf (b :: t) = true
  · rw [if_pos h1]; exact .inl rfl
  · rw [if_neg h1]
    by_cases h2 : [45, 45, 33, 62].isPrefixOf (b :: t) = true
    · rw [if_pos h2]; exact .inl rfl
    · rw [if_neg h2]
      split
      · exact .inl rfl
      · split
        · exact .inl rfl
        · split
          · exact .inl rfl
          · exact .inr ⟨rfl, Bool.eq_false_iff.2 h1, Bool.eq_false_iff.2 h2⟩
theorem comS_hd {c : UInt8} (hc : c ≠ 239) : ∀ {t x : List UInt8}, (comS t).1 = c :: x → ∃ t', t = c :: t' ∧ (comS t').1 = x ∧ [45, 45, 62].isPrefixOf t = false ∧ [45, 45, 33, 62].isPrefixOf t = false
  | [], _, h => by cases h
  | b :: t, x, h => by
    rcases comS_or b t with h0 | ⟨h1, h2, h3⟩
    · rw [h0] at h; cases h
    · rw [h1] at h
      have h' : nul1 b ++ (comS t).1 = c :: x := h
      unfold nul1 at h'
      by_cases hb : b = 0
      · rw [if_pos hb] at h'
        injection h' with h4 _
        exact absurd h4.symm hc
      · rw [if_neg hb] at h'
        injection h' with h4 h5
        subst h4
        exact ⟨t, rfl, h5, h2, h3⟩
theorem pre_of {p l : List UInt8} (h : p.isPrefixOf l = true) : ∃ r, l = p ++ r := by
  obtain ⟨r, hr⟩ := List.isPrefixOf_iff_prefix.1 h
  exact ⟨r, hr.symm⟩
theorem comS_no1 (t : List UInt8) : [45, 45, 62].isPrefixOf (comS t).1 = false := by
  rw [Bool.eq_false_iff]
  intro h
  obtain ⟨r, hr⟩ := pre_of h
  obtain ⟨t1, rfl, h1, hn, _⟩ := comS_hd (by decide) hr
  obtain ⟨t2, rfl, h2, _, _⟩ := comS_hd (by decide) h1
  obtain ⟨t3, rfl, h3, _, _⟩ := comS_hd (by decide) h2
  simp [List.isPrefixOf] at hn
theorem comS_no2 (t : List UInt8) : [45, 45, 33, 62].isPrefixOf (comS t).1 = false := by
  rw [Bool.eq_false_iff]
  intro h
  obtain ⟨r, hr⟩ := pre_of h
  obtain ⟨t1, rfl, h1, _, hn⟩ := comS_hd (by decide) hr
  obtain ⟨t2, rfl, h2, _, _⟩ := comS_hd (by decide) h1
  obtain ⟨t3, rfl, h3, _, _⟩ := comS_hd (by decide) h2
  obtain ⟨t4, rfl, h4, _, _⟩ := comS_hd (by decide) h3
  simp [List.isPrefixOf] at hn
theorem comS_noEnd : ∀ t : List UInt8, noEnd (comS t).1 = true
  | [] => rfl
  | b :: t => by
    have ih := comS_noEnd t
    have n1 := comS_no1 (b :: t)
    have n2 := comS_no2 (b :: t)
    rcases comS_or b t with h0 | ⟨h1, _, _⟩
    · rw [h0]; rfl
    · rw [h1] at n1 n2 ⊢
      have e : (pre (nul1 b) 1 (comS t)).1 = nul1 b ++ (comS t).1 := rfl
      rw [e] at n1 n2 ⊢
      unfold nul1 at n1 n2 ⊢
      by_cases hb : b = 0
      · rw [if_pos hb]
        show noEnd (239 :: 191 :: 189 :: (comS t).1) = true
        simp [noEnd, List.isPrefixOf, ih]
      · rw [if_neg hb] at n1 n2 ⊢
        have n1' : [45, 45, 62].isPrefixOf (b :: (comS t).1) = false := n1
        have n2' : [45, 45, 33, 62].isPrefixOf (b :: (comS t).1) = false := n2
        show noEnd (b :: (comS t).1) = true
        rw [noEnd, n1', n2', ih]
        rfl
/-- What any comment is read as is data that is read back. -/
theorem com_fit (u : List UInt8) : fitL (comL u).1 = true := by
  unfold comL
  by_cases h1 : [62].isPrefixOf u = true
  · rw [if_pos h1]; rfl
  · rw [if_neg h1]
    by_cases h2 : [45, 62].isPrefixOf u = true
    · rw [if_pos h2]; rfl
    · rw [if_neg h2]
      unfold fitL
      have a1 : [62].isPrefixOf (comS u).1 = false := by
        rw [Bool.eq_false_iff]
        intro h
        obtain ⟨r, hr⟩ := pre_of h
        obtain ⟨t1, rfl, _, _, _⟩ := comS_hd (by decide) hr
        simp [List.isPrefixOf] at h1
      have a2 : [45, 62].isPrefixOf (comS u).1 = false := by
        rw [Bool.eq_false_iff]
        intro h
        obtain ⟨r, hr⟩ := pre_of h
        obtain ⟨t1, rfl, h3, _, _⟩ := comS_hd (by decide) hr
        obtain ⟨t2, rfl, _, _, _⟩ := comS_hd (by decide) h3
        simp [List.isPrefixOf] at h2
      rw [a1, a2, comS_noEnd]
      rfl

theorem no_end1 (b : UInt8) (d m : List UInt8) (h : [45, 45, 62].isPrefixOf (b :: d) = false) : [45, 45, 62].isPrefixOf (b :: (d ++ 45 :: 45 :: 62 :: m)) = false := by
  match d, h with
  | [], _ => simp [List.isPrefixOf]
  | [x], _ => simp [List.isPrefixOf]
  | x :: y :: d, h => simpa [List.isPrefixOf] using h
theorem no_end2 (b : UInt8) (d m : List UInt8) (h : [45, 45, 33, 62].isPrefixOf (b :: d) = false) : [45, 45, 33, 62].isPrefixOf (b :: (d ++ 45 :: 45 :: 62 :: m)) = false := by
  match d, h with
  | [], _ => simp [List.isPrefixOf]
  | [x], _ => simp [List.isPrefixOf]
  | [x, y], _ => simp [List.isPrefixOf]
  | x :: y :: z :: d, h => simpa [List.isPrefixOf] using h
theorem comS_back (m : List UInt8) : ∀ d : List UInt8, (∀ x ∈ d, x ≠ 0) → noEnd d = true → comS (d ++ 45 :: 45 :: 62 :: m) = (d, d.length + 3)
  | [], _, _ => by
    show comS (45 :: 45 :: 62 :: m) = _
    rw [comS, if_pos (by simp [List.isPrefixOf])]
    rfl
  | b :: d, hz, hn => by
    rw [noEnd, Bool.and_eq_true, Bool.and_eq_true] at hn
    obtain ⟨⟨h1, h2⟩, h3⟩ := hn
    have e1 := no_end1 b d m (by rw [Bool.not_eq_true'] at h1; exact h1)
    have e2 := no_end2 b d m (by rw [Bool.not_eq_true'] at h2; exact h2)
    have hl : 4 ≤ (b :: (d ++ 45 :: 45 :: 62 :: m)).length := by simp; omega
    have ih := comS_back m d (fun x hx => hz x (by simp [hx])) h3
    rw [List.cons_append, comS, e1, e2, if_neg Bool.false_ne_true, if_neg Bool.false_ne_true, if_neg (fun e => by rw [e] at hl; simp at hl), if_neg (fun e => by rw [e] at hl; simp at hl), if_neg (fun e => by rw [e] at hl; simp at hl), ih]
    have hb : nul1 b = [b] := by unfold nul1; exact if_neg (hz b (by simp))
    rw [hb]
    show ([b] ++ d, 1 + (d.length + 3)) = _
    rw [List.length_cons]
    congr 1
    omega
/-- Such data is read back. -/
theorem com_back (d m : List UInt8) (hz : ∀ x ∈ d, x ≠ 0) (hf : fitL d = true) : comL (d ++ 45 :: 45 :: 62 :: m) = (d, d.length + 3) := by
  unfold fitL at hf
  rw [Bool.and_eq_true, Bool.and_eq_true] at hf
  obtain ⟨⟨h1, h2⟩, h3⟩ := hf
  have a1 : [62].isPrefixOf (d ++ 45 :: 45 :: 62 :: m) = false := by
    match d, h1 with
    | [], _ => simp [List.isPrefixOf]
    | x :: d, h => simpa [List.isPrefixOf] using h
  have a2 : [45, 62].isPrefixOf (d ++ 45 :: 45 :: 62 :: m) = false := by
    match d, h2 with
    | [], _ => simp [List.isPrefixOf]
    | [x], _ => simp [List.isPrefixOf]
    | x :: y :: d, h => rw [Bool.not_eq_true'] at h; exact h
  unfold comL
  rw [a1, a2, if_neg Bool.false_ne_true, if_neg Bool.false_ne_true]
  exact comS_back m d hz h3
end Go.Proofs.YtofiaodpjpjedaaGreatDoor

namespace Go.Proofs.YtofiaodpjpjedaaGreatDoor
open Go.Lib
set_option maxRecDepth 100000

theorem cut_no {s p : List UInt8} (h : Lib.index s p = -1) : (Lib.cut s p).1 = s := by unfold Lib.cut; rw [h, if_neg (by decide)]
theorem cut_yes {s p : List UInt8} {n : Nat} (h : Lib.index s p = n) : (Lib.cut s p).1 = s.take n := by
  unfold Lib.cut
  rw [h, if_pos (by omega)]
  rfl
theorem utL_of {p t x : List UInt8} (h : (Lib.cut t p).1 = x) : utL p t = (x, x.length + if p.isPrefixOf (t.drop x.length) then p.length else 0) := by subst h; rfl
theorem utL_nil (p : List UInt8) (hp : p ≠ []) : utL p [] = ([], 0) := by
  have h : Lib.index [] p = -1 := by
    cases p with
    | nil => exact absurd rfl hp
    | cons a p => rfl
  rw [utL_of (cut_no h)]
  cases p with
  | nil => exact absurd rfl hp
  | cons a p => rfl
theorem utL_cons (p : List UInt8) (b : UInt8) (t : List UInt8) : utL p (b :: t) = if p.isPrefixOf (b :: t) then ([], p.length) else pre [b] 1 (utL p t) := by
  have hi : Lib.index (b :: t) p = if p.isPrefixOf (b :: t) then 0 else if Lib.index t p == -1 then -1 else Lib.index t p + 1 := rfl
  by_cases h : p.isPrefixOf (b :: t) = true
  · rw [if_pos h]
    rw [if_pos h] at hi
    rw [utL_of (cut_yes (n := 0) hi)]
    simp [h]
  · rw [if_neg h]
    rw [if_neg h] at hi
    by_cases h1 : Lib.index t p = -1
    · rw [h1, if_pos (by decide)] at hi
      rw [utL_of (cut_no hi), utL_of (cut_no h1)]
      refine Prod.ext rfl ?_
      show (t.length + 1) + (if p.isPrefixOf (t.drop t.length) then p.length else 0) = 1 + (t.length + (if p.isPrefixOf (t.drop t.length) then p.length else 0))
      omega
    · have hg := Lib.index_ge t p
      rw [if_neg (by rw [beq_iff_eq]; exact h1)] at hi
      obtain ⟨n, hn⟩ : ∃ n : Nat, Lib.index t p = n := ⟨(Lib.index t p).toNat, by omega⟩
      rw [hn] at hi
      rw [utL_of (cut_yes (n := n + 1) hi), utL_of (cut_yes hn), List.take_succ_cons]
      refine Prod.ext rfl ?_
      show ((t.take n).length + 1) + (if p.isPrefixOf (t.drop (t.take n).length) then p.length else 0) = 1 + ((t.take n).length + (if p.isPrefixOf (t.drop (t.take n).length) then p.length else 0))
      omega
theorem utL_le (p : List UInt8) : ∀ t : List UInt8, (utL p t).2 ≤ t.length + p.length
  | [] => by
    unfold utL
    have : (Lib.cut [] p).1 = [] := by unfold Lib.cut; split <;> simp
    rw [this]
    simp only [List.length_nil, Nat.zero_add]
    split <;> omega
  | b :: t => by
    have := utL_le p t
    rw [utL_cons]
    split
    · show p.length ≤ _; omega
    · show 1 + (utL p t).2 ≤ _
      rw [List.length_cons]; omega
/-- No mark so far. -/
theorem utL_run (p : List UInt8) : ∀ (k : Nat) (t : List UInt8), k ≤ t.length → (∀ j, j < k → p.isPrefixOf (t.drop j) = false) → utL p t = pre (t.take k) k (utL p (t.drop k))
  | 0, t, _, _ => by simp [pre]
  | k + 1, [], h, _ => by simp at h
  | k + 1, b :: t, h, hn => by
    have h0 : p.isPrefixOf (b :: t) = false := hn 0 (by omega)
    rw [utL_cons, h0, if_neg (by simp), utL_run p k t (by simp at h; omega) (fun j hj => by have := hn (j + 1) (by omega); simpa using this), pre_pre, List.take_succ_cons, List.drop_succ_cons, Nat.add_comm 1]
    rfl

/-! ### Comments -/
def endAt (t : List UInt8) : Bool := [45, 45, 62].isPrefixOf t || [45, 45, 33, 62].isPrefixOf t
/-- No end so far, and one here. -/
theorem comS_at : ∀ (k : Nat) (t : List UInt8), (∀ j, j < k → endAt (t.drop j) = false) → endAt (t.drop k) = true → comS t = pre (nulL (t.take k)) k (comS (t.drop k))
  | 0, t, _, _ => by simp [pre_nil, nulL_nil]
  | k + 1, [], _, h => by simp [endAt] at h
  | k + 1, b :: t, hn, h => by
    have h0 : endAt (b :: t) = false := hn 0 (by omega)
    unfold endAt at h0
    rw [Bool.or_eq_false_iff] at h0
    have ih := comS_at k t (fun j hj => by have := hn (j + 1) (by omega); simpa using this) (by simpa using h)
    have tl : b :: t ≠ [45, 45, 33] ∧ b :: t ≠ [45, 45] ∧ b :: t ≠ [45] := by
      refine ⟨?_, ?_, ?_⟩
      all_goals
        intro e
        injection e with e1 e2
        subst e1
        subst e2
        rcases k with _ | _ | _ | k <;> simp [endAt] at h
    rw [comS, h0.1, h0.2, if_neg (by simp), if_neg (by simp), if_neg tl.1, if_neg tl.2.1, if_neg tl.2.2, ih, pre_pre, List.take_succ_cons, List.drop_succ_cons, nulL_cons, Nat.add_comm 1]
/-- The end of the string, with what of an end may stand there. -/
def tailR (t : List UInt8) : List UInt8 × Nat :=
  if [45, 45, 33].isSuffixOf t then (nulL (t.take (t.length - 3)), t.length)
  else if [45, 45].isSuffixOf t then (nulL (t.take (t.length - 2)), t.length)
  else if [45].isSuffixOf t then (nulL (t.take (t.length - 1)), t.length)
  else (nulL t, t.length)
theorem suf_cons (x : List UInt8) (b : UInt8) (t : List UInt8) (h : b :: t ≠ x) : x.isSuffixOf (b :: t) = x.isSuffixOf t := by
  rw [Bool.eq_iff_iff, List.isSuffixOf_iff_suffix, List.isSuffixOf_iff_suffix, List.suffix_cons_iff]
  constructor
  · rintro (e | e)
    · exact absurd e.symm h
    · exact e
  · exact .inr
theorem suf_len {x t : List UInt8} (h : x.isSuffixOf t = true) : x.length ≤ t.length := (List.isSuffixOf_iff_suffix.1 h).length_le
theorem tailR_cons (b : UInt8) (t : List UInt8) (h3 : b :: t ≠ [45, 45, 33]) (h2 : b :: t ≠ [45, 45]) (h1 : b :: t ≠ [45]) : tailR (b :: t) = pre (nul1 b) 1 (tailR t) := by
  unfold tailR
  rw [suf_cons _ b t h3, suf_cons _ b t h2, suf_cons _ b t h1]
  have key : ∀ n, n ≤ t.length → ((b :: t).take ((b :: t).length - n)) = b :: t.take (t.length - n) := by
    intro n hn
    rw [List.length_cons, show t.length + 1 - n = t.length - n + 1 by omega, List.take_succ_cons]
  have p : ∀ l : List UInt8, pre (nul1 b) 1 (nulL l, t.length) = (nulL (b :: l), (b :: t).length) := by
    intro l
    rw [nulL_cons, List.length_cons]
    show (_, 1 + t.length) = _
    rw [Nat.add_comm]
  by_cases c3 : [45, 45, 33].isSuffixOf t = true
  · rw [if_pos c3, if_pos c3, p, key 3 (suf_len c3)]
  · rw [if_neg c3, if_neg c3]
    by_cases c2 : [45, 45].isSuffixOf t = true
    · rw [if_pos c2, if_pos c2, p, key 2 (suf_len c2)]
    · rw [if_neg c2, if_neg c2]
      by_cases c1 : [45].isSuffixOf t = true
      · rw [if_pos c1, if_pos c1, p, key 1 (suf_len c1)]
      · rw [if_neg c1, if_neg c1, p]
theorem comS_tail : ∀ t : List UInt8, (∀ j, j < t.length → endAt (t.drop j) = false) → comS t = tailR t
  | [], _ => by decide
  | b :: t, hn => by
    have h0 : endAt (b :: t) = false := hn 0 (by simp)
    unfold endAt at h0
    rw [Bool.or_eq_false_iff] at h0
    by_cases h3 : b :: t = [45, 45, 33]
    · rw [h3]; decide
    by_cases h2 : b :: t = [45, 45]
    · rw [h2]; decide
    by_cases h1 : b :: t = [45]
    · rw [h1]; decide
    have ih := comS_tail t (fun j hj => by have := hn (j + 1) (by simp; omega); simpa using this)
    rw [comS, h0.1, h0.2, if_neg (by simp), if_neg (by simp), if_neg h3, if_neg h2, if_neg h1, ih, tailR_cons b t h3 h2 h1]
theorem comS_3e {t : List UInt8} (h : [45, 45, 62].isPrefixOf t = true) : comS t = ([], 3) := by
  cases t with
  | nil => simp [List.isPrefixOf] at h
  | cons b t => rw [comS, if_pos h]
theorem comS_4e {t : List UInt8} (h3 : [45, 45, 62].isPrefixOf t = false) (h : [45, 45, 33, 62].isPrefixOf t = true) : comS t = ([], 4) := by
  cases t with
  | nil => simp [List.isPrefixOf] at h
  | cons b t => rw [comS, h3, if_neg (by simp), if_pos h]
end Go.Proofs.YtofiaodpjpjedaaGreatDoor

namespace Go.Proofs.YtofiaodpjpjedaaGreatDoor
open Go.RowKit Go.Shelf Go.Lib
set_option maxHeartbeats 4000000
set_option maxRecDepth 100000

theorem ext_take2 (s : ByteArray) (k n : Nat) (h : k ≤ n) (hn : n ≤ s.size) : s.extract k n = bl ((s.data.toList.drop k).take (n - k)) := by
  have h1 := ext_take s k (n - k) (by omega)
  rw [show k + (n - k) = n by omega] at h1
  exact bl_eq h1

theorem qUpTo (s : ByteArray) (a : Int) (p : ByteArray) (hp : p.data.toList ≠ []) (hps : p.size ≤ 10) (hs : s.size ≤ 1000000) (w : World) :
    Calls Tryz.prog 71 #[.string s, .int .i64 a, .string p] w fun e w' => e = .returned (.tuple #[.string (bl (utL p.data.toList (tlS s a)).1), .int .i64 ((clip s a + (utL p.data.toList (tlS s a)).2 : Nat) : Int)]) ∧ w' = w := by
  have HC := Lib.hid (fun W => qClip s a W)
  have hk := clip_le s a
  unfold tlS
  generalize clip s a = k at HC hk ⊢
  have HP := Lib.hid hp
  have HSZ := Lib.hid hs
  have HK := Lib.hid hk
  have HB := Lib.hid (fun (j : Nat) (h : j ≤ s.size) W => rBegins1 (s.extract j s.size) p W)
  clear hp hs
  go_enter Tryz.func71, Tryz.ntmps71
  go_wp2_with fail
  refine (HC.out w).mono ?_
  rintro e w1 ⟨rfl, rfl⟩
  go_wp2_with fail
  go_loop [8] (fun i => ∃ j : Nat, k ≤ j ∧ j ≤ s.size ∧ i = .int .i64 j ∧ utL p.data.toList (s.data.toList.drop k) = pre ((s.data.toList.drop k).take (j - k)) (j - k) (utL p.data.toList (s.data.toList.drop j))) (fun i => s.size - (intOf i).toNat)
  case atStart => exact ⟨k, Nat.le_refl _, hk, rfl, by rw [Nat.sub_self]; simp [pre]⟩
  case round =>
    obtain ⟨j, hkj, hj, rfl, heq⟩ := hrel
    have HEQ := Lib.hid heq
    clear heq
    have hz2 : (s.size : Int) ≤ 1000000 := by have := HSZ.out; omega
    by_cases hlt : j < s.size
    · have hI : (j : Int) < (s.size : Int) := by omega
      have hB := fun W => HB.out j hj W
      have hx := ext_drop s j
      rw [hx] at hB
      obtain ⟨q, hq⟩ : ∃ q, q = p.data.toList.isPrefixOf (s.data.toList.drop j) := ⟨_, rfl⟩
      rw [← hq] at hB
      have HBj := Lib.hid hB
      have HQ := Lib.hid hq
      clear hB hx hq
      have hst : utL p.data.toList (s.data.toList.drop j) = if q then ([], p.data.toList.length) else pre [s[j]'hlt] 1 (utL p.data.toList (s.data.toList.drop (j + 1))) := by
        rw [HQ.out, drop_byte s j hlt, utL_cons]
      have HST := Lib.hid hst
      clear hst
      cases q
      · go_wp2_with fail
        refine (HBj.out _).mono ?_
        rintro e w2 ⟨rfl, rfl⟩
        go_wp2_with fail
        go_round
        case rel =>
          refine ⟨j + 1, by omega, by omega, by go_num, ?_⟩
          rw [HEQ.out, HST.out, if_neg (by simp), pre_pre]
          have e1 : (s.data.toList.drop k).take (j + 1 - k) = (s.data.toList.drop k).take (j - k) ++ [s[j]'hlt] := by
            have hg : (s.data.toList.drop k)[j - k]? = some (s[j]'hlt) := by
              rw [List.getElem?_drop, show k + (j - k) = j by omega, Array.getElem?_toList]
              exact Array.getElem?_eq_getElem (xs := s.data) hlt
            rw [show j + 1 - k = (j - k) + 1 by omega, List.take_add_one, hg]
            rfl
          rw [e1, show j - k + 1 = j + 1 - k by omega]
        case measure => simp [intOf]; omega
      · have hz3 : (p.size : Int) ≤ 10 := by omega
        have hkI : (k : Int) ≤ (j : Int) := by omega
        go_wp2_with fail
        refine (HBj.out _).mono ?_
        rintro e w2 ⟨rfl, rfl⟩
        go_wp2_with fail
        go_ret2
        refine ⟨?_, rfl⟩
        rw [HEQ.out, HST.out, if_pos trivial, ext_take2 s k j hkj hj]
        refine ret2_si ?_ ?_
        · simp [pre]
        · simp only [pre]
          rw [size_list]
          omega
    · have hI2 : ¬ (j : Int) < (s.size : Int) := by omega
      have hj' : j = s.size := by omega
      have hkI : (k : Int) ≤ (s.size : Int) := by have := HK.out; omega
      have hfin : utL p.data.toList (s.data.toList.drop k) = (s.data.toList.drop k, s.size - k) := by
        rw [HEQ.out, drop_end s j (by omega), utL_nil _ HP.out]
        have e1 : (s.data.toList.drop k).take (j - k) = s.data.toList.drop k := List.take_of_length_le (by rw [List.length_drop, size_list]; omega)
        rw [e1, hj']
        simp [pre]
      have HF := Lib.hid hfin
      clear hfin hj'
      go_wp2_with fail
      go_ret2
      refine ⟨?_, rfl⟩
      rw [HF.out, show s.extract k s.size = bl (s.data.toList.drop k) from bl_eq (ext_drop s k)]
      exact ret2_si rfl (by have := HK.out; simp only; omega)

theorem qBogus (s : ByteArray) (a : Int) (hs : s.size ≤ 1000000) (w : World) :
    Calls Tryz.prog 21 #[.string s, .int .i64 a] w fun e w' => e = .returned (.tuple #[.string (bl (nulL (utL [62] (tlS s a)).1)), .int .i64 ((clip s a + (utL [62] (tlS s a)).2 : Nat) : Int)]) ∧ w' = w := by
  have HU := Lib.hid (qUpTo s a ⟨#[62]⟩ (by simp) (by decide) hs w)
  obtain ⟨V, hV⟩ : ∃ V, V = bl (utL [62] (tlS s a)).1 := ⟨_, rfl⟩
  obtain ⟨n, hn⟩ : ∃ n : Int, n = ((clip s a + (utL [62] (tlS s a)).2 : Nat) : Int) := ⟨_, rfl⟩
  have hV1 : (utL [62] (tlS s a)).1.length ≤ s.size := by
    have h := (cut_pre (tlS s a) [62]).length_le
    unfold tlS at h ⊢
    rw [List.length_drop, size_list] at h
    show (Lib.cut _ _).1.length ≤ _
    omega
  have HN := Lib.hid (qNul V (by rw [hV, bl_size]; omega) w)
  rw [show (ByteArray.mk #[62]).data.toList = [62] from rfl, ← hV, ← hn] at HU
  have hVl : V.data.toList = (utL [62] (tlS s a)).1 := by rw [hV]; rfl
  rw [hVl] at HN
  rw [← hn]
  obtain ⟨V2, hV2⟩ : ∃ V2, V2 = bl (nulL (utL [62] (tlS s a)).1) := ⟨_, rfl⟩
  rw [← hV2] at HN ⊢
  clear hV hV1 hVl hn hV2 hs
  go_enter Tryz.func21, Tryz.ntmps21
  go_wp2_with fail
  refine HU.out.mono ?_
  rintro e w1 ⟨rfl, rfl⟩
  go_wp2_with fail
  refine HN.out.mono ?_
  rintro e w2 ⟨rfl, rfl⟩
  go_wp2_with fail
  go_ret2
  exact ⟨rfl, rfl⟩
theorem qCdata (s : ByteArray) (a : Int) (hs : s.size ≤ 1000000) (w : World) :
    Calls Tryz.prog 23 #[.string s, .int .i64 a] w fun e w' => e = .returned (.tuple #[.string (bl (utL [93, 93, 62] (tlS s a)).1), .int .i64 ((clip s a + (utL [93, 93, 62] (tlS s a)).2 : Nat) : Int)]) ∧ w' = w := by
  have HU := Lib.hid (qUpTo s a ⟨#[93, 93, 62]⟩ (by simp) (by decide) hs w)
  obtain ⟨V, hV⟩ : ∃ V, V = bl (utL [93, 93, 62] (tlS s a)).1 := ⟨_, rfl⟩
  obtain ⟨n, hn⟩ : ∃ n : Int, n = ((clip s a + (utL [93, 93, 62] (tlS s a)).2 : Nat) : Int) := ⟨_, rfl⟩
  rw [show (ByteArray.mk #[93, 93, 62]).data.toList = [93, 93, 62] from rfl, ← hV, ← hn] at HU
  rw [← hn, ← hV]
  clear hV hn hs
  go_enter Tryz.func23, Tryz.ntmps23
  go_wp2_with fail
  refine HU.out.mono ?_
  rintro e w1 ⟨rfl, rfl⟩
  go_wp2_with fail
  go_ret2
  exact ⟨rfl, rfl⟩
theorem qPlain (s : ByteArray) (a : Int) (hs : s.size ≤ 1000000) (w : World) :
    Calls Tryz.prog 35 #[.string s, .int .i64 a] w fun e w' => e = .returned (.tuple #[.string (bl (nulL (tlS s a))), .int .i64 s.size]) ∧ w' = w := by
  have HC := Lib.hid (fun W => qClip s a W)
  have hk := clip_le s a
  unfold tlS
  generalize clip s a = k at HC hk ⊢
  have HN := Lib.hid (qNul (s.extract k s.size) (by rw [ByteArray.size_extract]; omega) w)
  rw [ext_drop] at HN
  obtain ⟨V, hV⟩ : ∃ V, V = bl (nulL (s.data.toList.drop k)) := ⟨_, rfl⟩
  rw [← hV] at HN ⊢
  have hkI : (k : Int) ≤ (s.size : Int) := by omega
  have hz2 : (s.size : Int) ≤ 1000000 := by omega
  clear hV hs hk
  go_enter Tryz.func35, Tryz.ntmps35
  go_wp2_with fail
  refine (HC.out w).mono ?_
  rintro e w1 ⟨rfl, rfl⟩
  go_wp2_with fail
  refine HN.out.mono ?_
  rintro e w2 ⟨rfl, rfl⟩
  go_wp2_with fail
  go_ret2
  exact ⟨rfl, rfl⟩
end Go.Proofs.YtofiaodpjpjedaaGreatDoor

namespace Go.Proofs.YtofiaodpjpjedaaGreatDoor
open Go.RowKit
set_option maxHeartbeats 2000000
set_option maxRecDepth 100000

def nR (c : UInt8) (l : List UInt8) : Nat := (l.takeWhile fun b => b != c).length
theorem nR_nil (c : UInt8) : nR c [] = 0 := rfl
theorem nR_yes {c b : UInt8} (t : List UInt8) (h : b = c) : nR c (b :: t) = 0 := by simp [nR, h]
theorem nR_no {c b : UInt8} (t : List UInt8) (h : b ≠ c) : nR c (b :: t) = nR c t + 1 := by simp [nR, h]
theorem nR_le (c : UInt8) (l : List UInt8) : nR c l ≤ l.length := (List.takeWhile_sublist _).length_le

theorem rWord (at_ : Nat) (h : at_ ≤ 29726) (w : World) :
    Calls Tryz.prog 116 #[.int .i64 at_] w fun e w' => e = .returned (.int .i64 (at_ + nR 32 (NM.data.toList.drop at_) : Nat)) ∧ w' = w := by
  have hsz := nm_size
  go_enter Tryz.func116, Tryz.ntmps116
  generalize hN : (ByteArray.mk (List.toArray (List.append _ _))) = N
  have HN : NM = N := by rw [← hN]; rfl
  clear hN
  rw [HN] at hsz ⊢
  clear HN
  have HSZ := Lib.hid hsz
  have hsi : (N.size : Int) = 29726 := by omega
  clear hsz
  obtain ⟨R, hR⟩ : ∃ R, R = at_ + nR 32 (N.data.toList.drop at_) := ⟨_, rfl⟩
  rw [← hR]
  have HR := Lib.hid hR
  clear hR
  go_wp2_with fail
  go_loop [0] (fun i => ∃ k : Nat, k ≤ 29726 ∧ i = .int .i64 k ∧ k + nR 32 (N.data.toList.drop k) = R) (fun i => 29726 - (intOf i).toNat)
  case atStart => exact ⟨at_, h, rfl, HR.out.symm⟩
  case round =>
    obtain ⟨k, hk, rfl, hr⟩ := hrel
    have HRR := Lib.hid hr
    clear hr
    by_cases hlt : k < 29726
    · have hlt2 : k < N.size := by rw [HSZ.out]; exact hlt
      have hI : (k : Int) < (N.size : Int) := by omega
      have hI2 : (k : Int) < 29726 := by omega
      have HD := Lib.hid (drop_byte N k hlt2)
      by_cases hb : N[k]'hlt2 = 32
      · have hq : (((N[k]'hlt2).toNat : Int) != 32) = false := by rw [hb]; rfl
        have HF : Hid (k = R) := Lib.hid (by rw [← HRR.out, HD.out, nR_yes _ hb]; rfl)
        clear hb
        go_wp2_with fail
        go_ret
        exact ⟨ret_int (by rw [HF.out]), rfl⟩
      · have hq : (((N[k]'hlt2).toNat : Int) != 32) = true := by
          rw [bne_iff_ne]
          intro e
          exact hb (UInt8.toNat_inj.mp (by show _ = 32; omega))
        have HF : Hid (k + 1 + nR 32 (N.data.toList.drop (k + 1)) = R) := Lib.hid (by rw [← HRR.out, HD.out, nR_no _ hb]; omega)
        clear hb
        go_wp2_with fail
        go_round
        case rel => exact ⟨k + 1, by omega, by go_num, HF.out⟩
        case measure => simp [intOf]; omega
    · have hI : ¬ (k : Int) < (N.size : Int) := by omega
      have hI2 : ¬ (k : Int) < 29726 := by omega
      have HF : Hid (k = R) := Lib.hid (by rw [← HRR.out, drop_end N k (by rw [HSZ.out]; omega)]; rfl)
      go_wp2_with fail
      go_ret
      exact ⟨ret_int (by rw [HF.out]), rfl⟩

theorem rSign (from_ to_ : Nat) (hft : from_ ≤ to_) (ht : to_ ≤ 29726) (w : World) :
    Calls Tryz.prog 117 #[.int .i64 from_, .int .i64 to_] w fun e w' => e = .returned (.int .i64 (from_ + nR 61 (cutAt NM.data.toList from_ to_) : Nat)) ∧ w' = w := by
  have hsz := nm_size
  go_enter Tryz.func117, Tryz.ntmps117
  generalize hN : (ByteArray.mk (List.toArray (List.append _ _))) = N
  have HN : NM = N := by rw [← hN]; rfl
  clear hN
  rw [HN] at hsz ⊢
  clear HN
  have HSZ := Lib.hid hsz
  have hsi : (N.size : Int) = 29726 := by omega
  clear hsz
  obtain ⟨R, hR⟩ : ∃ R, R = from_ + nR 61 (cutAt N.data.toList from_ to_) := ⟨_, rfl⟩
  rw [← hR]
  have HR := Lib.hid hR
  clear hR
  go_wp2_with fail
  go_loop [0] (fun i => ∃ k : Nat, k ≤ to_ ∧ i = .int .i64 k ∧ k + nR 61 (cutAt N.data.toList k to_) = R) (fun i => to_ - (intOf i).toNat)
  case atStart => exact ⟨from_, hft, rfl, HR.out.symm⟩
  case round =>
    obtain ⟨k, hk, rfl, hr⟩ := hrel
    have HRR := Lib.hid hr
    clear hr
    by_cases hlt : k < to_
    · have hlt2 : k < N.size := by rw [HSZ.out]; omega
      have hI : (k : Int) < (N.size : Int) := by omega
      have hI2 : (k : Int) < (to_ : Int) := by omega
      have hI3 : (k : Int) < 29726 := by omega
      have hD : cutAt N.data.toList k to_ = N[k]'hlt2 :: cutAt N.data.toList (k + 1) to_ := by
        unfold cutAt
        have hl2 : k < (N.data.toList.take to_).length := by rw [List.length_take, size_list]; omega
        rw [List.drop_eq_getElem_cons hl2, List.getElem_take]
        rfl
      have HD := Lib.hid hD
      clear hD
      by_cases hb : N[k]'hlt2 = 61
      · have hq : (((N[k]'hlt2).toNat : Int) != 61) = false := by rw [hb]; rfl
        have HF : Hid (k = R) := Lib.hid (by rw [← HRR.out, HD.out, nR_yes _ hb]; rfl)
        clear hb
        go_wp2_with fail
        go_ret
        exact ⟨ret_int (by rw [HF.out]), rfl⟩
      · have hq : (((N[k]'hlt2).toNat : Int) != 61) = true := by
          rw [bne_iff_ne]
          intro e
          exact hb (UInt8.toNat_inj.mp (by show _ = 61; omega))
        have HF : Hid (k + 1 + nR 61 (cutAt N.data.toList (k + 1) to_) = R) := Lib.hid (by rw [← HRR.out, HD.out, nR_no _ hb]; omega)
        clear hb
        go_wp2_with fail
        go_round
        case rel => exact ⟨k + 1, by omega, by go_num, HF.out⟩
        case measure => simp [intOf]; omega
    · have hI : ¬ (k : Int) < (to_ : Int) := by omega
      have HF : Hid (k = R) := Lib.hid (by
        rw [← HRR.out]
        unfold cutAt
        rw [List.drop_eq_nil_of_le (by rw [List.length_take]; omega)]
        rfl)
      go_wp2_with fail
      go_ret
      exact ⟨ret_int (by rw [HF.out]), rfl⟩

theorem own_form2 {w : World} {B e size n : Nat} {v : Value} {xs : List Value} (h : w.ownsRow B e size v n xs) : ∃ a c, v = .slice a n c := by
  rcases h.2 with ⟨rfl, rfl⟩ | ⟨g, cap, cur, rfl, _⟩
  · exact ⟨_, _, rfl⟩
  · exact ⟨_, _, rfl⟩

theorem rValue (s : ByteArray) (hs : s.size ≤ 100) (hok : okVal 0 s.data.toList = true) (w : World) :
    Calls Tryz.prog 118 #[.string s] w fun e w' => e = .returned (.string ⟨((refVal 0 s.data.toList).flatMap encU).toArray⟩) ∧ Below w.heap.size w w' := by
  obtain ⟨i0, hi, hz0, hz1, hz2⟩ := info_parts info_i32
  have hbd := refVal_bd s.data.toList 0 (by omega) hok
  have hln := refVal_len s.data.toList 0
  rw [size_list] at hln
  obtain ⟨R, hR⟩ : ∃ R, R = refVal 0 s.data.toList := ⟨_, rfl⟩
  rw [← hR] at hbd hln ⊢
  have HR := Lib.hid hR
  have HBD := Lib.hid hbd
  clear hR hbd
  go_enter Tryz.func118, Tryz.ntmps118
  go_wp2_with fail
  go_loopw [3, 4, 5] (fun v nv iv wr => ∃ (k n : Nat) (z : Int) (pre : List Int), k ≤ s.size + 1 ∧ iv = .int .i64 k ∧ nv = .int .i64 z ∧ 0 ≤ z ∧ pre.length = n ∧ n ≤ k ∧ (k ≤ s.size → pre ++ refVal z (s.data.toList.drop k) = R ∧ okVal z (s.data.toList.drop k) = true) ∧ (s.size < k → pre = R) ∧ wr.ownsRow w.heap.size 21 1 v n (i32c pre) ∧ Below w.heap.size w wr) (fun _ _ iv _ => s.size + 1 - (intOf iv).toNat)
  case atStart => exact ⟨0, 0, 0, [], Nat.zero_le _, rfl, rfl, by omega, rfl, Nat.le_refl _, fun _ => ⟨HR.out.symm, by simpa using hok⟩, fun h => absurd h (by omega), World.ownsRow_nil _ _ _ _, Below.refl _ _⟩
  case round =>
    obtain ⟨k, n, z, pre, hk, rfl, rfl, hz, hln2, hnk, hrest, hend, hown, hB⟩ := hrel
    have HLN := Lib.hid hln2
    have HREST := Lib.hid hrest
    have HEND := Lib.hid hend
    have hsz := hB.size
    clear hln2 hrest hend
    by_cases hle : k ≤ s.size
    · have hI : (k : Int) ≤ (s.size : Int) := by omega
      obtain ⟨h1, h2⟩ := HREST.out hle
      have hzu := okVal_bd _ z hz h2
      by_cases hlt : k < s.size
      · have hI2 : (k : Int) < (s.size : Int) := by omega
        have hne : ((k : Int) == (s.size : Int)) = false := by rw [beq_eq_false_iff_ne]; omega
        rw [drop_byte s k hlt] at h1 h2
        by_cases hb : s[k]'hlt = 44
        · have hq : (((s[k]'hlt).toNat : Int) == 44) = true := by rw [hb]; rfl
          rw [refVal, if_pos hb] at h1
          rw [okVal, if_pos hb, Bool.and_eq_true] at h2
          have HN : Hid ((pre ++ [z]) ++ refVal 0 (s.data.toList.drop (k + 1)) = R ∧ okVal 0 (s.data.toList.drop (k + 1)) = true) := Lib.hid ⟨by rw [← h1]; simp, h2.2⟩
          clear h1 h2 hb
          go_wp2_with (first | (at_builtin; refine wpList_append_own _ rfl _ _ 134 rfl w.heap.size 21 i0 (.int .i32 0) 1 4 Tryz.underlying134 hi hz0 hz1 hz2 rfl (by decide) _ _ _ rfl (hown.alloc _) ⟨_, 0, none⟩ 1 1 [.int .i32 z] rfl rfl (one_cell _ _ _) (one_oneI _) (by unfold maxLen; omega) (by omega) (by simp; omega) ?_; intro v' w9 hown' hgrow _))
          have hB' := own_grown hB hown rfl hgrow
          have HO : Hid (w9.ownsRow w.heap.size 21 1 v' (n + 1) (i32c (pre ++ [z]))) := Lib.hid (by
            have := hown'
            simpa [i32c] using this)
          clear hown' hgrow
          go_wp2
          go_roundw
          case rel => exact ⟨k + 1, n + 1, 0, pre ++ [z], by omega, by go_num, rfl, by omega, by have := HLN.out; simp; omega, by omega, fun _ => HN.out, fun h => absurd h (by omega), HO.out, hB'⟩
          case measure => simp [intOf]; omega
        · have hq : (((s[k]'hlt).toNat : Int) == 44) = false := by
            rw [beq_eq_false_iff_ne]
            intro e
            exact hb (UInt8.toNat_inj.mp (by show _ = 44; omega))
          rw [refVal, if_neg hb] at h1
          rw [okVal, if_neg hb, Bool.and_eq_true] at h2
          have hx := hexV_bd h2.1
          have HN : Hid (pre ++ refVal (16 * z + hexV (s[k]'hlt).toNat) (s.data.toList.drop (k + 1)) = R ∧ okVal (16 * z + hexV (s[k]'hlt).toNat) (s.data.toList.drop (k + 1)) = true) := Lib.hid ⟨h1, h2.2⟩
          have HH := Lib.hid (rHex ((s[k]'hlt).toNat : Int))
          obtain ⟨hx0, hx1⟩ := hx
          clear h1 h2 hb
          generalize hexV (s[k]'hlt).toNat = x at HN HH hx0 hx1
          go_wp2_with fail
          refine (HH.out _).mono ?_
          rintro e w' ⟨rfl, rfl⟩
          go_wp2_with fail
          go_roundw
          case rel => exact ⟨k + 1, n, 16 * z + x, pre, by omega, by go_num, rfl, by omega, HLN.out, by omega, fun _ => HN.out, fun h => absurd h (by omega), hown, hB⟩
          case measure => simp [intOf]; omega
      · have hks : ((k : Int) == (s.size : Int)) = true := by rw [beq_iff_eq]; omega
        rw [drop_end s k (by omega)] at h1
        have HN : Hid (pre ++ [z] = R) := Lib.hid h1
        clear h1 h2
        go_wp2_with (first | (at_builtin; refine wpList_append_own _ rfl _ _ 134 rfl w.heap.size 21 i0 (.int .i32 0) 1 4 Tryz.underlying134 hi hz0 hz1 hz2 rfl (by decide) _ _ _ rfl (hown.alloc _) ⟨_, 0, none⟩ 1 1 [.int .i32 z] rfl rfl (one_cell _ _ _) (one_oneI _) (by unfold maxLen; omega) (by omega) (by simp; omega) ?_; intro v' w9 hown' hgrow _))
        have hB' := own_grown hB hown rfl hgrow
        have HO : Hid (w9.ownsRow w.heap.size 21 1 v' (n + 1) (i32c (pre ++ [z]))) := Lib.hid (by
          have := hown'
          simpa [i32c] using this)
        clear hown' hgrow
        go_wp2
        go_roundw
        case rel => exact ⟨k + 1, n + 1, 0, pre ++ [z], by omega, by go_num, rfl, by omega, by have := HLN.out; simp; omega, by omega, fun h => absurd h (by omega), fun _ => HN.out, HO.out, hB'⟩
        case measure => simp [intOf]; omega
    · have hI : (s.size : Int) < (k : Int) := by omega
      have hR2 := HEND.out (by omega)
      have hown2 := hown
      rw [← HLN.out, hR2] at hown2
      have HT := Lib.hid (rText _ w.heap.size R HBD.out (by omega) wr hown2)
      obtain ⟨a, c, hac⟩ := own_form2 hown2
      subst hac
      clear hown2 hown hR2
      go_wp2_with fail
      refine HT.out.mono ?_
      rintro e w5 ⟨rfl, hb5⟩
      go_wp2_with fail
      go_ret
      exact ⟨rfl, below_next hB hb5⟩
end Go.Proofs.YtofiaodpjpjedaaGreatDoor

namespace Go.Proofs.YtofiaodpjpjedaaGreatDoor
open Go.RowKit
set_option maxHeartbeats 2000000
set_option maxRecDepth 100000

/-- The first part, and the others. -/
theorem parts_cons (l : List UInt8) : parts 32 l = l.take (nR 32 l) :: (if nR 32 l = l.length then [] else parts 32 (l.drop (nR 32 l + 1))) := by
  induction l with
  | nil => rfl
  | cons b t ih =>
    by_cases hb : b = 32
    · subst hb
      rw [nR_yes _ rfl, if_neg (by simp)]
      rfl
    · rw [nR_no _ hb, List.take_succ_cons, List.length_cons, List.drop_succ_cons]
      rw [parts, if_neg (by simpa using hb), ih]
      simp
theorem cut_take (l : List UInt8) (a n : Nat) : cutAt l a (a + n) = (l.drop a).take n := by
  unfold cutAt
  rw [List.drop_take, Nat.add_sub_cancel_left]
theorem name_take (e : List UInt8) : e.take (nR 61 e) = nameOf e ∧ (nameOf e).length = nR 61 e := by
  unfold nR nameOf
  exact ⟨(List.prefix_iff_eq_take.1 (List.takeWhile_prefix _)).symm, rfl⟩
theorem codes_drop (e : List UInt8) (h : e.any (fun b => b == 61) = true) : nR 61 e < e.length ∧ e.drop (nR 61 e + 1) = codesOf e := by
  induction e with
  | nil => simp at h
  | cons b t ih =>
    by_cases hb : b = 61
    · subst hb
      rw [nR_yes _ rfl]
      exact ⟨by simp, rfl⟩
    · have hb2 : (b == 61) = false := by simpa using hb
      rw [List.any_cons, hb2, Bool.false_or] at h
      obtain ⟨h1, h2⟩ := ih h
      rw [nR_no _ hb, List.length_cons, List.drop_succ_cons]
      refine ⟨by omega, h2.trans ?_⟩
      have : (b != 61) = true := by simpa using hb
      simp [codesOf, this]

/-- What is left of the table at an offset. -/
structure AtEnt (a : Nat) (rest : List (List UInt8)) : Prop where
  here : (a < 29726 ∧ rest = parts 32 (NM.data.toList.drop a)) ∨ (29726 ≤ a ∧ rest = [])
  mem : ∀ x ∈ rest, x ∈ ENT
theorem atEnt_start : AtEnt 0 ENT := ⟨.inl ⟨by omega, rfl⟩, fun _ h => h⟩
theorem atEnt_end {a : Nat} {rest : List (List UInt8)} (h : AtEnt a rest) (ha : ¬ a < 29726) : rest = [] := by
  rcases h.here with ⟨h1, _⟩ | ⟨_, h1⟩
  · exact absurd h1 ha
  · exact h1
theorem atEnt_step {a : Nat} {rest : List (List UInt8)} (h : AtEnt a rest) (ha : a < 29726) : ∃ (e : List UInt8) (r : List (List UInt8)), rest = e :: r ∧ e ∈ ENT ∧ e.length = nR 32 (NM.data.toList.drop a) ∧
    cutAt NM.data.toList a (a + e.length) = e ∧ a + e.length ≤ 29726 ∧ AtEnt (a + e.length + 1) r := by
  rcases h.here with ⟨_, h1⟩ | ⟨h1, _⟩
  · have hl := nm_length
    have hle := nR_le 32 (NM.data.toList.drop a)
    rw [List.length_drop, hl] at hle
    rw [parts_cons] at h1
    have hlen : ((NM.data.toList.drop a).take (nR 32 (NM.data.toList.drop a))).length = nR 32 (NM.data.toList.drop a) := by
      rw [List.length_take, List.length_drop, hl]; omega
    refine ⟨_, _, h1, h.mem _ (by rw [h1]; simp), hlen, by rw [hlen, cut_take], by rw [hlen]; omega, ?_⟩
    rw [hlen]
    refine ⟨?_, fun x hx => h.mem x (by rw [h1]; exact List.mem_cons_of_mem _ hx)⟩
    by_cases he : nR 32 (NM.data.toList.drop a) = (NM.data.toList.drop a).length
    · rw [if_pos he]
      rw [List.length_drop, hl] at he
      exact .inr ⟨by omega, rfl⟩
    · rw [if_neg he]
      rw [List.length_drop, hl] at he
      refine .inl ⟨?_, by rw [List.drop_drop, Nat.add_assoc]⟩
      rcases Nat.lt_or_ge (a + nR 32 (NM.data.toList.drop a) + 1) 29726 with h2 | h2
      · exact h2
      · exfalso
        have h4 := nm_last_b
        rw [List.getLast?_eq_getElem?, hl] at h4
        have h5 : (NM.data.toList.drop a)[nR 32 (NM.data.toList.drop a)]? = some 32 := by
          have key : ∀ l : List UInt8, nR 32 l ≠ l.length → l[nR 32 l]? = some 32 := by
            intro l
            induction l with
            | nil => intro h; simp [nR_nil] at h
            | cons b t ih =>
              intro h
              by_cases hb : b = 32
              · subst hb; rw [nR_yes _ rfl]; rfl
              · rw [nR_no _ hb] at h ⊢
                rw [List.getElem?_cons_succ]
                exact ih (by simpa using h)
          exact key _ (by rw [List.length_drop, hl]; exact he)
        rw [List.getElem?_drop, show a + nR 32 (NM.data.toList.drop a) = 29726 - 1 by omega] at h5
        rw [h5] at h4
        simp at h4
  · omega

theorem rLongest (s : ByteArray) (w : World) :
    Calls Tryz.prog 59 #[.string s] w fun e w' => ∃ V : ByteArray, e = .returned (.tuple #[.int .i64 (lgL s.data.toList).1, .string V]) ∧ V.data.toList = (lgL s.data.toList).2 ∧ Below w.heap.size w w' := by
  have hsz := nm_size
  have HW := Lib.hid rWord
  have HSG := Lib.hid rSign
  go_enter Tryz.func59, Tryz.ntmps59
  generalize hN : (ByteArray.mk (List.toArray (List.append _ _))) = N
  have HN : NM = N := by rw [← hN]; rfl
  clear hN
  rw [HN] at hsz
  have HSZ := Lib.hid hsz
  have hsi : (N.size : Int) = 29726 := by omega
  have HNN := Lib.hid HN
  clear hsz HN
  go_wp2_with fail
  go_loopw [4, 5, 6] (fun nv vv av wr => ∃ (a n : Nat) (V : ByteArray) (rest : List (List UInt8)), av = .int .i64 a ∧ nv = .int .i64 n ∧ vv = .string V ∧ a ≤ 29727 ∧ n ≤ 29727 ∧ AtEnt a rest ∧ rest.foldl (lgStep s.data.toList) (n, V.data.toList) = lgL s.data.toList ∧ Below w.heap.size w wr) (fun _ _ av _ => 29727 - (intOf av).toNat)
  case atStart => exact ⟨0, 0, ⟨#[]⟩, ENT, rfl, rfl, rfl, by omega, by omega, atEnt_start, rfl, Below.refl _ _⟩
  case round =>
    obtain ⟨a, n, V, rest, rfl, rfl, rfl, ha, hn, hat, hfold, hB⟩ := hrel
    by_cases hlt : a < 29726
    · have hI : (a : Int) < 29726 := by omega
      obtain ⟨e, r, rfl, hmem, hel, hcut, hle, hnext⟩ := atEnt_step hat hlt
      obtain ⟨p1, p2, p3, p4, p5, p6⟩ := ent_parts5 hmem
      obtain ⟨c1, c2⟩ := codes_drop e p6
      obtain ⟨t1, t2⟩ := name_take e
      rw [List.foldl_cons] at hfold
      have HF := Lib.hid hfold
      obtain ⟨T, hT⟩ : ∃ T, T = a + e.length := ⟨_, rfl⟩
      obtain ⟨K, hK⟩ : ∃ K, K = a + (nameOf e).length := ⟨_, rfl⟩
      have hw1 := Lib.hid (HW.out a (by omega))
      rw [← hel, ← hT] at hw1
      have hs1 := Lib.hid (HSG.out a T (by omega) (by omega))
      rw [hT, hcut, ← t2, ← hT, ← hK] at hs1
      have hKT : K < T := by omega
      have haK : a ≤ K := by omega
      have hT6 : T ≤ 29726 := by omega
      have hcutK : (N.extract a K).data.toList = nameOf e := by
        rw [← HNN.out, nm_slice, hK, cut_take, t2]
        have h1 := congrArg (List.take (nR 61 e)) hcut
        rw [cut_take, List.take_take, Nat.min_eq_left (by omega)] at h1
        exact h1.trans t1
      have hcutT : (N.extract (K + 1) T).data.toList = codesOf e := by
        rw [← HNN.out, nm_slice, ← c2]
        have h1 := congrArg (List.drop (nR 61 e + 1)) hcut
        unfold cutAt at h1 ⊢
        rw [List.drop_drop] at h1
        rw [hT, hK, t2, ← h1, Nat.add_assoc]
      have hvs : (N.extract (K + 1) T).size ≤ 100 := by rw [← size_list, hcutT]; exact p5
      have HB2 := Lib.hid (rBegins1 s (N.extract a K))
      rw [hcutK] at HB2
      have HV := Lib.hid (rValue (N.extract (K + 1) T) hvs (by rw [hcutT]; exact p3))
      rw [hcutT, p4] at HV
      have HNX := Lib.hid hnext
      rw [← hT] at HNX
      have i1 : (K : Int) < (T : Int) := by omega
      have i2 : (T : Int) ≤ 29726 := by omega
      have i3 : (a : Int) ≤ (K : Int) := by omega
      have i4 : (K : Int) ≤ 29726 := by omega
      have i5 : (K : Int) + 1 ≤ (T : Int) := by omega
      have HLK : Hid ((nameOf e).length = K - a) := Lib.hid (by omega)
      have hnk : n < (nameOf e).length ↔ (n : Int) < (K : Int) - (a : Int) := by omega
      have HNK := Lib.hid hnk
      clear hfold hel hcut hle hnext p1 p2 p3 p4 p5 p6 c1 c2 t1 t2 hT hK hcutK hcutT hnk hmem
      by_cases hgt : (n : Int) < (K : Int) - (a : Int)
      · cases hp : (nameOf e).isPrefixOf s.data.toList with
        | true =>
          rw [hp] at HB2
          have HS : Hid (r.foldl (lgStep s.data.toList) (K - a, valL (codesOf e)) = lgL s.data.toList) := Lib.hid (by
            rw [← HF.out, lgStep, if_pos ⟨HNK.out.2 hgt, hp⟩, HLK.out])
          clear hp
          go_wp2_with fail
          refine (hw1.out _).mono ?_
          rintro e1 w1 ⟨rfl, rfl⟩
          go_wp2_with fail
          refine (hs1.out _).mono ?_
          rintro e2 w2 ⟨rfl, rfl⟩
          go_wp2_with fail
          refine (HB2.out _).mono ?_
          rintro e2 w2 ⟨rfl, rfl⟩
          go_wp2_with fail
          refine (HV.out _).mono ?_
          rintro e2 w2 ⟨rfl, hb2⟩
          go_wp2_with fail
          go_roundw
          case rel => exact ⟨T + 1, K - a, ⟨(valL (codesOf e)).toArray⟩, r, by go_num, by go_num, rfl, by omega, by omega, HNX.out, HS.out, below_next hB hb2⟩
          case measure => simp [intOf]; omega
        | false =>
          rw [hp] at HB2
          have HS : Hid (r.foldl (lgStep s.data.toList) (n, V.data.toList) = lgL s.data.toList) := Lib.hid (by
            rw [← HF.out, lgStep, if_neg (by simp [hp])])
          clear hp
          go_wp2_with fail
          refine (hw1.out _).mono ?_
          rintro e1 w1 ⟨rfl, rfl⟩
          go_wp2_with fail
          refine (hs1.out _).mono ?_
          rintro e2 w2 ⟨rfl, rfl⟩
          go_wp2_with fail
          refine (HB2.out _).mono ?_
          rintro e2 w2 ⟨rfl, rfl⟩
          go_wp2_with fail
          go_roundw
          case rel => exact ⟨T + 1, n, V, r, by go_num, rfl, rfl, by omega, hn, HNX.out, HS.out, hB⟩
          case measure => simp [intOf]; omega
      · have HS : Hid (r.foldl (lgStep s.data.toList) (n, V.data.toList) = lgL s.data.toList) := Lib.hid (by
          rw [← HF.out, lgStep, if_neg (fun h => hgt (HNK.out.1 h.1))])
        have hd : decide ((n : Int) < (K : Int) - (a : Int)) = false := by simpa using hgt
        clear hgt i1 i2 i3 i4 i5
        go_wp2_with fail
        refine (hw1.out _).mono ?_
        rintro e1 w1 ⟨rfl, rfl⟩
        go_wp2_with fail
        refine (hs1.out _).mono ?_
        rintro e2 w2 ⟨rfl, rfl⟩
        go_wp2_with fail
        go_roundw
        case rel => exact ⟨T + 1, n, V, r, by go_num, rfl, rfl, by omega, hn, HNX.out, HS.out, hB⟩
        case measure => simp [intOf]; omega
    · have hI : ¬ (a : Int) < 29726 := by omega
      rw [atEnt_end hat hlt] at hfold
      have HF : Hid ((n, V.data.toList) = lgL s.data.toList) := Lib.hid hfold
      clear hfold
      go_wp2_with fail
      go_ret2
      exact ⟨V, by rw [← HF.out]; rfl, by rw [← HF.out], hB⟩
end Go.Proofs.YtofiaodpjpjedaaGreatDoor

namespace Go.Proofs.YtofiaodpjpjedaaGreatDoor
open Go.Lib
set_option maxRecDepth 100000

theorem encT8_encU (r : Int) (h : 0 ≤ r ∧ r ≤ 1114111 ∧ (r ≤ 55295 ∨ 57344 ≤ r)) : encT8 r = encU r := by
  obtain ⟨n, rfl⟩ : ∃ n : Nat, r = n := ⟨r.toNat, by omega⟩
  have hv : Utf8.valid (n : Int) = true := by simp [Utf8.valid]; omega
  unfold encT8 Utf8.encode encU encZ
  simp only [hv, if_true, Int.toNat_natCast]
  by_cases h1 : n < 128
  · rw [if_pos (show n < 0x80 from h1), if_pos (show (n : Int) < 128 by omega)]
    rfl
  · rw [if_neg (show ¬ n < 0x80 from h1), if_neg (show ¬ (n : Int) < 128 by omega)]
    by_cases h2 : n < 2048
    · rw [if_pos (show n < 0x800 from h2), if_pos (show (n : Int) < 2048 by omega)]
      show [_, _] = [UInt8.ofNat (Int.toNat _), UInt8.ofNat (Int.toNat _)]
      rw [show (192 + (n : Int) / 64).toNat = 0xC0 + n / 64 by omega, show (128 + (n : Int) % 64).toNat = 0x80 + n % 64 by omega]
    · rw [if_neg (show ¬ n < 0x800 from h2), if_neg (show ¬ (n : Int) < 2048 by omega)]
      by_cases h3 : n < 65536
      · rw [if_pos (show n < 0x10000 from h3), if_pos (show (n : Int) < 65536 by omega)]
        show [_, _, _] = [UInt8.ofNat (Int.toNat _), UInt8.ofNat (Int.toNat _), UInt8.ofNat (Int.toNat _)]
        rw [show (224 + (n : Int) / 4096).toNat = 0xE0 + n / 4096 by omega, show (128 + (n : Int) / 64 % 64).toNat = 0x80 + n / 64 % 64 by omega, show (128 + (n : Int) % 64).toNat = 0x80 + n % 64 by omega]
      · rw [if_neg (show ¬ n < 0x10000 from h3), if_neg (show ¬ (n : Int) < 65536 by omega)]
        show [_, _, _, _] = [UInt8.ofNat (Int.toNat _), UInt8.ofNat (Int.toNat _), UInt8.ofNat (Int.toNat _), UInt8.ofNat (Int.toNat _)]
        rw [show (240 + (n : Int) / 262144).toNat = 0xF0 + n / 262144 by omega, show (128 + (n : Int) / 4096 % 64).toNat = 0x80 + n / 4096 % 64 by omega, show (128 + (n : Int) / 64 % 64).toNat = 0x80 + n / 64 % 64 by omega, show (128 + (n : Int) % 64).toNat = 0x80 + n % 64 by omega]

/-- The digits t in front of anything take a number from k to n. -/
def Digs (p : Int → Bool) (B : Int) (t : List UInt8) (k n : Int) : Prop := ∀ (r : List UInt8) (j : Nat), digRun p B (t ++ r) (min k 1114112) j = digRun p B r (min n 1114112) (j + t.length)
theorem Digs.nil (p : Int → Bool) (B n : Int) : Digs p B [] n n := fun _ _ => rfl
theorem Digs.cons {p : Int → Bool} {B : Int} {t : List UInt8} {k n : Int} (h : Digs p B t k n) (hk : 0 ≤ k) (hB : B = 10 ∨ B = 16) (d : UInt8) (hp : p d.toNat = true) (hd : dvZ d.toNat = k % B) : Digs p B (d :: t) (k / B) n := by
  intro r j
  have e : min (min (k / B) 1114112 * B + k % B) 1114112 = min k 1114112 := by
    rcases hB with rfl | rfl
    · omega
    · omega
  rw [List.cons_append, digRun, hp, if_pos rfl, hd, e, h r (j + 1), List.length_cons, Nat.add_assoc, Nat.add_comm 1]
/-- The digit that stands at an index. -/
def digC (x : Int) : UInt8 := UInt8.ofNat (if x < 10 then 48 + x else 87 + x).toNat
theorem digC_hex (x : Int) (h0 : 0 ≤ x) (h1 : x < 16) : hexB (digC x).toNat = true ∧ dvZ (digC x).toNat = x := by
  obtain ⟨k, rfl⟩ : ∃ k : Fin 16, x = (k.val : Int) := ⟨⟨x.toNat, by omega⟩, by simp; omega⟩
  have key : ∀ k : Fin 16, hexB (digC (k.val : Int)).toNat = true ∧ dvZ (digC (k.val : Int)).toNat = (k.val : Int) := by decide +kernel
  exact key k
theorem digC_ten (x : Int) (h0 : 0 ≤ x) (h1 : x < 10) : digB (digC x).toNat = true ∧ dvZ (digC x).toNat = x := by
  obtain ⟨k, rfl⟩ : ∃ k : Fin 10, x = (k.val : Int) := ⟨⟨x.toNat, by omega⟩, by simp; omega⟩
  have key : ∀ k : Fin 10, digB (digC (k.val : Int)).toNat = true ∧ dvZ (digC (k.val : Int)).toNat = (k.val : Int) := by decide +kernel
  exact key k
/-- "0123456789abcdef" -/
def allD : ByteArray := ⟨#[48, 49, 50, 51, 52, 53, 54, 55, 56, 57, 97, 98, 99, 100, 101, 102]⟩
theorem allD_at (x : Int) (h0 : 0 ≤ x) (h1 : x < 16) : (allD.extract x.toNat (x + 1).toNat).data.toList = [digC x] := by
  obtain ⟨k, rfl⟩ : ∃ k : Fin 16, x = (k.val : Int) := ⟨⟨x.toNat, by omega⟩, by simp; omega⟩
  have key : ∀ k : Fin 16, (allD.extract (k.val : Int).toNat ((k.val : Int) + 1).toNat).data.toList = [digC (k.val : Int)] := by decide +kernel
  exact key k
/-- How long: z digits of a number of which k is left. -/
def DigZ (z : Nat) (k : Int) : Prop := 0 ≤ k ∧ k.toNat * 2 ^ z ≤ 2 ^ 40
theorem DigZ.start {n : Int} (h0 : 0 ≤ n) (h1 : n ≤ 1099511627776) : DigZ 0 n := ⟨h0, by omega⟩
theorem DigZ.le {z : Nat} {k : Int} (h : DigZ z k) (hk : 0 < k) : z ≤ 40 := by
  have h1 : 1 * 2 ^ z ≤ k.toNat * 2 ^ z := Nat.mul_le_mul_right _ (by omega)
  have h2 : 2 ^ z ≤ 2 ^ 40 := by have := h.2; omega
  exact (Nat.pow_le_pow_iff_right (by decide)).1 h2
theorem DigZ.next {z : Nat} {k : Int} (h : DigZ z k) (B : Int) (hB : B = 10 ∨ B = 16) : DigZ (z + 1) (k / B) := by
  have hk := h.1
  refine ⟨by rcases hB with rfl | rfl <;> omega, ?_⟩
  have e : (k / B).toNat * 2 ≤ k.toNat := by rcases hB with rfl | rfl <;> omega
  have h1 : (k / B).toNat * 2 * 2 ^ z ≤ k.toNat * 2 ^ z := Nat.mul_le_mul_right _ e
  rw [Nat.pow_succ, Nat.mul_comm (2 ^ z) 2, ← Nat.mul_assoc]
  exact Nat.le_trans h1 h.2

theorem digRun_semi (p : Int → Bool) (B : Int) (hp : p 59 = false) (r : List UInt8) (c : Int) (j : Nat) : digRun p B (59 :: r) c j = (c, j) := by
  rw [digRun]
  have : p ((59 : UInt8).toNat : Int) = false := hp
  rw [this, if_neg (by simp)]
theorem num_ten {c : UInt8} (r : List UInt8) (h : hexMark c = false) : numericL (c :: r) = digitsL [38, 35] 0 (digRun digB 10 (c :: r) 0 0) (c :: r) := by
  unfold numericL
  simp only
  rw [h, if_neg (by simp)]
theorem num_hex {c : UInt8} (r : List UInt8) (h : hexMark c = true) : numericL (c :: r) = digitsL [38, 35, c] 1 (digRun hexB 16 r 0 0) r := by
  unfold numericL
  simp only
  rw [h, if_pos rfl]
theorem ref_35 (lg : List UInt8 → Nat × List UInt8) (attr : Bool) (r : List UInt8) : refL lg attr (35 :: r) = ((numericL r).1, (numericL r).2 + 1) := by
  unfold refL
  simp only
  rw [if_neg (by decide), if_pos trivial]
theorem digits_semi (o : List UInt8) (k : Nat) (v : Int) (u more : List UInt8) (hu : 0 < u.length) : digitsL o k (v, u.length) (u ++ 59 :: more) = (encT8 (cpZ v), k + u.length + 1) := by
  unfold digitsL
  simp only
  rw [if_neg (by omega), List.drop_left, List.head?_cons, if_pos rfl]
/-- A decimal number that begins with a zero. -/
theorem ref_ten (lg : List UInt8 → Nat × List UInt8) (attr : Bool) (u more : List UInt8) (n : Int) (hu : ∃ t, u = 48 :: t) (h : Digs digB 10 u 0 n) :
    refL lg attr (35 :: (u ++ 59 :: more)) = (encT8 (cpZ (min n 1114112)), u.length + 2) := by
  have h1 := h (59 :: more) 0
  rw [show min (0 : Int) 1114112 = 0 by decide, digRun_semi _ _ (by decide), Nat.zero_add] at h1
  obtain ⟨t, rfl⟩ := hu
  rw [ref_35, List.cons_append, num_ten _ (by decide), ← List.cons_append, h1, digits_semi _ _ _ _ _ (by simp), Nat.zero_add]
theorem ref_hex (lg : List UInt8 → Nat × List UInt8) (attr : Bool) (u more : List UInt8) (n : Int) (hu : ∃ t, u = 48 :: t) (h : Digs hexB 16 u 0 n) :
    refL lg attr (35 :: 88 :: (u ++ 59 :: more)) = (encT8 (cpZ (min n 1114112)), u.length + 3) := by
  have h1 := h (59 :: more) 0
  rw [show min (0 : Int) 1114112 = 0 by decide, digRun_semi _ _ (by decide), Nat.zero_add] at h1
  have hl : 0 < u.length := by
    obtain ⟨t, rfl⟩ := hu
    simp
  rw [ref_35, num_hex _ (by decide), h1, digits_semi _ _ _ _ _ hl, show 1 + u.length + 1 + 1 = u.length + 3 by omega]
/-- One zero more ahead. -/
theorem Digs.zero {p : Int → Bool} {B : Int} {t : List UInt8} {n : Int} (h : Digs p B t 0 n) (hp : p 48 = true) : Digs p B (48 :: t) 0 n := by
  intro r j
  have h1 := h r (j + 1)
  rw [show min (0 : Int) 1114112 = 0 by decide] at h1 ⊢
  have hp' : p ((48 : UInt8).toNat : Int) = true := hp
  rw [List.cons_append, digRun, hp', if_pos rfl, show dvZ ((48 : UInt8).toNat : Int) = 0 by decide, Int.zero_mul, show min ((0 : Int) + 0) 1114112 = 0 by decide, h1, List.length_cons, Nat.add_assoc, Nat.add_comm 1]
end Go.Proofs.YtofiaodpjpjedaaGreatDoor

namespace Go.Proofs.YtofiaodpjpjedaaGreatDoor
open Go.RowKit Go.Shelf Go.Lib
set_option maxHeartbeats 4000000
set_option maxRecDepth 100000

def QRefP (T : ByteArray) (k : Nat) (attr : Bool) (w : World) (e : Ending) (w' : World) : Prop :=
  ∃ (V : ByteArray) (N : Nat), e = .returned (.tuple #[.string V, .int .i64 ((k + N : Nat) : Int)]) ∧ V.data.toList = (refL lgL attr T.data.toList).1 ∧ N = (refL lgL attr T.data.toList).2 ∧ N ≤ T.size ∧ Below w.heap.size w w'
theorem take_ext (T : ByteArray) (n : Nat) (h : n ≤ T.size) : (T.extract 0 n).data.toList = T.data.toList.take n := by
  have h1 := ext_take2 T 0 n (Nat.zero_le _) h
  rw [List.drop_zero, Nat.sub_zero] at h1
  rw [h1]; rfl
theorem suf_last (T : ByteArray) (n : Nat) (h0 : 0 < n) (hn : n ≤ T.size) : hasSuffix (T.data.toList.take n) [59] = ((((T[n - 1]'(by omega)).toNat : Int)) == 59) := by
  have hl : (T.data.toList.take n).getLast? = some (T[n - 1]'(by omega)) := by
    rw [List.getLast?_eq_getElem?, List.length_take, size_list, Nat.min_eq_left hn, List.getElem?_take, if_pos (by omega), Array.getElem?_toList]
    exact Array.getElem?_eq_getElem (xs := T.data) (by show n - 1 < T.size; omega)
  obtain ⟨u, hu⟩ := List.getLast?_eq_some_iff.1 hl
  rw [hu]
  unfold hasSuffix
  rw [Bool.eq_iff_iff, List.isSuffixOf_iff_suffix, beq_iff_eq]
  constructor
  · intro h
    obtain ⟨x, hx⟩ := h
    have := congrArg List.getLast? hx
    simp at this
    rw [← this]; rfl
  · intro h
    have : T[n - 1]'(by omega) = 59 := UInt8.toNat_inj.1 (by show (T[n - 1]'(by omega)).toNat = 59; omega)
    rw [this]
    exact List.suffix_append u [59]

theorem qRefWords (s : ByteArray) (k : Nat) (attr : Bool) (hk : k ≤ s.size) (hs : s.size ≤ 1000000) (w : World)
    (T : ByteArray) (hT : T = s.extract k s.size) (h0 : 0 < T.size) (hal : alnB ((T[0]'h0).toNat : Int) = true) (a : Int) (hCa : ∀ W, Calls Tryz.prog 57 #[.string s, .int .i64 a] W fun e w' => e = .returned (.int .i64 (k : Nat)) ∧ w' = W) :
    Calls Tryz.prog 17 #[.string s, .int .i64 a, .bool attr] w (QRefP T k attr w) := by
  have HC := Lib.hid hCa
  have hTe : s.extract k s.size = T := hT.symm
  have hTs : T.size = s.size - k := by rw [hT, ByteArray.size_extract]; omega
  have hkI : (k : Int) ≤ (s.size : Int) := by omega
  have hz2 : (s.size : Int) ≤ 1000000 := by omega
  have hzT : (T.size : Int) ≤ 1000000 := by omega
  have hne : T.toList.isEmpty = false := by
    rw [List.isEmpty_eq_false_iff]
    intro h
    have h2 := congrArg List.length h
    rw [ByteArray.toList_eq, size_list] at h2
    exact absurd h2 (by show ¬ T.size = 0; omega)
  have hcons : T.data.toList = (T[0]'h0) :: T.data.toList.drop 1 := by
    have := drop_byte T 0 h0
    rwa [List.drop_zero] at this
  have hrf : refL lgL attr T.data.toList = namedL lgL attr T.data.toList := by
    rw [hcons]
    show (if alU (T[0]'h0) then _ else _) = _
    rw [if_pos (by unfold alU; exact hal)]
  obtain ⟨n, hn⟩ : ∃ n, n = (lgL T.data.toList).1 := ⟨_, rfl⟩
  obtain ⟨L2, hL2⟩ : ∃ L2, L2 = (lgL T.data.toList).2 := ⟨_, rfl⟩
  have hnle : n ≤ T.size := by
    have := lgOk.le T.data.toList
    rw [size_list] at this
    omega
  have HL := Lib.hid (fun W => rLongest T W)
  rw [← hn, ← hL2] at HL
  have HA := Lib.hid (fun W => rAlnum ((T[0]'h0).toNat : Int) W)
  rw [hal] at HA
  have HR := Lib.hid hrf
  have HN := Lib.hid hn
  have HL2 := Lib.hid hL2
  have hI0 : (0 : Int) < (T.size : Int) := by omega
  clear hCa hT hcons hrf hn hL2 hal hTs
  by_cases hn0 : n = 0
  · subst hn0
    go_enter Tryz.func17, Tryz.ntmps17
    go_wp2_with fail
    refine (HC.out w).mono ?_
    rintro e w1 ⟨rfl, rfl⟩
    go_wp2_with fail
    refine (HA.out w1).mono ?_
    rintro e w2 ⟨rfl, rfl⟩
    go_wp2_with fail
    refine (HL.out w2).mono ?_
    rintro e w3 ⟨V, rfl, _, hb⟩
    go_wp2_with fail
    go_ret2
    refine ⟨bl [38], 0, rfl, ?_, ?_, Nat.zero_le _, hb⟩
    · rw [HR.out]; unfold namedL; rw [if_pos HN.out.symm]; rfl
    · rw [HR.out]; unfold namedL; rw [if_pos HN.out.symm]
  · have hn1 : (n : Int) ≤ (T.size : Int) := by omega
    have hn2 : (1 : Int) ≤ (n : Int) := by omega
    have dn0 : ((n : Int) == 0) = false := by rw [beq_eq_false_iff_ne]; omega
    have hnm : namedL lgL attr T.data.toList = if attr && !(((T[n - 1]'(by omega)).toNat : Int) == 59) && endsRef (T.data.toList.drop n) then (38 :: T.data.toList.take n, n) else (L2, n) := by
      unfold namedL
      rw [if_neg (by rw [← HN.out]; exact hn0), ← HN.out, ← HL2.out, suf_last T n (by omega) hnle]
    have HNM := Lib.hid hnm
    have HTE := Lib.hid (take_ext T n hnle)
    clear hnm hn0
    go_enter Tryz.func17, Tryz.ntmps17
    go_wp2_with fail
    refine (HC.out w).mono ?_
    rintro e w1 ⟨rfl, rfl⟩
    go_wp2_with fail
    refine (HA.out w1).mono ?_
    rintro e w2 ⟨rfl, rfl⟩
    go_wp2_with fail
    refine (HL.out w2).mono ?_
    rintro e w3 ⟨V, rfl, hV, hb⟩
    have HV := Lib.hid hV
    have HB := Lib.hid hb
    clear hV hb
    have fin_v : Hid ((attr && !(((T[n - 1]'(by omega)).toNat : Int) == 59) && endsRef (T.data.toList.drop n)) = false → V.data.toList = (refL lgL attr T.data.toList).1 ∧ n = (refL lgL attr T.data.toList).2) := Lib.hid (fun h => by
      rw [HR.out, HNM.out, h, if_neg (by simp)]
      exact ⟨HV.out, rfl⟩)
    have fin_a : Hid ((attr && !(((T[n - 1]'(by omega)).toNat : Int) == 59) && endsRef (T.data.toList.drop n)) = true → ((⟨#[38]⟩ : ByteArray) ++ T.extract 0 n).data.toList = (refL lgL attr T.data.toList).1 ∧ n = (refL lgL attr T.data.toList).2) := Lib.hid (fun h => by
      rw [HR.out, HNM.out, h, if_pos rfl]
      refine ⟨?_, rfl⟩
      rw [ByteArray.data_append, Array.toList_append, HTE.out]
      simp only [List.cons_append, List.nil_append])
    obtain ⟨K, hK⟩ : ∃ K : Int, K = n := ⟨_, rfl⟩
    have hK1 : K.toNat - 1 = n - 1 := by omega
    have hK2 : K.toNat = n := by omega
    have HKK := Lib.hid hK
    have HNL := Lib.hid hnle
    have HPOS := Lib.hid (show 1 ≤ n by omega)
    rw [← hK] at dn0 hn1 hn2 ⊢
    have hix1 : K.toNat - 1 < T.size := by omega
    obtain ⟨b, hb⟩ : ∃ b, (((T[n - 1]'(by omega)).toNat : Int) == 59) = b := ⟨_, rfl⟩
    rw [hb] at fin_v fin_a
    have hb' : (((T[K.toNat - 1]'hix1).toNat : Int) != 59) = !b := by
      rw [← hb]
      simp only [hK1]
      rfl
    have HTX := Lib.hid (show T.extract 0 K.toNat = T.extract 0 n by rw [hK2])
    have fv : Hid ((attr && !b && endsRef (T.data.toList.drop n)) = false → ∀ e : Ending, e = .returned (.tuple #[.string V, .int .i64 ((k : Int) + K)]) → QRefP T k attr w2 e w3) := Lib.hid (fun h e he => by
      refine ⟨V, n, ?_, (fin_v.out h).1, (fin_v.out h).2, HNL.out, HB.out⟩
      rw [he, HKK.out]
      congr 1)
    have fa : Hid ((attr && !b && endsRef (T.data.toList.drop n)) = true → ∀ e : Ending, e = .returned (.tuple #[.string ((⟨#[38]⟩ : ByteArray) ++ T.extract 0 K.toNat), .int .i64 ((k : Int) + K)]) → QRefP T k attr w2 e w3) := Lib.hid (fun h e he => by
      refine ⟨(⟨#[38]⟩ : ByteArray) ++ T.extract 0 n, n, ?_, (fin_a.out h).1, (fin_a.out h).2, HNL.out, HB.out⟩
      rw [he, HKK.out, ← HKK.out, HTX.out, HKK.out]
      congr 1)
    have hT2 : (T.size : Int) ≤ 1000000 := hzT
    clear hb fin_v fin_a HTE HNM
    cases attr
    · clear hK hnle hK1 hK2
      go_wp2_with fail
      go_ret2
      exact fv.out rfl _ rfl
    · cases b
      · replace hb' : (((T[K.toNat - 1]'hix1).toNat : Int) != 59) = true := hb'
        by_cases hnT : n < T.size
        · have hnI : K < (T.size : Int) := by omega
          have hix2 : K.toNat < T.size := by omega
          have hdr : T.data.toList.drop n = (T[n]'hnT) :: T.data.toList.drop (n + 1) := drop_byte T n hnT
          have her : endsRef (T.data.toList.drop n) = (alnB ((T[n]'hnT).toNat : Int) || (((T[n]'hnT).toNat : Int) == 61)) := by
            rw [hdr]
            show (alU (T[n]'hnT) || ((T[n]'hnT) == 61)) = _
            congr 1
            rw [Bool.eq_iff_iff, beq_iff_eq, beq_iff_eq]
            constructor
            · intro h; rw [h]; rfl
            · intro h; exact UInt8.toNat_inj.1 (by show (T[n]'hnT).toNat = 61; omega)
          rw [her] at fv fa
          have hAn := fun W => rAlnum ((T[K.toNat]'hix2).toNat : Int) W
          obtain ⟨d, hd⟩ : ∃ d, (((T[n]'hnT).toNat : Int) == 61) = d := ⟨_, rfl⟩
          rw [hd] at fv fa
          have hd' : (((T[K.toNat]'hix2).toNat : Int) == 61) = d := by simp only [hK2]; exact hd
          obtain ⟨y, hy⟩ : ∃ y, alnB ((T[n]'hnT).toNat : Int) = y := ⟨_, rfl⟩
          rw [hy] at fv fa
          have hy' : alnB ((T[K.toNat]'hix2).toNat : Int) = y := by simp only [hK2]; exact hy
          have HAn := Lib.hid (fun W => (hy' ▸ hAn W : Calls Tryz.prog 58 #[.int .u8 ((T[K.toNat]'hix2).toNat : Int)] W fun e w' => e = .returned (.bool y) ∧ w' = W))
          have dlt : decide (K < (T.size : Int)) = true := decide_eq_true hnI
          clear hdr her hy hy' hAn hd hK hnle hK1 hK2 hnT
          cases d
          · cases y
            · go_wp2_with fail
              refine (HAn.out w3).mono ?_
              rintro e w4 ⟨rfl, rfl⟩
              go_wp2_with fail
              go_ret2
              exact fv.out rfl _ rfl
            · go_wp2_with fail
              refine (HAn.out w3).mono ?_
              rintro e w4 ⟨rfl, rfl⟩
              go_wp2_with fail
              go_ret2
              exact fa.out rfl _ rfl
          · go_wp2_with fail
            go_ret2
            exact fa.out (by cases y <;> rfl) _ rfl
        · have dlt : decide (K < (T.size : Int)) = false := decide_eq_false (by omega)
          rw [drop_end T n (by omega)] at fv fa
          clear hK hnle hK1 hK2 hnT
          go_wp2_with fail
          go_ret2
          exact fv.out rfl _ rfl
      · replace hb' : (((T[K.toNat - 1]'hix1).toNat : Int) != 59) = false := hb'
        clear hK hnle hK1 hK2
        go_wp2_with fail
        go_ret2
        exact fv.out rfl _ rfl
end Go.Proofs.YtofiaodpjpjedaaGreatDoor

namespace Go.Proofs.YtofiaodpjpjedaaGreatDoor
open Go.RowKit Go.Shelf Go.Lib
set_option maxHeartbeats 4000000
set_option maxRecDepth 100000

theorem noEnd_drop {s : ByteArray} {k : Nat} (hk : k < s.size) : noEnd (s.data.toList.drop k) = (!([45, 45, 62].isPrefixOf (s.data.toList.drop k)) && !([45, 45, 33, 62].isPrefixOf (s.data.toList.drop k)) && noEnd (s.data.toList.drop (k + 1))) := by
  rw [drop_byte s k hk, noEnd]
theorem comS_len : ∀ t : List UInt8, (comS t).1.length ≤ 3 * t.length
  | [] => Nat.zero_le _
  | b :: t => by
    have ih := comS_len t
    rcases comS_or b t with h0 | ⟨h1, _, _⟩
    · rw [h0]; exact Nat.zero_le _
    · rw [h1]
      have e : (pre (nul1 b) 1 (comS t)).1 = nul1 b ++ (comS t).1 := rfl
      have : (nul1 b).length ≤ 3 := by unfold nul1; split <;> simp
      rw [e, List.length_append, List.length_cons]
      omega
theorem comL_len (t : List UInt8) : (comL t).1.length ≤ 3 * t.length := by
  unfold comL
  split
  · exact Nat.zero_le _
  · split
    · exact Nat.zero_le _
    · exact comS_len t
theorem tl0 (B : ByteArray) : clip B 0 = 0 ∧ tlS B 0 = B.data.toList := by
  have : clip B 0 = 0 := by unfold clip; omega
  exact ⟨this, by unfold tlS; rw [this]; rfl⟩
end Go.Proofs.YtofiaodpjpjedaaGreatDoor

namespace Go.Proofs.YtofiaodpjpjedaaGreatDoor
open Go.RowKit Go.Shelf Go.Lib

theorem app_list (a b : ByteArray) : (a ++ b).data.toList = a.data.toList ++ b.data.toList := by rw [ByteArray.data_append, Array.toList_append]
/-- A call of Reference whose answer is known. -/
theorem refIs (B V : ByteArray) (attr : Bool) (x : Int) (N : Nat) (h : refL lgL attr B.data.toList = (V.data.toList, N)) (hx : x = (N : Int)) (hB : B.size ≤ 10000000) (m : Int) (w : World) (hc : CtlW w) (hm : w.cell? ⟨1, 0, none⟩ = some (.int .i64 m)) :
    Calls Tryz.prog 16 #[.string B, .int .i64 0, .bool attr] w fun e w' => e = .returned (.tuple #[.string V, .int .i64 x]) ∧ Below w.heap.size w w' := by
  refine (referenceC lgL (Lib.hid lgOk) B 0 attr m hB w hc hm).mono ?_
  rintro e w' ⟨V1, N1, rfl, h1, h2, _, hb⟩
  rw [(tl0 B).2, h] at h1 h2
  rw [(tl0 B).1, list_bytes _ _ h1, h2, hx, Nat.zero_add]
  exact ⟨rfl, hb⟩
end Go.Proofs.YtofiaodpjpjedaaGreatDoor

namespace Go.Proofs.YtofiaodpjpjedaaGreatDoor
open Go.RowKit Go.Shelf Go.Lib
set_option maxHeartbeats 4000000
set_option maxRecDepth 100000

theorem ret2_v {V V' : ByteArray} {i j : Int} (h : V = V') (h2 : i = j) : Ending.returned (.tuple #[.string V, .int .i64 i]) = .returned (.tuple #[.string V', .int .i64 j]) := by rw [h, h2]
/-- What a numeric reference comes to: the opening o0 of k0 bytes, the digits behind it. -/
def QNum (T : ByteArray) (attr : Bool) (k0 : Nat) (r : Int × Nat) : Prop :=
  refL lgL attr T.data.toList = if r.2 = 0 then (38 :: T.data.toList.take k0, k0) else (encT8 (cpZ r.1), k0 + r.2 + (if (T.data.toList.drop (k0 + r.2)).head? = some 59 then 1 else 0))
theorem qnum_of (T : ByteArray) (attr : Bool) (k0 : Nat) (hk0 : 0 < k0) (r : Int × Nat) (h : numericL (T.data.toList.drop 1) = digitsL (38 :: T.data.toList.take k0) (k0 - 1) r (T.data.toList.drop k0)) (h0 : 0 < T.size) (h35 : T[0]'h0 = 35) : QNum T attr k0 r := by
  have hc : T.data.toList = 35 :: T.data.toList.drop 1 := by
    have := drop_byte T 0 h0
    rw [List.drop_zero, h35] at this
    exact this
  unfold QNum
  rw [hc, ref_35, h, ← hc]
  unfold digitsL
  by_cases hr : r.2 = 0
  · rw [if_pos hr, if_pos hr]
    show (_, k0 - 1 + 1) = _
    rw [Nat.sub_add_cancel hk0]
  · rw [if_neg hr, if_neg hr]
    show (_, k0 - 1 + r.2 + _ + 1) = _
    rw [List.drop_drop, show k0 - 1 + r.2 + (if (T.data.toList.drop (k0 + r.2)).head? = some 59 then 1 else 0) + 1 = k0 + r.2 + (if (T.data.toList.drop (k0 + r.2)).head? = some 59 then 1 else 0) by omega]
theorem head_at (T : ByteArray) (j : Nat) (h : j < T.size) : (T.data.toList.drop j).head? = some (T[j]'h) := by rw [drop_byte T j h]; rfl

theorem qRefHexA (s : ByteArray) (k : Nat) (attr : Bool) (hk : k ≤ s.size) (hs : s.size ≤ 1000000) (w : World)
    (T : ByteArray) (hT : T = s.extract k s.size) (h0 : 0 < T.size) (h35 : T[0]'h0 = 35) (h1 : 1 < T.size) (x1 : (((T[1]'h1).toNat : Int) == 120) = true) (a : Int) (hCa : ∀ W, Calls Tryz.prog 57 #[.string s, .int .i64 a] W fun e w' => e = .returned (.int .i64 (k : Nat)) ∧ w' = W)
    (hq : QNum T attr 2 (digRun hexB 16 (T.data.toList.drop 2) 0 0)) :
    Calls Tryz.prog 17 #[.string s, .int .i64 a, .bool attr] w (QRefP T k attr w) := by
  have HC := Lib.hid hCa
  have hTe : s.extract k s.size = T := hT.symm
  have hTs : T.size = s.size - k := by rw [hT, ByteArray.size_extract]; omega
  have hkI : (k : Int) ≤ (s.size : Int) := by omega
  have hz2 : (s.size : Int) ≤ 1000000 := by omega
  have hzT : (T.size : Int) ≤ 1000000 := by omega
  have hne : T.toList.isEmpty = false := by
    rw [List.isEmpty_eq_false_iff]
    intro h
    have h2 := congrArg List.length h
    rw [ByteArray.toList_eq, size_list] at h2
    exact absurd h2 (by show ¬ T.size = 0; omega)
  have HA := Lib.hid (fun W => rAlnum ((T[0]'h0).toNat : Int) W)
  have hal : alnB ((T[0]'h0).toNat : Int) = false := by rw [h35]; decide
  rw [hal] at HA
  have d35 : (((T[0]'h0).toNat : Int) != 35) = false := by rw [h35]; rfl
  obtain ⟨D, hD⟩ : ∃ D, T.extract 2 T.size = D := ⟨_, rfl⟩
  have hDl : D.data.toList = T.data.toList.drop 2 := by rw [← hD, ext_drop]
  have hDs : D.size = T.size - 2 := by rw [← hD, ByteArray.size_extract]; omega
  obtain ⟨r, hr⟩ : ∃ r, r = digRun hexB 16 (T.data.toList.drop 2) 0 0 := ⟨_, rfl⟩
  have HDG := Lib.hid (fun W => rDigits16 D (by unfold maxLen; omega) W)
  rw [hDl, ← hr] at HDG
  rw [← hr] at hq
  have hm : r.2 + 2 ≤ T.size := by
    have h := (digRun_ge hexB 16 (T.data.toList.drop 2) 0 0).2
    rw [← hr, List.length_drop, size_list] at h
    omega
  obtain ⟨code, m⟩ := r
  simp only at hm hq HDG
  obtain ⟨M, hM⟩ : ∃ M : Int, M = m := ⟨_, rfl⟩
  rw [← hM] at HDG
  have M0 : 0 ≤ M := by omega
  have M1 : 2 + M ≤ (T.size : Int) := by omega
  have HQ := Lib.hid hq
  have HMM := Lib.hid hM
  have Hk0 := Lib.hid (take_ext T 2 (by omega))
  have HBD := Lib.hid (cpZ_bd code)
  clear hCa hT hal hDl hTs hDs h35 hr hq
  have hI1 : (1 : Int) < (T.size : Int) := by omega
  by_cases hz : m = 0
  · have dM : (M == 0) = true := by rw [beq_iff_eq]; omega
    have HZ := Lib.hid hz
    clear hz hM
    go_enter Tryz.func17, Tryz.ntmps17
    go_wp2_with fail
    refine (HC.out w).mono ?_
    rintro e w1 ⟨rfl, rfl⟩
    go_wp2_with fail
    refine (HA.out w1).mono ?_
    rintro e w2 ⟨rfl, rfl⟩
    go_wp2_with fail
    refine (HDG.out w2).mono ?_
    rintro e w3 ⟨rfl, hb3⟩
    go_wp2_with fail
    go_ret2
    refine ⟨(⟨#[38]⟩ : ByteArray) ++ T.extract 0 2, 2, ret2_v rfl (by omega), ?_, ?_, by omega, hb3⟩
    · rw [HQ.out, if_pos HZ.out, ByteArray.data_append, Array.toList_append, Hk0.out]
      all_goals simp only [List.cons_append, List.nil_append]
    · rw [HQ.out, if_pos HZ.out]
  · have dM : (M == 0) = false := by rw [beq_eq_false_iff_ne]; omega
    have HNZ := Lib.hid hz
    by_cases hlt : 2 + m < T.size
    · have dlt : decide (2 + M < (T.size : Int)) = true := decide_eq_true (by omega)
      have hix : (2 + M).toNat < T.size := by omega
      have HLT := Lib.hid hlt
      have hhd : (T.data.toList.drop (2 + m)).head? = some (T[(2 + M).toNat]'hix) := by
        rw [head_at T (2 + m) hlt]
        congr 2
        omega
      by_cases hse : T[(2 + M).toNat]'hix = 59
      · have HSE := Lib.hid (show (T.data.toList.drop (2 + m)).head? = some 59 by rw [hhd, hse])
        have d59 : (((T[(2 + M).toNat]'hix).toNat : Int) == 59) = true := by rw [hse]; rfl
        have gM : 0 ≤ 2 + M := by omega
        have gM2 : 2 + M < (T.size : Int) := by omega
        clear hz hM hlt hhd hse
        go_enter Tryz.func17, Tryz.ntmps17
        go_wp2_with fail
        refine (HC.out w).mono ?_
        rintro e w1 ⟨rfl, rfl⟩
        go_wp2_with fail
        refine (HA.out w1).mono ?_
        rintro e w2 ⟨rfl, rfl⟩
        go_wp2_with fail
        refine (HDG.out w2).mono ?_
        rintro e w3 ⟨rfl, hb3⟩
        go_wp2_with fail
        refine (rCodePoint code w3).mono ?_
        rintro e w4 ⟨rfl, hs4⟩
        have hb4 := below_next hb3 hs4
        clear hs4
        go_wp2_with fail
        refine (rBytes (cpZ code) (by have := HBD.out.1; omega) HBD.out.2.1 w4).mono ?_
        rintro e w5 ⟨v, rfl, hown, _, hs5⟩
        have hb5 := below_next hb4 hs5
        obtain ⟨W1, hW1⟩ : ∃ W1, W1 = bl (encU (cpZ code)) := ⟨_, rfl⟩
        have hbk : (convert 54 9 v).run Tryz.prog w5 = .ok (.string W1) w5 := by
          have h := hown
          rw [← encU_cells (cpZ code) (by have := HBD.out.1; omega) HBD.out.2.1, show (encZ (cpZ code)).length = (encU (cpZ code)).length by unfold encU; rw [List.length_map]] at h
          have h2 := bytes_back h
          rw [hW1]
          exact h2
        have HW1 := Lib.hid hW1
        clear hs5 hown hW1
        go_wp2_with fail
        go_ret2
        refine ⟨W1, 2 + m + 1, ret2_v rfl (by have := HMM.out; omega), ?_, ?_, ?_, hb5⟩
        · rw [HQ.out, if_neg HNZ.out, HW1.out, bl_list, encT8_encU (cpZ code) (by have := HBD.out; omega)]
        · rw [HQ.out, if_neg HNZ.out, if_pos HSE.out]
        · have := HMM.out; have := HLT.out; omega
      · have HSE := Lib.hid (show ¬ (T.data.toList.drop (2 + m)).head? = some 59 by
          rw [hhd]
          intro h
          exact hse (Option.some.inj h))
        have d59 : (((T[(2 + M).toNat]'hix).toNat : Int) == 59) = false := by
          rw [beq_eq_false_iff_ne]
          intro h
          exact hse (UInt8.toNat_inj.1 (by show (T[(2 + M).toNat]'hix).toNat = 59; omega))
        have gM : 0 ≤ 2 + M := by omega
        have gM2 : 2 + M < (T.size : Int) := by omega
        clear hz hM hlt hhd hse
        go_enter Tryz.func17, Tryz.ntmps17
        go_wp2_with fail
        refine (HC.out w).mono ?_
        rintro e w1 ⟨rfl, rfl⟩
        go_wp2_with fail
        refine (HA.out w1).mono ?_
        rintro e w2 ⟨rfl, rfl⟩
        go_wp2_with fail
        refine (HDG.out w2).mono ?_
        rintro e w3 ⟨rfl, hb3⟩
        go_wp2_with fail
        refine (rCodePoint code w3).mono ?_
        rintro e w4 ⟨rfl, hs4⟩
        have hb4 := below_next hb3 hs4
        clear hs4
        go_wp2_with fail
        refine (rBytes (cpZ code) (by have := HBD.out.1; omega) HBD.out.2.1 w4).mono ?_
        rintro e w5 ⟨v, rfl, hown, _, hs5⟩
        have hb5 := below_next hb4 hs5
        obtain ⟨W1, hW1⟩ : ∃ W1, W1 = bl (encU (cpZ code)) := ⟨_, rfl⟩
        have hbk : (convert 54 9 v).run Tryz.prog w5 = .ok (.string W1) w5 := by
          have h := hown
          rw [← encU_cells (cpZ code) (by have := HBD.out.1; omega) HBD.out.2.1, show (encZ (cpZ code)).length = (encU (cpZ code)).length by unfold encU; rw [List.length_map]] at h
          have h2 := bytes_back h
          rw [hW1]
          exact h2
        have HW1 := Lib.hid hW1
        clear hs5 hown hW1
        go_wp2_with fail
        go_ret2
        refine ⟨W1, 2 + m, ret2_v rfl (by have := HMM.out; omega), ?_, ?_, ?_, hb5⟩
        · rw [HQ.out, if_neg HNZ.out, HW1.out, bl_list, encT8_encU (cpZ code) (by have := HBD.out; omega)]
        · rw [HQ.out, if_neg HNZ.out, if_neg HSE.out]
          all_goals rfl
        · have := HMM.out; omega
    · have dlt : decide (2 + M < (T.size : Int)) = false := decide_eq_false (by omega)
      have HSE := Lib.hid (show ¬ (T.data.toList.drop (2 + m)).head? = some 59 by
        rw [drop_end T (2 + m) (by omega)]
        simp)
      clear hz hM hlt
      go_enter Tryz.func17, Tryz.ntmps17
      go_wp2_with fail
      refine (HC.out w).mono ?_
      rintro e w1 ⟨rfl, rfl⟩
      go_wp2_with fail
      refine (HA.out w1).mono ?_
      rintro e w2 ⟨rfl, rfl⟩
      go_wp2_with fail
      refine (HDG.out w2).mono ?_
      rintro e w3 ⟨rfl, hb3⟩
      go_wp2_with fail
      refine (rCodePoint code w3).mono ?_
      rintro e w4 ⟨rfl, hs4⟩
      have hb4 := below_next hb3 hs4
      clear hs4
      go_wp2_with fail
      refine (rBytes (cpZ code) (by have := HBD.out.1; omega) HBD.out.2.1 w4).mono ?_
      rintro e w5 ⟨v, rfl, hown, _, hs5⟩
      have hb5 := below_next hb4 hs5
      obtain ⟨W1, hW1⟩ : ∃ W1, W1 = bl (encU (cpZ code)) := ⟨_, rfl⟩
      have hbk : (convert 54 9 v).run Tryz.prog w5 = .ok (.string W1) w5 := by
        have h := hown
        rw [← encU_cells (cpZ code) (by have := HBD.out.1; omega) HBD.out.2.1, show (encZ (cpZ code)).length = (encU (cpZ code)).length by unfold encU; rw [List.length_map]] at h
        have h2 := bytes_back h
        rw [hW1]
        exact h2
      have HW1 := Lib.hid hW1
      clear hs5 hown hW1
      go_wp2_with fail
      go_ret2
      refine ⟨W1, 2 + m, ret2_v rfl (by have := HMM.out; omega), ?_, ?_, ?_, hb5⟩
      · rw [HQ.out, if_neg HNZ.out, HW1.out, bl_list, encT8_encU (cpZ code) (by have := HBD.out; omega)]
      · rw [HQ.out, if_neg HNZ.out, if_neg HSE.out]
        all_goals rfl
      · have := HMM.out; omega
theorem qRefHexB (s : ByteArray) (k : Nat) (attr : Bool) (hk : k ≤ s.size) (hs : s.size ≤ 1000000) (w : World)
    (T : ByteArray) (hT : T = s.extract k s.size) (h0 : 0 < T.size) (h35 : T[0]'h0 = 35) (h1 : 1 < T.size) (x1 : (((T[1]'h1).toNat : Int) == 120) = false) (x2 : (((T[1]'h1).toNat : Int) == 88) = true) (a : Int) (hCa : ∀ W, Calls Tryz.prog 57 #[.string s, .int .i64 a] W fun e w' => e = .returned (.int .i64 (k : Nat)) ∧ w' = W)
    (hq : QNum T attr 2 (digRun hexB 16 (T.data.toList.drop 2) 0 0)) :
    Calls Tryz.prog 17 #[.string s, .int .i64 a, .bool attr] w (QRefP T k attr w) := by
  have HC := Lib.hid hCa
  have hTe : s.extract k s.size = T := hT.symm
  have hTs : T.size = s.size - k := by rw [hT, ByteArray.size_extract]; omega
  have hkI : (k : Int) ≤ (s.size : Int) := by omega
  have hz2 : (s.size : Int) ≤ 1000000 := by omega
  have hzT : (T.size : Int) ≤ 1000000 := by omega
  have hne : T.toList.isEmpty = false := by
    rw [List.isEmpty_eq_false_iff]
    intro h
    have h2 := congrArg List.length h
    rw [ByteArray.toList_eq, size_list] at h2
    exact absurd h2 (by show ¬ T.size = 0; omega)
  have HA := Lib.hid (fun W => rAlnum ((T[0]'h0).toNat : Int) W)
  have hal : alnB ((T[0]'h0).toNat : Int) = false := by rw [h35]; decide
  rw [hal] at HA
  have d35 : (((T[0]'h0).toNat : Int) != 35) = false := by rw [h35]; rfl
  obtain ⟨D, hD⟩ : ∃ D, T.extract 2 T.size = D := ⟨_, rfl⟩
  have hDl : D.data.toList = T.data.toList.drop 2 := by rw [← hD, ext_drop]
  have hDs : D.size = T.size - 2 := by rw [← hD, ByteArray.size_extract]; omega
  obtain ⟨r, hr⟩ : ∃ r, r = digRun hexB 16 (T.data.toList.drop 2) 0 0 := ⟨_, rfl⟩
  have HDG := Lib.hid (fun W => rDigits16 D (by unfold maxLen; omega) W)
  rw [hDl, ← hr] at HDG
  rw [← hr] at hq
  have hm : r.2 + 2 ≤ T.size := by
    have h := (digRun_ge hexB 16 (T.data.toList.drop 2) 0 0).2
    rw [← hr, List.length_drop, size_list] at h
    omega
  obtain ⟨code, m⟩ := r
  simp only at hm hq HDG
  obtain ⟨M, hM⟩ : ∃ M : Int, M = m := ⟨_, rfl⟩
  rw [← hM] at HDG
  have M0 : 0 ≤ M := by omega
  have M1 : 2 + M ≤ (T.size : Int) := by omega
  have HQ := Lib.hid hq
  have HMM := Lib.hid hM
  have Hk0 := Lib.hid (take_ext T 2 (by omega))
  have HBD := Lib.hid (cpZ_bd code)
  clear hCa hT hal hDl hTs hDs h35 hr hq
  have hI1 : (1 : Int) < (T.size : Int) := by omega
  by_cases hz : m = 0
  · have dM : (M == 0) = true := by rw [beq_iff_eq]; omega
    have HZ := Lib.hid hz
    clear hz hM
    go_enter Tryz.func17, Tryz.ntmps17
    go_wp2_with fail
    refine (HC.out w).mono ?_
    rintro e w1 ⟨rfl, rfl⟩
    go_wp2_with fail
    refine (HA.out w1).mono ?_
    rintro e w2 ⟨rfl, rfl⟩
    go_wp2_with fail
    refine (HDG.out w2).mono ?_
    rintro e w3 ⟨rfl, hb3⟩
    go_wp2_with fail
    go_ret2
    refine ⟨(⟨#[38]⟩ : ByteArray) ++ T.extract 0 2, 2, ret2_v rfl (by omega), ?_, ?_, by omega, hb3⟩
    · rw [HQ.out, if_pos HZ.out, ByteArray.data_append, Array.toList_append, Hk0.out]
      all_goals simp only [List.cons_append, List.nil_append]
    · rw [HQ.out, if_pos HZ.out]
  · have dM : (M == 0) = false := by rw [beq_eq_false_iff_ne]; omega
    have HNZ := Lib.hid hz
    by_cases hlt : 2 + m < T.size
    · have dlt : decide (2 + M < (T.size : Int)) = true := decide_eq_true (by omega)
      have hix : (2 + M).toNat < T.size := by omega
      have HLT := Lib.hid hlt
      have hhd : (T.data.toList.drop (2 + m)).head? = some (T[(2 + M).toNat]'hix) := by
        rw [head_at T (2 + m) hlt]
        congr 2
        omega
      by_cases hse : T[(2 + M).toNat]'hix = 59
      · have HSE := Lib.hid (show (T.data.toList.drop (2 + m)).head? = some 59 by rw [hhd, hse])
        have d59 : (((T[(2 + M).toNat]'hix).toNat : Int) == 59) = true := by rw [hse]; rfl
        have gM : 0 ≤ 2 + M := by omega
        have gM2 : 2 + M < (T.size : Int) := by omega
        clear hz hM hlt hhd hse
        go_enter Tryz.func17, Tryz.ntmps17
        go_wp2_with fail
        refine (HC.out w).mono ?_
        rintro e w1 ⟨rfl, rfl⟩
        go_wp2_with fail
        refine (HA.out w1).mono ?_
        rintro e w2 ⟨rfl, rfl⟩
        go_wp2_with fail
        refine (HDG.out w2).mono ?_
        rintro e w3 ⟨rfl, hb3⟩
        go_wp2_with fail
        refine (rCodePoint code w3).mono ?_
        rintro e w4 ⟨rfl, hs4⟩
        have hb4 := below_next hb3 hs4
        clear hs4
        go_wp2_with fail
        refine (rBytes (cpZ code) (by have := HBD.out.1; omega) HBD.out.2.1 w4).mono ?_
        rintro e w5 ⟨v, rfl, hown, _, hs5⟩
        have hb5 := below_next hb4 hs5
        obtain ⟨W1, hW1⟩ : ∃ W1, W1 = bl (encU (cpZ code)) := ⟨_, rfl⟩
        have hbk : (convert 54 9 v).run Tryz.prog w5 = .ok (.string W1) w5 := by
          have h := hown
          rw [← encU_cells (cpZ code) (by have := HBD.out.1; omega) HBD.out.2.1, show (encZ (cpZ code)).length = (encU (cpZ code)).length by unfold encU; rw [List.length_map]] at h
          have h2 := bytes_back h
          rw [hW1]
          exact h2
        have HW1 := Lib.hid hW1
        clear hs5 hown hW1
        go_wp2_with fail
        go_ret2
        refine ⟨W1, 2 + m + 1, ret2_v rfl (by have := HMM.out; omega), ?_, ?_, ?_, hb5⟩
        · rw [HQ.out, if_neg HNZ.out, HW1.out, bl_list, encT8_encU (cpZ code) (by have := HBD.out; omega)]
        · rw [HQ.out, if_neg HNZ.out, if_pos HSE.out]
        · have := HMM.out; have := HLT.out; omega
      · have HSE := Lib.hid (show ¬ (T.data.toList.drop (2 + m)).head? = some 59 by
          rw [hhd]
          intro h
          exact hse (Option.some.inj h))
        have d59 : (((T[(2 + M).toNat]'hix).toNat : Int) == 59) = false := by
          rw [beq_eq_false_iff_ne]
          intro h
          exact hse (UInt8.toNat_inj.1 (by show (T[(2 + M).toNat]'hix).toNat = 59; omega))
        have gM : 0 ≤ 2 + M := by omega
        have gM2 : 2 + M < (T.size : Int) := by omega
        clear hz hM hlt hhd hse
        go_enter Tryz.func17, Tryz.ntmps17
        go_wp2_with fail
        refine (HC.out w).mono ?_
        rintro e w1 ⟨rfl, rfl⟩
        go_wp2_with fail
        refine (HA.out w1).mono ?_
        rintro e w2 ⟨rfl, rfl⟩
        go_wp2_with fail
        refine (HDG.out w2).mono ?_
        rintro e w3 ⟨rfl, hb3⟩
        go_wp2_with fail
        refine (rCodePoint code w3).mono ?_
        rintro e w4 ⟨rfl, hs4⟩
        have hb4 := below_next hb3 hs4
        clear hs4
        go_wp2_with fail
        refine (rBytes (cpZ code) (by have := HBD.out.1; omega) HBD.out.2.1 w4).mono ?_
        rintro e w5 ⟨v, rfl, hown, _, hs5⟩
        have hb5 := below_next hb4 hs5
        obtain ⟨W1, hW1⟩ : ∃ W1, W1 = bl (encU (cpZ code)) := ⟨_, rfl⟩
        have hbk : (convert 54 9 v).run Tryz.prog w5 = .ok (.string W1) w5 := by
          have h := hown
          rw [← encU_cells (cpZ code) (by have := HBD.out.1; omega) HBD.out.2.1, show (encZ (cpZ code)).length = (encU (cpZ code)).length by unfold encU; rw [List.length_map]] at h
          have h2 := bytes_back h
          rw [hW1]
          exact h2
        have HW1 := Lib.hid hW1
        clear hs5 hown hW1
        go_wp2_with fail
        go_ret2
        refine ⟨W1, 2 + m, ret2_v rfl (by have := HMM.out; omega), ?_, ?_, ?_, hb5⟩
        · rw [HQ.out, if_neg HNZ.out, HW1.out, bl_list, encT8_encU (cpZ code) (by have := HBD.out; omega)]
        · rw [HQ.out, if_neg HNZ.out, if_neg HSE.out]
          all_goals rfl
        · have := HMM.out; omega
    · have dlt : decide (2 + M < (T.size : Int)) = false := decide_eq_false (by omega)
      have HSE := Lib.hid (show ¬ (T.data.toList.drop (2 + m)).head? = some 59 by
        rw [drop_end T (2 + m) (by omega)]
        simp)
      clear hz hM hlt
      go_enter Tryz.func17, Tryz.ntmps17
      go_wp2_with fail
      refine (HC.out w).mono ?_
      rintro e w1 ⟨rfl, rfl⟩
      go_wp2_with fail
      refine (HA.out w1).mono ?_
      rintro e w2 ⟨rfl, rfl⟩
      go_wp2_with fail
      refine (HDG.out w2).mono ?_
      rintro e w3 ⟨rfl, hb3⟩
      go_wp2_with fail
      refine (rCodePoint code w3).mono ?_
      rintro e w4 ⟨rfl, hs4⟩
      have hb4 := below_next hb3 hs4
      clear hs4
      go_wp2_with fail
      refine (rBytes (cpZ code) (by have := HBD.out.1; omega) HBD.out.2.1 w4).mono ?_
      rintro e w5 ⟨v, rfl, hown, _, hs5⟩
      have hb5 := below_next hb4 hs5
      obtain ⟨W1, hW1⟩ : ∃ W1, W1 = bl (encU (cpZ code)) := ⟨_, rfl⟩
      have hbk : (convert 54 9 v).run Tryz.prog w5 = .ok (.string W1) w5 := by
        have h := hown
        rw [← encU_cells (cpZ code) (by have := HBD.out.1; omega) HBD.out.2.1, show (encZ (cpZ code)).length = (encU (cpZ code)).length by unfold encU; rw [List.length_map]] at h
        have h2 := bytes_back h
        rw [hW1]
        exact h2
      have HW1 := Lib.hid hW1
      clear hs5 hown hW1
      go_wp2_with fail
      go_ret2
      refine ⟨W1, 2 + m, ret2_v rfl (by have := HMM.out; omega), ?_, ?_, ?_, hb5⟩
      · rw [HQ.out, if_neg HNZ.out, HW1.out, bl_list, encT8_encU (cpZ code) (by have := HBD.out; omega)]
      · rw [HQ.out, if_neg HNZ.out, if_neg HSE.out]
        all_goals rfl
      · have := HMM.out; omega
theorem qRefTenA (s : ByteArray) (k : Nat) (attr : Bool) (hk : k ≤ s.size) (hs : s.size ≤ 1000000) (w : World)
    (T : ByteArray) (hT : T = s.extract k s.size) (h0 : 0 < T.size) (h35 : T[0]'h0 = 35) (h1 : ¬ 1 < T.size) (a : Int) (hCa : ∀ W, Calls Tryz.prog 57 #[.string s, .int .i64 a] W fun e w' => e = .returned (.int .i64 (k : Nat)) ∧ w' = W)
    (hq : QNum T attr 1 (digRun digB 10 (T.data.toList.drop 1) 0 0)) :
    Calls Tryz.prog 17 #[.string s, .int .i64 a, .bool attr] w (QRefP T k attr w) := by
  have HC := Lib.hid hCa
  have hTe : s.extract k s.size = T := hT.symm
  have hTs : T.size = s.size - k := by rw [hT, ByteArray.size_extract]; omega
  have hkI : (k : Int) ≤ (s.size : Int) := by omega
  have hz2 : (s.size : Int) ≤ 1000000 := by omega
  have hzT : (T.size : Int) ≤ 1000000 := by omega
  have hne : T.toList.isEmpty = false := by
    rw [List.isEmpty_eq_false_iff]
    intro h
    have h2 := congrArg List.length h
    rw [ByteArray.toList_eq, size_list] at h2
    exact absurd h2 (by show ¬ T.size = 0; omega)
  have HA := Lib.hid (fun W => rAlnum ((T[0]'h0).toNat : Int) W)
  have hal : alnB ((T[0]'h0).toNat : Int) = false := by rw [h35]; decide
  rw [hal] at HA
  have d35 : (((T[0]'h0).toNat : Int) != 35) = false := by rw [h35]; rfl
  obtain ⟨D, hD⟩ : ∃ D, T.extract 1 T.size = D := ⟨_, rfl⟩
  have hDl : D.data.toList = T.data.toList.drop 1 := by rw [← hD, ext_drop]
  have hDs : D.size = T.size - 1 := by rw [← hD, ByteArray.size_extract]; omega
  obtain ⟨r, hr⟩ : ∃ r, r = digRun digB 10 (T.data.toList.drop 1) 0 0 := ⟨_, rfl⟩
  have HDG := Lib.hid (fun W => rDigits10 D 10 (by decide) (by unfold maxLen; omega) W)
  rw [hDl, ← hr] at HDG
  rw [← hr] at hq
  have hm : r.2 + 1 ≤ T.size := by
    have h := (digRun_ge digB 10 (T.data.toList.drop 1) 0 0).2
    rw [← hr, List.length_drop, size_list] at h
    omega
  obtain ⟨code, m⟩ := r
  simp only at hm hq HDG
  obtain ⟨M, hM⟩ : ∃ M : Int, M = m := ⟨_, rfl⟩
  rw [← hM] at HDG
  have M0 : 0 ≤ M := by omega
  have M1 : 1 + M ≤ (T.size : Int) := by omega
  have HQ := Lib.hid hq
  have HMM := Lib.hid hM
  have Hk0 := Lib.hid (take_ext T 1 (by omega))
  have HBD := Lib.hid (cpZ_bd code)
  clear hCa hT hal hDl hTs hDs h35 hr hq
  have hI1 : (T.size : Int) ≤ 1 := by omega
  by_cases hz : m = 0
  · have dM : (M == 0) = true := by rw [beq_iff_eq]; omega
    have HZ := Lib.hid hz
    clear hz hM
    go_enter Tryz.func17, Tryz.ntmps17
    go_wp2_with fail
    refine (HC.out w).mono ?_
    rintro e w1 ⟨rfl, rfl⟩
    go_wp2_with fail
    refine (HA.out w1).mono ?_
    rintro e w2 ⟨rfl, rfl⟩
    go_wp2_with fail
    refine (HDG.out w2).mono ?_
    rintro e w3 ⟨rfl, hb3⟩
    go_wp2_with fail
    go_ret2
    refine ⟨(⟨#[38]⟩ : ByteArray) ++ T.extract 0 1, 1, ret2_v rfl (by omega), ?_, ?_, by omega, hb3⟩
    · rw [HQ.out, if_pos HZ.out, ByteArray.data_append, Array.toList_append, Hk0.out]
      all_goals simp only [List.cons_append, List.nil_append]
    · rw [HQ.out, if_pos HZ.out]
  · exact absurd hz (by omega)
theorem qRefTenB (s : ByteArray) (k : Nat) (attr : Bool) (hk : k ≤ s.size) (hs : s.size ≤ 1000000) (w : World)
    (T : ByteArray) (hT : T = s.extract k s.size) (h0 : 0 < T.size) (h35 : T[0]'h0 = 35) (h1 : 1 < T.size) (x1 : (((T[1]'h1).toNat : Int) == 120) = false) (x2 : (((T[1]'h1).toNat : Int) == 88) = false) (a : Int) (hCa : ∀ W, Calls Tryz.prog 57 #[.string s, .int .i64 a] W fun e w' => e = .returned (.int .i64 (k : Nat)) ∧ w' = W)
    (hq : QNum T attr 1 (digRun digB 10 (T.data.toList.drop 1) 0 0)) :
    Calls Tryz.prog 17 #[.string s, .int .i64 a, .bool attr] w (QRefP T k attr w) := by
  have HC := Lib.hid hCa
  have hTe : s.extract k s.size = T := hT.symm
  have hTs : T.size = s.size - k := by rw [hT, ByteArray.size_extract]; omega
  have hkI : (k : Int) ≤ (s.size : Int) := by omega
  have hz2 : (s.size : Int) ≤ 1000000 := by omega
  have hzT : (T.size : Int) ≤ 1000000 := by omega
  have hne : T.toList.isEmpty = false := by
    rw [List.isEmpty_eq_false_iff]
    intro h
    have h2 := congrArg List.length h
    rw [ByteArray.toList_eq, size_list] at h2
    exact absurd h2 (by show ¬ T.size = 0; omega)
  have HA := Lib.hid (fun W => rAlnum ((T[0]'h0).toNat : Int) W)
  have hal : alnB ((T[0]'h0).toNat : Int) = false := by rw [h35]; decide
  rw [hal] at HA
  have d35 : (((T[0]'h0).toNat : Int) != 35) = false := by rw [h35]; rfl
  obtain ⟨D, hD⟩ : ∃ D, T.extract 1 T.size = D := ⟨_, rfl⟩
  have hDl : D.data.toList = T.data.toList.drop 1 := by rw [← hD, ext_drop]
  have hDs : D.size = T.size - 1 := by rw [← hD, ByteArray.size_extract]; omega
  obtain ⟨r, hr⟩ : ∃ r, r = digRun digB 10 (T.data.toList.drop 1) 0 0 := ⟨_, rfl⟩
  have HDG := Lib.hid (fun W => rDigits10 D 10 (by decide) (by unfold maxLen; omega) W)
  rw [hDl, ← hr] at HDG
  rw [← hr] at hq
  have hm : r.2 + 1 ≤ T.size := by
    have h := (digRun_ge digB 10 (T.data.toList.drop 1) 0 0).2
    rw [← hr, List.length_drop, size_list] at h
    omega
  obtain ⟨code, m⟩ := r
  simp only at hm hq HDG
  obtain ⟨M, hM⟩ : ∃ M : Int, M = m := ⟨_, rfl⟩
  rw [← hM] at HDG
  have M0 : 0 ≤ M := by omega
  have M1 : 1 + M ≤ (T.size : Int) := by omega
  have HQ := Lib.hid hq
  have HMM := Lib.hid hM
  have Hk0 := Lib.hid (take_ext T 1 (by omega))
  have HBD := Lib.hid (cpZ_bd code)
  clear hCa hT hal hDl hTs hDs h35 hr hq
  have hI1 : (1 : Int) < (T.size : Int) := by omega
  by_cases hz : m = 0
  · have dM : (M == 0) = true := by rw [beq_iff_eq]; omega
    have HZ := Lib.hid hz
    clear hz hM
    go_enter Tryz.func17, Tryz.ntmps17
    go_wp2_with fail
    refine (HC.out w).mono ?_
    rintro e w1 ⟨rfl, rfl⟩
    go_wp2_with fail
    refine (HA.out w1).mono ?_
    rintro e w2 ⟨rfl, rfl⟩
    go_wp2_with fail
    refine (HDG.out w2).mono ?_
    rintro e w3 ⟨rfl, hb3⟩
    go_wp2_with fail
    go_ret2
    refine ⟨(⟨#[38]⟩ : ByteArray) ++ T.extract 0 1, 1, ret2_v rfl (by omega), ?_, ?_, by omega, hb3⟩
    · rw [HQ.out, if_pos HZ.out, ByteArray.data_append, Array.toList_append, Hk0.out]
      all_goals simp only [List.cons_append, List.nil_append]
    · rw [HQ.out, if_pos HZ.out]
  · have dM : (M == 0) = false := by rw [beq_eq_false_iff_ne]; omega
    have HNZ := Lib.hid hz
    by_cases hlt : 1 + m < T.size
    · have dlt : decide (1 + M < (T.size : Int)) = true := decide_eq_true (by omega)
      have hix : (1 + M).toNat < T.size := by omega
      have HLT := Lib.hid hlt
      have hhd : (T.data.toList.drop (1 + m)).head? = some (T[(1 + M).toNat]'hix) := by
        rw [head_at T (1 + m) hlt]
        congr 2
        omega
      by_cases hse : T[(1 + M).toNat]'hix = 59
      · have HSE := Lib.hid (show (T.data.toList.drop (1 + m)).head? = some 59 by rw [hhd, hse])
        have d59 : (((T[(1 + M).toNat]'hix).toNat : Int) == 59) = true := by rw [hse]; rfl
        have gM : 0 ≤ 1 + M := by omega
        have gM2 : 1 + M < (T.size : Int) := by omega
        clear hz hM hlt hhd hse
        go_enter Tryz.func17, Tryz.ntmps17
        go_wp2_with fail
        refine (HC.out w).mono ?_
        rintro e w1 ⟨rfl, rfl⟩
        go_wp2_with fail
        refine (HA.out w1).mono ?_
        rintro e w2 ⟨rfl, rfl⟩
        go_wp2_with fail
        refine (HDG.out w2).mono ?_
        rintro e w3 ⟨rfl, hb3⟩
        go_wp2_with fail
        refine (rCodePoint code w3).mono ?_
        rintro e w4 ⟨rfl, hs4⟩
        have hb4 := below_next hb3 hs4
        clear hs4
        go_wp2_with fail
        refine (rBytes (cpZ code) (by have := HBD.out.1; omega) HBD.out.2.1 w4).mono ?_
        rintro e w5 ⟨v, rfl, hown, _, hs5⟩
        have hb5 := below_next hb4 hs5
        obtain ⟨W1, hW1⟩ : ∃ W1, W1 = bl (encU (cpZ code)) := ⟨_, rfl⟩
        have hbk : (convert 54 9 v).run Tryz.prog w5 = .ok (.string W1) w5 := by
          have h := hown
          rw [← encU_cells (cpZ code) (by have := HBD.out.1; omega) HBD.out.2.1, show (encZ (cpZ code)).length = (encU (cpZ code)).length by unfold encU; rw [List.length_map]] at h
          have h2 := bytes_back h
          rw [hW1]
          exact h2
        have HW1 := Lib.hid hW1
        clear hs5 hown hW1
        go_wp2_with fail
        go_ret2
        refine ⟨W1, 1 + m + 1, ret2_v rfl (by have := HMM.out; omega), ?_, ?_, ?_, hb5⟩
        · rw [HQ.out, if_neg HNZ.out, HW1.out, bl_list, encT8_encU (cpZ code) (by have := HBD.out; omega)]
        · rw [HQ.out, if_neg HNZ.out, if_pos HSE.out]
        · have := HMM.out; have := HLT.out; omega
      · have HSE := Lib.hid (show ¬ (T.data.toList.drop (1 + m)).head? = some 59 by
          rw [hhd]
          intro h
          exact hse (Option.some.inj h))
        have d59 : (((T[(1 + M).toNat]'hix).toNat : Int) == 59) = false := by
          rw [beq_eq_false_iff_ne]
          intro h
          exact hse (UInt8.toNat_inj.1 (by show (T[(1 + M).toNat]'hix).toNat = 59; omega))
        have gM : 0 ≤ 1 + M := by omega
        have gM2 : 1 + M < (T.size : Int) := by omega
        clear hz hM hlt hhd hse
        go_enter Tryz.func17, Tryz.ntmps17
        go_wp2_with fail
        refine (HC.out w).mono ?_
        rintro e w1 ⟨rfl, rfl⟩
        go_wp2_with fail
        refine (HA.out w1).mono ?_
        rintro e w2 ⟨rfl, rfl⟩
        go_wp2_with fail
        refine (HDG.out w2).mono ?_
        rintro e w3 ⟨rfl, hb3⟩
        go_wp2_with fail
        refine (rCodePoint code w3).mono ?_
        rintro e w4 ⟨rfl, hs4⟩
        have hb4 := below_next hb3 hs4
        clear hs4
        go_wp2_with fail
        refine (rBytes (cpZ code) (by have := HBD.out.1; omega) HBD.out.2.1 w4).mono ?_
        rintro e w5 ⟨v, rfl, hown, _, hs5⟩
        have hb5 := below_next hb4 hs5
        obtain ⟨W1, hW1⟩ : ∃ W1, W1 = bl (encU (cpZ code)) := ⟨_, rfl⟩
        have hbk : (convert 54 9 v).run Tryz.prog w5 = .ok (.string W1) w5 := by
          have h := hown
          rw [← encU_cells (cpZ code) (by have := HBD.out.1; omega) HBD.out.2.1, show (encZ (cpZ code)).length = (encU (cpZ code)).length by unfold encU; rw [List.length_map]] at h
          have h2 := bytes_back h
          rw [hW1]
          exact h2
        have HW1 := Lib.hid hW1
        clear hs5 hown hW1
        go_wp2_with fail
        go_ret2
        refine ⟨W1, 1 + m, ret2_v rfl (by have := HMM.out; omega), ?_, ?_, ?_, hb5⟩
        · rw [HQ.out, if_neg HNZ.out, HW1.out, bl_list, encT8_encU (cpZ code) (by have := HBD.out; omega)]
        · rw [HQ.out, if_neg HNZ.out, if_neg HSE.out]
          all_goals rfl
        · have := HMM.out; omega
    · have dlt : decide (1 + M < (T.size : Int)) = false := decide_eq_false (by omega)
      have HSE := Lib.hid (show ¬ (T.data.toList.drop (1 + m)).head? = some 59 by
        rw [drop_end T (1 + m) (by omega)]
        simp)
      clear hz hM hlt
      go_enter Tryz.func17, Tryz.ntmps17
      go_wp2_with fail
      refine (HC.out w).mono ?_
      rintro e w1 ⟨rfl, rfl⟩
      go_wp2_with fail
      refine (HA.out w1).mono ?_
      rintro e w2 ⟨rfl, rfl⟩
      go_wp2_with fail
      refine (HDG.out w2).mono ?_
      rintro e w3 ⟨rfl, hb3⟩
      go_wp2_with fail
      refine (rCodePoint code w3).mono ?_
      rintro e w4 ⟨rfl, hs4⟩
      have hb4 := below_next hb3 hs4
      clear hs4
      go_wp2_with fail
      refine (rBytes (cpZ code) (by have := HBD.out.1; omega) HBD.out.2.1 w4).mono ?_
      rintro e w5 ⟨v, rfl, hown, _, hs5⟩
      have hb5 := below_next hb4 hs5
      obtain ⟨W1, hW1⟩ : ∃ W1, W1 = bl (encU (cpZ code)) := ⟨_, rfl⟩
      have hbk : (convert 54 9 v).run Tryz.prog w5 = .ok (.string W1) w5 := by
        have h := hown
        rw [← encU_cells (cpZ code) (by have := HBD.out.1; omega) HBD.out.2.1, show (encZ (cpZ code)).length = (encU (cpZ code)).length by unfold encU; rw [List.length_map]] at h
        have h2 := bytes_back h
        rw [hW1]
        exact h2
      have HW1 := Lib.hid hW1
      clear hs5 hown hW1
      go_wp2_with fail
      go_ret2
      refine ⟨W1, 1 + m, ret2_v rfl (by have := HMM.out; omega), ?_, ?_, ?_, hb5⟩
      · rw [HQ.out, if_neg HNZ.out, HW1.out, bl_list, encT8_encU (cpZ code) (by have := HBD.out; omega)]
      · rw [HQ.out, if_neg HNZ.out, if_neg HSE.out]
        all_goals rfl
      · have := HMM.out; omega
end Go.Proofs.YtofiaodpjpjedaaGreatDoor

namespace Go.Proofs.YtofiaodpjpjedaaGreatDoor
open Go.RowKit Go.Shelf Go.Lib
set_option maxHeartbeats 4000000
set_option maxRecDepth 100000

theorem byte_ne {x : UInt8} {n : Nat} (hn : n < 256) (h : ((x.toNat : Int) == (n : Int)) = false) : x ≠ UInt8.ofNat n := by
  rintro rfl
  rw [UInt8.toNat_ofNat_of_lt' hn] at h
  simp at h
theorem byte_eq {x : UInt8} {n : Nat} (hn : n < 256) (h : ((x.toNat : Int) == (n : Int)) = true) : x = UInt8.ofNat n := by
  refine UInt8.toNat_inj.1 ?_
  rw [UInt8.toNat_ofNat_of_lt' hn]
  have := beq_iff_eq.1 h
  omega
theorem hexMark_no {x : UInt8} (h1 : ((x.toNat : Int) == 120) = false) (h2 : ((x.toNat : Int) == 88) = false) : hexMark x = false := by
  unfold hexMark
  rw [Bool.or_eq_false_iff, beq_eq_false_iff_ne, beq_eq_false_iff_ne]
  exact ⟨byte_ne (n := 120) (by decide) h1, byte_ne (n := 88) (by decide) h2⟩
theorem hexMark_yes {x : UInt8} (h : ((x.toNat : Int) == 120) = true ∨ ((x.toNat : Int) == 88) = true) : hexMark x = true := by
  unfold hexMark
  rw [Bool.or_eq_true, beq_iff_eq, beq_iff_eq]
  rcases h with h | h
  · exact .inl (byte_eq (n := 120) (by decide) h)
  · exact .inr (byte_eq (n := 88) (by decide) h)
theorem refNone (s : ByteArray) (k : Nat) (attr : Bool) (hk : k ≤ s.size) (hs : s.size ≤ 1000000) (w : World)
    (T : ByteArray) (hT : T = s.extract k s.size) (h0 : T.size = 0 ∨ ∃ h0 : 0 < T.size, alnB ((T[0]'h0).toNat : Int) = false ∧ (((T[0]'h0).toNat : Int) != 35) = true) (a : Int) (hCa : ∀ W, Calls Tryz.prog 57 #[.string s, .int .i64 a] W fun e w' => e = .returned (.int .i64 (k : Nat)) ∧ w' = W) :
    Calls Tryz.prog 17 #[.string s, .int .i64 a, .bool attr] w (QRefP T k attr w) := by
  have HC := Lib.hid hCa
  have hTe : s.extract k s.size = T := hT.symm
  have hTs : T.size = s.size - k := by rw [hT, ByteArray.size_extract]; omega
  have hkI : (k : Int) ≤ (s.size : Int) := by omega
  have hz2 : (s.size : Int) ≤ 1000000 := by omega
  have hzT : (T.size : Int) ≤ 1000000 := by omega
  have hrf : refL lgL attr T.data.toList = ([38], 0) := by
    rcases h0 with h0 | ⟨h0, h1, h2⟩
    · have : T.data.toList = [] := by
        have := drop_end T 0 (by omega)
        rwa [List.drop_zero] at this
      rw [this]; rfl
    · have hc := drop_byte T 0 h0
      rw [List.drop_zero] at hc
      rw [hc]
      show (if alU (T[0]'h0) then _ else if T[0]'h0 = 35 then _ else _) = _
      rw [if_neg (by unfold alU; rw [h1]; simp), if_neg (by rintro h; rw [h] at h2; simp at h2)]
  have HR := Lib.hid hrf
  clear hCa hT hTs hrf
  rcases h0 with h0 | ⟨h0, h1, h2⟩
  · have hne : T.toList.isEmpty = true := by
      rw [List.isEmpty_iff, ByteArray.toList_eq]
      have := drop_end T 0 (by omega)
      rwa [List.drop_zero] at this
    have HZ := Lib.hid h0
    clear h0
    go_enter Tryz.func17, Tryz.ntmps17
    go_wp2_with fail
    refine (HC.out w).mono ?_
    rintro e w1 ⟨rfl, rfl⟩
    go_wp2_with fail
    go_ret2
    refine ⟨⟨#[38]⟩, 0, ret2_v rfl (by omega), ?_, ?_, Nat.zero_le _, Below.refl _ _⟩
    · rw [HR.out]
    · rw [HR.out]
  · have hne : T.toList.isEmpty = false := by
      rw [List.isEmpty_eq_false_iff]
      intro h
      have h2 := congrArg List.length h
      rw [ByteArray.toList_eq, size_list] at h2
      exact absurd h2 (by show ¬ T.size = 0; omega)
    have HA := Lib.hid (fun W => rAlnum ((T[0]'h0).toNat : Int) W)
    rw [h1] at HA
    clear h1
    go_enter Tryz.func17, Tryz.ntmps17
    go_wp2_with fail
    refine (HC.out w).mono ?_
    rintro e w1 ⟨rfl, rfl⟩
    go_wp2_with fail
    refine (HA.out w1).mono ?_
    rintro e w2 ⟨rfl, rfl⟩
    go_wp2_with fail
    go_ret2
    refine ⟨⟨#[38]⟩, 0, ret2_v rfl (by omega), ?_, ?_, Nat.zero_le _, Below.refl _ _⟩
    · rw [HR.out]
    · rw [HR.out]

theorem qReference (s : ByteArray) (a : Int) (attr : Bool) (hs : s.size ≤ 1000000) (w : World) :
    Calls Tryz.prog 17 #[.string s, .int .i64 a, .bool attr] w fun e w' => ∃ (V : ByteArray) (N : Nat), e = .returned (.tuple #[.string V, .int .i64 ((clip s a + N : Nat) : Int)]) ∧ V.data.toList = (refL lgL attr (tlS s a)).1 ∧ N = (refL lgL attr (tlS s a)).2 ∧ clip s a + N ≤ s.size ∧ Below w.heap.size w w' := by
  have hC := fun W => qClip s a W
  have hk := clip_le s a
  unfold tlS
  generalize clip s a = k at hC hk ⊢
  obtain ⟨T, hT⟩ : ∃ T, T = s.extract k s.size := ⟨_, rfl⟩
  have hTl : T.data.toList = s.data.toList.drop k := by rw [hT, ext_drop]
  have hTs : T.size = s.size - k := by rw [hT, ByteArray.size_extract]; omega
  rw [← hTl]
  suffices h : Calls Tryz.prog 17 #[.string s, .int .i64 a, .bool attr] w (QRefP T k attr w) by
    refine h.mono ?_
    rintro e w' ⟨V, N, h1, h2, h3, h4, h5⟩
    exact ⟨V, N, h1, h2, h3, by omega, h5⟩
  by_cases h0 : T.size = 0
  · exact refNone s k attr hk hs w T hT (.inl h0) a hC
  have hp : 0 < T.size := by omega
  cases hal : alnB ((T[0]'hp).toNat : Int) with
  | true => exact qRefWords s k attr hk hs w T hT hp hal a hC
  | false =>
    by_cases h35 : T[0]'hp = 35
    · have hc : T.data.toList.drop 1 = (if h : 1 < T.size then (T[1]'h) :: T.data.toList.drop 2 else []) := by
        by_cases h : 1 < T.size
        · rw [dif_pos h]; exact drop_byte T 1 h
        · rw [dif_neg h]; exact drop_end T 1 (by omega)
      have ht1 : T.data.toList.take 1 = [35] := by
        have := drop_byte T 0 hp
        rw [List.drop_zero] at this
        rw [this, h35]; rfl
      by_cases h1 : 1 < T.size
      · rw [dif_pos h1] at hc
        have ht2 : T.data.toList.take 2 = ([35, T[1]'h1] : List UInt8) := by
          have := drop_byte T 0 hp
          rw [List.drop_zero] at this
          rw [this, h35, hc]; rfl
        cases x1 : ((((T[1]'h1).toNat : Int)) == 120) with
        | true =>
          refine qRefHexA s k attr hk hs w T hT hp h35 h1 x1 a hC (qnum_of T attr 2 (by decide) _ ?_ hp h35)
          rw [hc, num_hex _ (hexMark_yes (.inl x1)), ht2]
        | false =>
          cases x2 : ((((T[1]'h1).toNat : Int)) == 88) with
          | true =>
            refine qRefHexB s k attr hk hs w T hT hp h35 h1 x1 x2 a hC (qnum_of T attr 2 (by decide) _ ?_ hp h35)
            rw [hc, num_hex _ (hexMark_yes (.inr x2)), ht2]
          | false =>
            refine qRefTenB s k attr hk hs w T hT hp h35 h1 x1 x2 a hC (qnum_of T attr 1 (by decide) _ ?_ hp h35)
            rw [ht1]
            rw [hc, num_ten _ (hexMark_no x1 x2)]
      · rw [dif_neg h1] at hc
        refine qRefTenA s k attr hk hs w T hT hp h35 h1 a hC (qnum_of T attr 1 (by decide) _ ?_ hp h35)
        rw [ht1, hc]
        rfl
    · refine refNone s k attr hk hs w T hT (.inr ⟨hp, hal, ?_⟩) a hC
      rw [bne_iff_ne]
      intro h
      exact h35 (UInt8.toNat_inj.1 (by show (T[0]'hp).toNat = 35; omega))
end Go.Proofs.YtofiaodpjpjedaaGreatDoor

namespace Go.Proofs.YtofiaodpjpjedaaGreatDoor
open Go.Lib

def azU (b : UInt8) : Bool := decide (97 ≤ b) && decide (b ≤ 122)
theorem leU_nat (b : UInt8) : leU b = (decide (65 ≤ b.toNat) && decide (b.toNat ≤ 90) || decide (97 ≤ b.toNat) && decide (b.toNat ≤ 122)) := by
  unfold leU letB
  rw [Bool.eq_iff_iff]
  simp
  omega
theorem azU_nat (b : UInt8) : azU b = (decide (97 ≤ b.toNat) && decide (b.toNat ≤ 122)) := by
  unfold azU
  simp [UInt8.le_iff_toNat_le]
theorem lowB_az (b : UInt8) : azU (lowB b) = leU b := by
  rw [leU_nat, azU_nat]
  unfold lowB
  by_cases h : 65 ≤ b ∧ b ≤ 90
  · rw [if_pos h]
    simp only [UInt8.le_iff_toNat_le] at h
    have h1 : (65 : UInt8).toNat = 65 := rfl
    have h2 : (90 : UInt8).toNat = 90 := rfl
    have h3 : (32 : UInt8).toNat = 32 := rfl
    have e : (b + 32).toNat = b.toNat + 32 := by rw [UInt8.toNat_add, h3]; omega
    rw [e, Bool.eq_iff_iff]
    simp
    omega
  · rw [if_neg h]
    simp only [UInt8.le_iff_toNat_le] at h
    have h1 : (65 : UInt8).toNat = 65 := rfl
    have h2 : (90 : UInt8).toNat = 90 := rfl
    rw [Bool.eq_iff_iff]
    simp
    omega
theorem enU_leU {c : UInt8} (h : enU c = true) : leU c = false := by
  rw [leU_nat]
  simp [enU, spU, spB] at h
  rw [Bool.eq_false_iff]
  simp
  have h62 : (62 : UInt8).toNat = 62 := rfl
  have h47 : (47 : UInt8).toNat = 47 := rfl
  rcases h with (h | h) | h
  · omega
  · subst h; omega
  · subst h; omega

/-- As the document words it. -/
def closesR (last t : List UInt8) : Bool :=
  last.all azU && decide (0 < last.length) && decide (last.length + 2 < t.length) && (t.take 2 == [60, 47]) && (lowL ((t.drop 2).take last.length) == last) && enU (t.getD (last.length + 2) 0)

theorem closes_eq (last t : List UInt8) : closesL last t = closesR last t := by
  rw [Bool.eq_iff_iff]
  unfold closesL closesR
  simp only [Bool.and_eq_true, beq_iff_eq, decide_eq_true_eq, Bool.not_eq_true', List.isEmpty_eq_false_iff]
  constructor
  · rintro ⟨⟨⟨⟨h1, h2⟩, h3⟩, h4⟩, h5⟩
    have hlen : last.length = runN (fun b => !leU b) (t.drop 2) := by
      rw [← h3, List.length_take]
      have := runN_le (fun b => !leU b) (t.drop 2)
      omega
    rw [← hlen] at h3 h4 h5
    cases hd : (t.drop 2).drop last.length with
    | nil => rw [hd] at h5; simp at h5
    | cons c r =>
      rw [hd] at h5
      simp only at h5
      rw [List.drop_drop] at hd
      have hlt : 2 + last.length < t.length := by
        have := congrArg List.length hd
        rw [List.length_drop, List.length_cons] at this
        omega
      have hc : t.getD (last.length + 2) 0 = c := by
        have e : t[2 + last.length]? = some c := by
          have := congrArg List.head? hd
          rw [List.head?_drop] at this
          simpa using this
        rw [Nat.add_comm, List.getD_eq_getElem?_getD, e]; rfl
      refine ⟨⟨⟨⟨⟨?_, List.length_pos_iff.2 h1⟩, by omega⟩, ?_⟩, h4⟩, by rw [hc]; exact h5⟩
      · rw [List.all_eq_true]
        intro x hx
        rw [← h4] at hx
        obtain ⟨y, hy, rfl⟩ := List.mem_map.1 hx
        rw [lowB_az]
        rw [hlen] at hy
        have := runN_take (fun b => !leU b) (t.drop 2) y hy
        simpa using this
      · rcases t with _ | ⟨a, _ | ⟨b, t⟩⟩
        · simp [List.isPrefixOf] at h2
        · simp [List.isPrefixOf] at h2
        · simp [List.isPrefixOf] at h2
          simp [h2.1.symm, h2.2.symm]
  · rintro ⟨⟨⟨⟨⟨h0, h1⟩, h2⟩, h3⟩, h4⟩, h5⟩
    have hlt2 : last.length < (t.drop 2).length := by rw [List.length_drop]; omega
    have hd : (t.drop 2).drop last.length = t.getD (last.length + 2) 0 :: (t.drop 2).drop (last.length + 1) := by
      rw [List.drop_eq_getElem_cons hlt2, List.getElem_drop, List.getD_eq_getElem?_getD, List.getElem?_eq_getElem h2]
      congr 1
      simp [Nat.add_comm]
    have hle : ∀ x ∈ (t.drop 2).take last.length, (fun b => !leU b) x = false := by
      intro x hx
      have : lowB x ∈ last := by rw [← h4]; exact List.mem_map_of_mem hx
      have := List.all_eq_true.1 h0 _ this
      rw [lowB_az] at this
      simpa using this
    have hrun : runN (fun b => !leU b) (t.drop 2) = last.length := by
      conv => lhs; rw [← List.take_append_drop last.length (t.drop 2), hd]
      rw [runN_app _ _ _ hle, runN_yes _ (by rw [enU_leU h5]; rfl), List.length_take]
      omega
    rw [hrun, hd]
    refine ⟨⟨⟨⟨List.length_pos_iff.1 h1, ?_⟩, by rw [List.length_take]; omega⟩, h4⟩, h5⟩
    rcases t with _ | ⟨a, _ | ⟨b, t⟩⟩
    · simp at h3
    · simp at h3
    · simp at h3
      simp [List.isPrefixOf, h3.1, h3.2]
end Go.Proofs.YtofiaodpjpjedaaGreatDoor

namespace Go.Proofs.YtofiaodpjpjedaaGreatDoor
open Go.RowKit Go.Shelf Go.Lib
set_option maxHeartbeats 4000000
set_option maxRecDepth 100000

theorem qEnds (b : UInt8) (w : World) : Calls Tryz.prog 83 #[.int .u8 (b.toNat : Int)] w fun e w' => e = .returned (.bool (enU b)) ∧ w' = w := by
  have HS := Lib.hid (fun W => rSpace (b.toNat : Int) W)
  obtain ⟨y, hy⟩ : ∃ y, y = spB (b.toNat : Int) := ⟨_, rfl⟩
  rw [← hy] at HS
  have he : enU b = (y || ((b.toNat : Int) == 62) || ((b.toNat : Int) == 47)) := by
    unfold enU spU
    rw [← hy]
    congr 1
    · congr 1
      rw [Bool.eq_iff_iff, beq_iff_eq, beq_iff_eq]
      exact ⟨fun h => by rw [h]; rfl, fun h => UInt8.toNat_inj.1 (by show b.toNat = 62; omega)⟩
    · rw [Bool.eq_iff_iff, beq_iff_eq, beq_iff_eq]
      exact ⟨fun h => by rw [h]; rfl, fun h => UInt8.toNat_inj.1 (by show b.toNat = 47; omega)⟩
  rw [he]
  clear hy he
  generalize (b.toNat : Int) = x at HS ⊢
  cases y
  · go_enter Tryz.func83, Tryz.ntmps83
    go_wp2_with fail
    refine (HS.out w).mono ?_
    rintro e w1 ⟨rfl, rfl⟩
    go_wp2_with fail
    all_goals
      go_ret
      exact ⟨ret_bool (by simp_all [Bool.or_comm]), rfl⟩
  · go_enter Tryz.func83, Tryz.ntmps83
    go_wp2_with fail
    refine (HS.out w).mono ?_
    rintro e w1 ⟨rfl, rfl⟩
    go_wp2_with fail
    all_goals
      go_ret
      exact ⟨ret_bool (by simp), rfl⟩

theorem closesR_of {last t : List UInt8} (h1 : last.all azU = true) : closesR last t = (decide (0 < last.length) && decide (last.length + 2 < t.length) && (t.take 2 == [60, 47]) && (lowL ((t.drop 2).take last.length) == last) && enU (t.getD (last.length + 2) 0)) := by
  unfold closesR
  rw [h1, Bool.true_and]
theorem azU_no {x : UInt8} (h : azU x = false) : (x.toNat : Int) < 97 ∨ 122 < (x.toNat : Int) := by
  rw [azU_nat] at h
  rcases Nat.lt_or_ge x.toNat 97 with h1 | h1
  · exact .inl (by omega)
  · refine .inr ?_
    rw [decide_eq_true h1, Bool.true_and, decide_eq_false_iff_not] at h
    omega
theorem azU_yes {x : UInt8} (h : azU x = true) : 97 ≤ (x.toNat : Int) ∧ (x.toNat : Int) ≤ 122 := by
  rw [azU_nat, Bool.and_eq_true, decide_eq_true_eq, decide_eq_true_eq] at h
  omega

theorem qCloses (s : ByteArray) (a : Int) (last : ByteArray) (hs : s.size ≤ 100000) (hl : last.size ≤ 100000) (w : World) :
    Calls Tryz.prog 29 #[.string s, .int .i64 a, .string last] w fun e w' => e = .returned (.bool (closesL last.data.toList (tlS s a))) ∧ Below w.heap.size w w' := by
  have HC := Lib.hid (fun W => qClip s a W)
  have hk := clip_le s a
  rw [closes_eq]
  unfold tlS
  generalize clip s a = k at HC hk ⊢
  obtain ⟨T, hT⟩ : ∃ T, T = s.extract k s.size := ⟨_, rfl⟩
  have hTl : T.data.toList = s.data.toList.drop k := by rw [hT, ext_drop]
  have hTs : T.size = s.size - k := by rw [hT, ByteArray.size_extract]; omega
  rw [← hTl]
  obtain ⟨R, hR⟩ : ∃ R, R = closesR last.data.toList T.data.toList := ⟨_, rfl⟩
  rw [← hR]
  have HR := Lib.hid hR
  have hTe : s.extract k s.size = T := hT.symm
  have hkI : (k : Int) ≤ (s.size : Int) := by omega
  have hz2 : (s.size : Int) ≤ 100000 := by omega
  have hz3 : (last.size : Int) ≤ 100000 := by omega
  have hzT : (T.size : Int) ≤ 100000 := by omega
  clear hR hT hTl hTs hs hl hk
  go_enter Tryz.func29, Tryz.ntmps29
  go_wp2_with fail
  go_loop [7] (fun i => ∃ j : Nat, j ≤ last.size ∧ i = .int .i64 j ∧ (last.data.toList.take j).all azU = true) (fun i => last.size - (intOf i).toNat)
  case atStart => exact ⟨0, Nat.zero_le _, rfl, rfl⟩
  case round =>
    obtain ⟨j, hj, rfl, hall⟩ := hrel
    have HALL := Lib.hid hall
    clear hall
    by_cases hlt : j < last.size
    · have hI : (j : Int) < (last.size : Int) := by omega
      have hget : last.data.toList[j]? = some (last[j]'hlt) := by
        rw [Array.getElem?_toList]
        exact Array.getElem?_eq_getElem (xs := last.data) hlt
      have HG := Lib.hid hget
      clear hget
      cases hz : azU (last[j]'hlt) with
      | true =>
        have hb := azU_yes hz
        have t1 : decide (((last[j]'hlt).toNat : Int) < 97) = false := decide_eq_false (by omega)
        have t2 : decide (122 < ((last[j]'hlt).toNat : Int)) = false := decide_eq_false (by omega)
        have HZ := Lib.hid hz
        clear hz hb
        go_wp2_with fail
        go_round
        case rel =>
          refine ⟨j + 1, by omega, by go_num, ?_⟩
          rw [List.take_add_one, HG.out]
          simp [HALL.out, HZ.out]
        case measure => simp [intOf]; omega
      | false =>
        have hno : R = false := by
          rw [HR.out]
          unfold closesR
          have : last.data.toList.all azU = false := by
            rw [Bool.eq_false_iff]
            intro h
            have hm : last[j]'hlt ∈ last.data.toList := List.mem_of_getElem? HG.out
            rw [List.all_eq_true.1 h _ hm] at hz
            cases hz
          rw [this]
          simp
        have HN := Lib.hid hno
        have ht : decide (((last[j]'hlt).toNat : Int) < 97) = true ∨ (decide (((last[j]'hlt).toNat : Int) < 97) = false ∧ decide (122 < ((last[j]'hlt).toNat : Int)) = true) := by
          rcases azU_no hz with h | h
          · exact .inl (decide_eq_true h)
          · exact .inr ⟨decide_eq_false (by omega), decide_eq_true h⟩
        clear hz hno
        rcases ht with t1 | ⟨t1, t2⟩
        all_goals
          go_wp2_with fail
          go_ret
          exact ⟨ret_bool HN.out.symm, Below.refl _ _⟩
    · have hI2 : ¬ (j : Int) < (last.size : Int) := by omega
      have hall2 : last.data.toList.all azU = true := by
        have h := HALL.out
        rwa [List.take_of_length_le (by rw [size_list]; omega)] at h
      have hre := closesR_of (t := T.data.toList) hall2
      rw [size_list, size_list] at hre
      have HRE := Lib.hid hre
      clear hre hall2 HALL hlt hj
      by_cases hn : last.size = 0
      · have hno : R = false := by rw [HR.out, HRE.out, hn]; simp
        have HN := Lib.hid hno
        have d1 : ¬ 0 < last.size := by omega
        have d1' : ¬ (0 : Int) < (last.size : Int) := by omega
        clear hn hno
        go_wp2_with fail
        refine (HC.out w).mono ?_
        rintro e w1 ⟨rfl, rfl⟩
        go_wp2_with fail
        go_ret
        exact ⟨ret_bool HN.out.symm, Below.refl _ _⟩
      have d1 : 0 < last.size := by omega
      have d1' : (0 : Int) < (last.size : Int) := by omega
      have hd1 : decide (0 < last.size) = true := decide_eq_true (by omega)
      by_cases hB : last.size + 2 < T.size
      · have hd2 : decide (last.size + 2 < T.size) = true := decide_eq_true hB
        have hB2 : (last.size : Int) + 2 < (T.size : Int) := by omega
        obtain ⟨c, hc⟩ : ∃ c, ((T.extract 0 2).toList == [60, 47]) = c := ⟨_, rfl⟩
        have hc' : (T.data.toList.take 2 == [60, 47]) = c := by rw [← hc, ByteArray.toList_eq, take_ext T 2 (by omega)]
        obtain ⟨X, hX⟩ : ∃ X, T.extract 2 (last.size + 2) = X := ⟨_, rfl⟩
        have hXl : X.data.toList = (T.data.toList.drop 2).take last.size := by
          have h := ext_take2 T 2 (last.size + 2) (by omega) (by omega)
          rw [← hX, h]
          rfl
        have hXs : X.size ≤ 200000 := by rw [← size_list, hXl, List.length_take]; omega
        obtain ⟨Y, hY⟩ : ∃ Y, Y = lowS X := ⟨_, rfl⟩
        have hlo := fun W => rLower X hXs W
        rw [← hY] at hlo
        have HLO := Lib.hid hlo
        obtain ⟨d, hd⟩ : ∃ d, (Y.toList == last.toList) = d := ⟨_, rfl⟩
        have hd' : (lowL ((T.data.toList.drop 2).take last.size) == last.data.toList) = d := by
          rw [← hd, ByteArray.toList_eq, ByteArray.toList_eq, hY, lowS_eq, hXl]
          rfl
        have hge : T.data.toList.getD (last.size + 2) 0 = T[last.size + 2]'hB := by
          have hg : T.data.toList[last.size + 2]? = some (T[last.size + 2]'hB) := by
            rw [Array.getElem?_toList]
            exact Array.getElem?_eq_getElem (xs := T.data) hB
          rw [List.getD_eq_getElem?_getD, hg]
          rfl
        have HE := Lib.hid (fun W => qEnds (T[last.size + 2]'hB) W)
        obtain ⟨y, hy⟩ : ∃ y, y = enU (T[last.size + 2]'hB) := ⟨_, rfl⟩
        rw [← hy] at HE
        have hfin : R = (c && d && y) := by
          rw [HR.out, HRE.out, hd1, hd2, hc', hd', hge, ← hy]
          simp
        have HF := Lib.hid hfin
        clear hn hd1 hd2 hc' hXl hXs hY hlo hd' hge hy hfin
        cases c
        · go_wp2_with fail
          refine (HC.out w).mono ?_
          rintro e w1 ⟨rfl, rfl⟩
          go_wp2_with fail
          go_ret
          exact ⟨ret_bool (by rw [HF.out]; rfl), Below.refl _ _⟩
        · cases d
          · go_wp2_with fail
            refine (HC.out w).mono ?_
            rintro e w1 ⟨rfl, rfl⟩
            go_wp2_with fail
            refine (HLO.out w1).mono ?_
            rintro e w2 ⟨rfl, hb2⟩
            go_wp2_with fail
            go_ret
            exact ⟨ret_bool (by rw [HF.out]; rfl), hb2⟩
          · go_wp2_with fail
            refine (HC.out w).mono ?_
            rintro e w1 ⟨rfl, rfl⟩
            go_wp2_with fail
            refine (HLO.out w1).mono ?_
            rintro e w2 ⟨rfl, hb2⟩
            go_wp2_with fail
            refine (HE.out w2).mono ?_
            rintro e w3 ⟨rfl, rfl⟩
            go_wp2_with fail
            go_ret
            exact ⟨ret_bool (by rw [HF.out]; simp), hb2⟩
      · have hno : R = false := by rw [HR.out, HRE.out, decide_eq_false hB]; simp
        have HN := Lib.hid hno
        have d2 : ¬ (last.size : Int) + 2 < (T.size : Int) := by omega
        clear hn hno hd1
        go_wp2_with fail
        refine (HC.out w).mono ?_
        rintro e w1 ⟨rfl, rfl⟩
        go_wp2_with fail
        go_ret
        exact ⟨ret_bool HN.out.symm, Below.refl _ _⟩
end Go.Proofs.YtofiaodpjpjedaaGreatDoor

namespace Go.Proofs.YtofiaodpjpjedaaGreatDoor
open Go.Lib
set_option maxRecDepth 100000

def stopC (c : UInt8) : Bool := !alU c && c != 59 && c != 61 && c != 35
theorem digB_al (c : UInt8) (h : alU c = false) : digB c.toNat = false := by
  rw [Bool.eq_false_iff] at h ⊢
  intro h2
  apply h
  unfold alU
  simp [alnB, letB, digB] at h2 ⊢
  omega
theorem hexB_al (c : UInt8) (h : alU c = false) : hexB c.toNat = false := by
  rw [Bool.eq_false_iff] at h ⊢
  intro h2
  apply h
  unfold alU
  simp [alnB, letB, digB, hexB] at h2 ⊢
  omega
theorem hexMark_al (c : UInt8) (h : alU c = false) : hexMark c = false := by
  rw [Bool.eq_false_iff] at h ⊢
  intro h2
  apply h
  unfold hexMark at h2
  rw [Bool.or_eq_true, beq_iff_eq, beq_iff_eq] at h2
  rcases h2 with rfl | rfl <;> decide
theorem digRun_cut (p : Int → Bool) (B : Int) (c : UInt8) (r : List UInt8) (hp : p c.toNat = false) : ∀ (v : List UInt8) (x : Int) (k : Nat), digRun p B (v ++ c :: r) x k = digRun p B v x k
  | [], x, k => by
    show digRun p B (c :: r) x k = (x, k)
    rw [digRun, hp, if_neg (by simp)]
  | b :: v, x, k => by
    rw [List.cons_append, digRun, digRun]
    split
    · exact digRun_cut p B c r hp v _ _
    · rfl
theorem head_cut (c : UInt8) (r v : List UInt8) (n : Nat) (hn : n ≤ v.length) (hc : c ≠ 59) : ((v ++ c :: r).drop n).head? = some 59 ↔ (v.drop n).head? = some 59 := by
  rw [List.drop_append_of_le_length hn]
  cases hv : v.drop n with
  | nil => simp [hc]
  | cons d u => simp
theorem digitsL_cut (o : List UInt8) (k : Nat) (d : Int × Nat) (c : UInt8) (r v : List UInt8) (hd : d.2 ≤ v.length) (hc : c ≠ 59) : digitsL o k d (v ++ c :: r) = digitsL o k d v := by
  unfold digitsL
  by_cases h : d.2 = 0
  · rw [if_pos h, if_pos h]
  · rw [if_neg h, if_neg h]
    by_cases h2 : (v.drop d.2).head? = some 59
    · rw [if_pos h2, if_pos ((head_cut c r v d.2 hd hc).2 h2)]
    · rw [if_neg h2, if_neg (fun h3 => h2 ((head_cut c r v d.2 hd hc).1 h3))]
theorem numericL_cut (c : UInt8) (r : List UInt8) (hc : stopC c = true) : ∀ v : List UInt8, numericL (v ++ c :: r) = numericL v := by
  unfold stopC at hc
  simp only [Bool.and_eq_true, Bool.not_eq_true', bne_iff_ne] at hc
  obtain ⟨⟨⟨hal, h59⟩, h61⟩, h35⟩ := hc
  intro v
  cases v with
  | nil =>
    show numericL (c :: r) = _
    unfold numericL
    simp only
    have e : digRun digB 10 (c :: r) 0 0 = (0, 0) := by rw [digRun, digB_al c hal, if_neg (by simp)]
    rw [hexMark_al c hal, if_neg (by simp), e]
    rfl
  | cons b v =>
    rw [List.cons_append]
    unfold numericL
    simp only
    have e1 : digRun hexB 16 (v ++ c :: r) 0 0 = digRun hexB 16 v 0 0 := digRun_cut _ _ _ _ (hexB_al c hal) _ _ _
    have e2 : digRun digB 10 (b :: (v ++ c :: r)) 0 0 = digRun digB 10 (b :: v) 0 0 := digRun_cut digB 10 c r (digB_al c hal) (b :: v) 0 0
    have l1 := (digRun_ge hexB 16 v 0 0).2
    have l2 := (digRun_ge digB 10 (b :: v) 0 0).2
    rw [e1, e2, digitsL_cut _ _ _ c r v (by omega) h59]
    have e3 : digitsL [38, 35] 0 (digRun digB 10 (b :: v) 0 0) (b :: (v ++ c :: r)) = digitsL [38, 35] 0 (digRun digB 10 (b :: v) 0 0) (b :: v) := digitsL_cut _ _ _ c r (b :: v) (by omega) h59
    rw [e3]
theorem namedL_cut {lg : List UInt8 → Nat × List UInt8} (L : LgOk lg) (attr : Bool) (c : UInt8) (r u : List UInt8) (hc : stopC c = true) : namedL lg attr (u ++ c :: r) = namedL lg attr u := by
  unfold stopC at hc
  simp only [Bool.and_eq_true, Bool.not_eq_true', bne_iff_ne] at hc
  obtain ⟨⟨⟨hal, h59⟩, h61⟩, h35⟩ := hc
  have hl := L.le u
  unfold namedL
  rw [L.cut u c r hal h59, List.take_append_of_le_length hl, List.drop_append_of_le_length hl]
  have he : endsRef (u.drop (lg u).1 ++ c :: r) = endsRef (u.drop (lg u).1) := by
    cases hv : u.drop (lg u).1 with
    | nil =>
      show (alU c || c == 61) = false
      rw [hal, Bool.false_or, beq_eq_false_iff_ne]
      exact h61
    | cons d v => rfl
  rw [he]
theorem refL_ok {lg : List UInt8 → Nat × List UInt8} (L : LgOk lg) (attr : Bool) : RefOk (refL lg attr) stopC := by
  refine ⟨fun t => (refL_le L attr t).1, fun u c r hc => ?_⟩
  have hc0 := hc
  unfold stopC at hc
  simp only [Bool.and_eq_true, Bool.not_eq_true', bne_iff_ne] at hc
  obtain ⟨⟨⟨hal, h59⟩, h61⟩, h35⟩ := hc
  cases u with
  | nil =>
    show refL lg attr (c :: r) = _
    unfold refL
    simp only
    rw [hal, if_neg (by simp), if_neg h35]
  | cons a u =>
    have hn := namedL_cut L attr c r (a :: u) hc0
    rw [List.cons_append] at hn ⊢
    unfold refL
    simp only
    rw [hn, numericL_cut c r hc0 u]
theorem RefOk.mono {R : RefF} {p q : UInt8 → Bool} (h : RefOk R q) (hpq : ∀ c, p c = true → q c = true) : RefOk R p := ⟨h.le, fun u c r hc => h.cut u c r (hpq c hc)⟩
end Go.Proofs.YtofiaodpjpjedaaGreatDoor

namespace Go.Proofs.YtofiaodpjpjedaaGreatDoor
open Go.RowKit Go.Shelf Go.Lib
set_option maxHeartbeats 4000000
set_option maxRecDepth 100000

theorem qStop (s : ByteArray) (a : Int) (last : ByteArray) (hs : s.size ≤ 100000) (hl : last.size ≤ 100000) (w : World) :
    Calls Tryz.prog 86 #[.string s, .int .i64 a, .string last] w fun e w' => ∃ N, stopL last.data.toList (tlS s a) = (tlS s a).drop N ∧ clip s a + N ≤ s.size ∧ e = .returned (.int .i64 ((clip s a + N : Nat) : Int)) ∧ Below w.heap.size w w' := by
  have HC := Lib.hid (fun W => qClip s a W)
  have hk := clip_le s a
  unfold tlS
  generalize clip s a = k at HC hk ⊢
  have HCL := Lib.hid (fun (j : Nat) (_ : j ≤ s.size) W => qCloses s (j : Int) last hs hl W)
  have HK := Lib.hid hk
  have hz2 : (s.size : Int) ≤ 100000 := by omega
  clear hs hl
  go_enter Tryz.func86, Tryz.ntmps86
  go_wp2_with fail
  refine (HC.out w).mono ?_
  rintro e w1 ⟨rfl, rfl⟩
  go_wp2_with fail
  go_loopw [7] (fun i wr => ∃ j : Nat, k ≤ j ∧ j ≤ s.size ∧ i = .int .i64 j ∧ stopL last.data.toList (s.data.toList.drop k) = stopL last.data.toList (s.data.toList.drop j) ∧ Below w1.heap.size w1 wr) (fun i _ => s.size - (intOf i).toNat)
  case atStart => exact ⟨k, Nat.le_refl _, hk, rfl, rfl, Below.refl _ _⟩
  case round =>
    obtain ⟨j, hkj, hj, rfl, heq, hB⟩ := hrel
    have HEQ := Lib.hid heq
    clear heq
    by_cases hlt : j < s.size
    · have hI : (j : Int) < (s.size : Int) := by omega
      have hcl := fun W => HCL.out j hj W
      rw [tlS_nat s j hj] at hcl
      obtain ⟨q, hq⟩ : ∃ q, q = closesL last.data.toList (s.data.toList.drop j) := ⟨_, rfl⟩
      rw [← hq] at hcl
      have HQ := Lib.hid hq
      have HCJ := Lib.hid hcl
      have HD := Lib.hid (drop_byte s j hlt)
      clear hcl hq
      cases q
      · go_wp2_with fail
        refine (HCJ.out _).mono ?_
        rintro e w2 ⟨rfl, hs2⟩
        have hb2 := below_next hB hs2
        clear hs2
        go_wp2_with fail
        go_roundw
        case rel =>
          refine ⟨j + 1, by omega, by omega, by go_num, ?_, hb2⟩
          have h := HQ.out
          rw [HD.out] at h
          rw [HEQ.out, HD.out, stopL, ← h, if_neg (by simp)]
        case measure => simp [intOf]; omega
      · go_wp2_with fail
        refine (HCJ.out _).mono ?_
        rintro e w2 ⟨rfl, hs2⟩
        have hb2 := below_next hB hs2
        clear hs2
        go_wp2_with fail
        go_ret
        refine ⟨j - k, ?_, by omega, ret_int (by omega), hb2⟩
        have h := HQ.out
        rw [HD.out] at h
        rw [HEQ.out, List.drop_drop, show k + (j - k) = j by omega, HD.out, stopL, ← h, if_pos rfl]
    · have hI2 : ¬ (j : Int) < (s.size : Int) := by omega
      have hj' : j = s.size := by omega
      go_wp2_with fail
      go_ret
      refine ⟨j - k, ?_, by omega, ret_int (by omega), hB⟩
      have e1 : (s.data.toList.drop k).drop (j - k) = [] := List.drop_eq_nil_of_le (by rw [List.length_drop, size_list]; omega)
      refine HEQ.out.trans ?_
      rw [drop_end s j (by omega)]
      first
        | exact e1.symm
        | exact (List.drop_eq_nil_of_le (by rw [size_list]; omega) : s.data.toList.drop (k + (j - k)) = []).symm

theorem qRawtext (s : ByteArray) (a : Int) (last : ByteArray) (hs : s.size ≤ 100000) (hl : last.size ≤ 100000) (w : World) :
    Calls Tryz.prog 31 #[.string s, .int .i64 a, .string last] w fun e w' => ∃ N, stopL last.data.toList (tlS s a) = (tlS s a).drop N ∧ clip s a + N ≤ s.size ∧ e = .returned (.tuple #[.string (bl (nulL ((tlS s a).take N))), .int .i64 ((clip s a + N : Nat) : Int)]) ∧ Below w.heap.size w w' := by
  have HS := Lib.hid (qStop s a last hs hl w)
  have HC := Lib.hid (fun W => qClip s a W)
  have hk := clip_le s a
  unfold tlS at HS ⊢
  generalize clip s a = k at HC HS hk ⊢
  have HK := Lib.hid hk
  have hz2 : (s.size : Int) ≤ 100000 := by omega
  have HSZ := Lib.hid hs
  clear hs hl hk
  go_enter Tryz.func31, Tryz.ntmps31
  go_wp2_with fail
  refine HS.out.mono ?_
  rintro e w1 ⟨N, h1, h2, rfl, hb1⟩
  have HN := Lib.hid (fun W => qNul (s.extract k (k + N)) (by rw [ByteArray.size_extract]; have := HSZ.out; omega) W)
  rw [ext_take s k N h2] at HN
  obtain ⟨V, hV⟩ : ∃ V, V = bl (nulL ((s.data.toList.drop k).take N)) := ⟨_, rfl⟩
  rw [← hV] at HN
  have HV := Lib.hid hV
  have H1 := Lib.hid h1
  have H2 := Lib.hid h2
  have g1 : (k : Int) + N ≤ (s.size : Int) := by omega
  clear hV h1 h2
  go_wp2_with fail
  refine (HC.out w1).mono ?_
  rintro e w2 ⟨rfl, rfl⟩
  go_wp2_with fail
  refine (HN.out w2).mono ?_
  rintro e w3 ⟨rfl, rfl⟩
  go_wp2_with fail
  go_ret2
  exact ⟨N, H1.out, H2.out, by rw [HV.out]; exact ret2_v rfl (by omega), hb1⟩

/-- What is left up to the end tag, one reference further. -/
theorem cut_ref (t : List UInt8) (M : Nat) (h : t.drop M = [] ∨ ∃ r, t.drop M = 60 :: r) : refL lgL false t = refL lgL false (t.take M) ∧ (refL lgL false t).2 ≤ M := by
  have hR := refL_ok lgOk false
  have e : refL lgL false t = refL lgL false (t.take M) := by
    rcases h with h | ⟨r, h⟩
    · have : t.take M = t := by
        have := List.take_append_drop M t
        rwa [h, List.append_nil] at this
      rw [this]
    · conv => lhs; rw [← List.take_append_drop M t, h]
      exact hR.cut _ _ _ (by decide)
  refine ⟨e, ?_⟩
  rw [e]
  have := hR.le (t.take M)
  rw [List.length_take] at this
  omega
theorem stop_end {last t : List UInt8} {N : Nat} (h : stopL last t = t.drop N) : t.drop N = [] ∨ ∃ r, t.drop N = 60 :: r := by
  rw [← h]
  clear h
  induction t with
  | nil => exact .inl rfl
  | cons b t ih =>
    rw [stopL]
    by_cases hc : closesL last (b :: t) = true
    · rw [if_pos hc]
      rw [closesL_lt hc]
      exact .inr ⟨t, rfl⟩
    · rw [if_neg hc]
      exact ih

theorem qRcdata (s : ByteArray) (a : Int) (last : ByteArray) (hs : s.size ≤ 100000) (hl : last.size ≤ 100000) (w : World) :
    Calls Tryz.prog 33 #[.string s, .int .i64 a, .string last] w fun e w' => ∃ N, stopL last.data.toList (tlS s a) = (tlS s a).drop N ∧ clip s a + N ≤ s.size ∧ e = .returned (.tuple #[.string (bl (res (refL lgL false) ((tlS s a).take N))), .int .i64 ((clip s a + N : Nat) : Int)]) ∧ Below w.heap.size w w' := by
  have HS := Lib.hid (qStop s a last hs hl w)
  have HC := Lib.hid (fun W => qClip s a W)
  have hk := clip_le s a
  unfold tlS at HS ⊢
  generalize clip s a = k at HC HS hk ⊢
  have HK := Lib.hid hk
  have hz2 : (s.size : Int) ≤ 100000 := by omega
  have HSZ := Lib.hid hs
  have HRF := Lib.hid (fun (j : Nat) (_ : j ≤ s.size) W => qReference s (j : Int) false (by omega) W)
  clear hs hl hk
  go_enter Tryz.func33, Tryz.ntmps33
  go_wp2_with fail
  refine HS.out.mono ?_
  rintro e w1 ⟨N, h1, h2, rfl, hb1⟩
  obtain ⟨Z, hZ⟩ : ∃ Z, Z = k + N := ⟨_, rfl⟩
  rw [← hZ] at h2 ⊢
  have hend : s.data.toList.drop Z = [] ∨ ∃ r, s.data.toList.drop Z = 60 :: r := by
    have h := stop_end h1
    rw [List.drop_drop, ← hZ] at h
    exact h
  obtain ⟨tot, htot⟩ : ∃ tot, tot = res (refL lgL false) ((s.data.toList.drop k).take N) := ⟨_, rfl⟩
  have htl : tot.length ≤ 40400000 := by
    have h := refL_res lgOk false ((s.data.toList.drop k).take N)
    rw [← htot, List.length_take, List.length_drop, size_list] at h
    have := HSZ.out
    omega
  have H1 := Lib.hid h1
  have H2 := Lib.hid h2
  have HEND := Lib.hid hend
  have HTOT := Lib.hid htot
  have HTL := Lib.hid htl
  have HZ := Lib.hid hZ
  have gZ : (Z : Int) ≤ (s.size : Int) := by omega
  clear h1 hend htot htl hZ
  go_wp2_with fail
  refine (HC.out w1).mono ?_
  rintro e w2 ⟨rfl, rfl⟩
  go_wp2_with fail
  go_loopw [9, 10] (fun o i wr => ∃ (j : Nat) (O : ByteArray), k ≤ j ∧ j ≤ Z ∧ i = .int .i64 j ∧ o = .string O ∧ O.data.toList ++ res (refL lgL false) ((s.data.toList.drop j).take (Z - j)) = tot ∧ Below w.heap.size w wr) (fun _ i _ => Z - (intOf i).toNat)
  case atStart => exact ⟨k, ⟨#[]⟩, Nat.le_refl _, by have := HZ.out; omega, rfl, rfl, by rw [HTOT.out, show Z - k = N by have := HZ.out; omega]; rfl, hb1⟩
  case round =>
    obtain ⟨j, O, hkj, hj, rfl, rfl, heq, hB⟩ := hrel
    have hO : O.size ≤ 40400000 := by
      have h := congrArg List.length heq
      rw [List.length_append, size_list] at h
      have := HTL.out
      omega
    have HEQ := Lib.hid heq
    clear heq
    by_cases hlt : j < Z
    · have hjs : j < s.size := by have := H2.out; omega
      have hI : (j : Int) < (Z : Int) := by omega
      have hJ : (j : Int) < (s.size : Int) := by omega
      have hcons : (s.data.toList.drop j).take (Z - j) = (s[j]'hjs) :: (s.data.toList.drop (j + 1)).take (Z - (j + 1)) := by
        rw [drop_byte s j hjs, show Z - j = (Z - (j + 1)) + 1 by omega, List.take_succ_cons]
      have HCONS := Lib.hid hcons
      by_cases h38 : s[j]'hjs = 38
      · have t38 : (((s[j]'hjs).toNat : Int) == 38) = true := by rw [h38]; rfl
        have hr := fun W => HRF.out (j + 1) (by omega) W
        rw [show clip s ((j + 1 : Nat) : Int) = j + 1 from clip_nat s (j + 1) (by omega), tlS_nat s (j + 1) (by omega)] at hr
        have hcr := cut_ref (s.data.toList.drop (j + 1)) (Z - (j + 1)) (by rw [List.drop_drop, show j + 1 + (Z - (j + 1)) = Z by omega]; exact HEND.out)
        have hst : res (refL lgL false) ((s.data.toList.drop j).take (Z - j)) = (refL lgL false (s.data.toList.drop (j + 1))).1 ++ res (refL lgL false) ((s.data.toList.drop (j + 1 + (refL lgL false (s.data.toList.drop (j + 1))).2)).take (Z - (j + 1 + (refL lgL false (s.data.toList.drop (j + 1))).2))) := by
          rw [HCONS.out, h38, res_amp, ← hcr.1, List.drop_take, List.drop_drop]
          congr 3
          omega
        have hrl := (refL_le lgOk false (s.data.toList.drop (j + 1))).2
        obtain ⟨R, hR⟩ : ∃ R, R = refL lgL false (s.data.toList.drop (j + 1)) := ⟨_, rfl⟩
        rw [← hR] at hr hcr hst hrl
        have HR := Lib.hid hr
        have HST := Lib.hid hst
        have HCR := Lib.hid hcr.2
        have HRL := Lib.hid hrl
        have hjI : ((j + 1 : Nat) : Int) = (j : Int) + 1 := by omega
        rw [hjI] at HR
        clear hr hcr hst hcons hR hrl h38 hjI
        go_wp2_with fail
        refine (HR.out _).mono ?_
        rintro e w3 ⟨V, M, rfl, hV, hM, hMs, hs3⟩
        have hb3 := below_next hB hs3
        have hVs : V.size ≤ 1000000 := by
          rw [← size_list, hV]
          have := HRL.out
          have := HCR.out
          have := H2.out
          have := HSZ.out
          omega
        have HV := Lib.hid hV
        have HM := Lib.hid hM
        clear hV hM hs3
        go_wp2_with fail
        go_roundw
        case rel =>
          have hm := HM.out
          have hc := HCR.out
          refine ⟨j + 1 + M, O ++ V, by omega, by omega, by go_num, rfl, ?_, hb3⟩
          rw [ByteArray.data_append, Array.toList_append, HV.out, List.append_assoc, hm, ← HST.out]
          exact HEQ.out
        case measure =>
          have hm := HM.out
          have hc := HCR.out
          simp [intOf]
          omega
      · have t38 : (((s[j]'hjs).toNat : Int) == 38) = false := by
          rw [beq_eq_false_iff_ne]
          intro h
          exact h38 (UInt8.toNat_inj.1 (by show (s[j]'hjs).toNat = 38; omega))
        have hx : (s.extract j (j + 1)).data.toList = [s[j]'hjs] := by
          have h1 := ext_take s j 1 (by omega)
          rw [h1, drop_byte s j hjs]
          rfl
        have hn := fun W => qNul (s.extract j (j + 1)) (by rw [ByteArray.size_extract]; omega) W
        rw [hx] at hn
        obtain ⟨V, hV⟩ : ∃ V, V = bl (nulL [s[j]'hjs]) := ⟨_, rfl⟩
        have hVl : V.data.toList = nul1 (s[j]'hjs) := by rw [hV, bl_list, nulL_cons, nulL_nil, List.append_nil]
        have hVs : V.size ≤ 3 := by rw [← size_list, hVl]; exact nul1_len _
        rw [← hV] at hn
        have HN := Lib.hid hn
        have HVL := Lib.hid hVl
        have hst : res (refL lgL false) ((s.data.toList.drop j).take (Z - j)) = nul1 (s[j]'hjs) ++ res (refL lgL false) ((s.data.toList.drop (j + 1)).take (Z - (j + 1))) := by
          rw [HCONS.out, res_b _ _ _ h38]
        have HST := Lib.hid hst
        clear hx hn hV hVl hst hcons h38
        go_wp2_with fail
        refine (HN.out _).mono ?_
        rintro e w3 ⟨rfl, rfl⟩
        go_wp2_with fail
        go_roundw
        case rel =>
          refine ⟨j + 1, O ++ V, by omega, by omega, by go_num, rfl, ?_, hB⟩
          rw [ByteArray.data_append, Array.toList_append, HVL.out, List.append_assoc, ← HST.out]
          exact HEQ.out
        case measure => simp [intOf]; omega
    · have hI2 : ¬ (j : Int) < (Z : Int) := by omega
      have hfin : O = bl tot := by
        have h := HEQ.out
        rw [show Z - j = 0 by omega, List.take_zero, res_nil, List.append_nil] at h
        exact bl_eq h
      have HF := Lib.hid hfin
      clear hfin
      go_wp2_with fail
      go_ret2
      refine ⟨N, ?_, by have := H2.out; have := HZ.out; omega, ?_, hB⟩
      · first
          | exact H1.out
          | (have h := H1.out; rw [List.drop_drop] at h; exact h)
      · rw [HF.out, HTOT.out]
        exact ret2_v rfl (by have := HZ.out; omega)
end Go.Proofs.YtofiaodpjpjedaaGreatDoor

namespace Go.Proofs.YtofiaodpjpjedaaGreatDoor
open Go.RowKit Go.Shelf Go.Lib
set_option maxHeartbeats 4000000
set_option maxRecDepth 100000

theorem runN_step {q : UInt8 → Bool} {s : ByteArray} {j : Nat} (h : j < s.size) (hq : q (s[j]'h) = false) : runN q (s.data.toList.drop j) = 1 + runN q (s.data.toList.drop (j + 1)) := by
  rw [drop_byte s j h, runN_no _ hq, Nat.add_comm]
theorem runN_stop {q : UInt8 → Bool} {s : ByteArray} {j : Nat} (h : j < s.size) (hq : q (s[j]'h) = true) : runN q (s.data.toList.drop j) = 0 := by
  rw [drop_byte s j h, runN_yes _ hq]
theorem runN_at_end (q : UInt8 → Bool) (s : ByteArray) (j : Nat) (h : s.size ≤ j) : runN q (s.data.toList.drop j) = 0 := by rw [drop_end s j h, runN_nil]
theorem runN_in (q : UInt8 → Bool) (s : ByteArray) (j : Nat) : runN q (s.data.toList.drop j) ≤ s.size - j := by
  have h := runN_le q (s.data.toList.drop j)
  rwa [List.length_drop, size_list] at h

theorem qSpaces (s : ByteArray) (k : Nat) (hk : k ≤ s.size) (hs : s.size ≤ 1000000) (w : World) :
    Calls Tryz.prog 78 #[.string s, .int .i64 k] w fun e w' => e = .returned (.int .i64 ((k + runN (fun b => !spU b) (s.data.toList.drop k) : Nat) : Int)) ∧ w' = w := by
  have HS := Lib.hid (fun (b : UInt8) W => rSpace (b.toNat : Int) W)
  have hz2 : (s.size : Int) ≤ 1000000 := by omega
  obtain ⟨tot, htot⟩ : ∃ n, n = k + runN (fun b => !spU b) (s.data.toList.drop k) := ⟨_, rfl⟩
  rw [← htot]
  have HT := Lib.hid htot
  clear hs htot
  go_enter Tryz.func78, Tryz.ntmps78
  go_wp2_with fail
  go_loop [1] (fun i => ∃ j : Nat, k ≤ j ∧ j ≤ s.size ∧ i = .int .i64 j ∧ tot = j + runN (fun b => !spU b) (s.data.toList.drop j)) (fun i => s.size - (intOf i).toNat)
  case atStart => exact ⟨k, Nat.le_refl _, hk, rfl, HT.out⟩
  case round =>
    obtain ⟨j, hkj, hj, rfl, heq⟩ := hrel
    have HEQ := Lib.hid heq
    clear heq
    by_cases hlt : j < s.size
    · have hI : (j : Int) < (s.size : Int) := by omega
      have HSJ := Lib.hid (fun W => HS.out (s[j]'hlt) W)
      obtain ⟨y, hy⟩ : ∃ y, y = spU (s[j]'hlt) := ⟨_, rfl⟩
      have hy2 : spB ((s[j]'hlt).toNat : Int) = y := hy.symm
      rw [hy2] at HSJ
      have HY := Lib.hid hy
      clear hy hy2
      cases y
      · have hst := runN_stop (q := fun b => !spU b) hlt (by rw [← HY.out]; rfl)
        have HST := Lib.hid hst
        clear hst
        go_wp2_with fail
        refine (HSJ.out _).mono ?_
        rintro e w2 ⟨rfl, rfl⟩
        go_wp2_with fail
        go_ret
        exact ⟨ret_int (by have := HEQ.out; rw [HST.out] at this; omega), rfl⟩
      · have hst := runN_step (q := fun b => !spU b) hlt (by rw [← HY.out]; rfl)
        have HST := Lib.hid hst
        clear hst
        go_wp2_with fail
        refine (HSJ.out _).mono ?_
        rintro e w2 ⟨rfl, rfl⟩
        go_wp2_with fail
        go_round
        case rel => exact ⟨j + 1, by omega, by omega, by go_num, by have := HEQ.out; rw [HST.out] at this; omega⟩
        case measure => simp [intOf]; omega
    · have hI2 : ¬ (j : Int) < (s.size : Int) := by omega
      have HST := Lib.hid (runN_at_end (fun b => !spU b) s j (by omega))
      go_wp2_with fail
      go_ret
      exact ⟨ret_int (by have := HEQ.out; rw [HST.out] at this; omega), rfl⟩

theorem qLetters (s : ByteArray) (k : Nat) (hk : k ≤ s.size) (hs : s.size ≤ 1000000) (w : World) :
    Calls Tryz.prog 93 #[.string s, .int .i64 k] w fun e w' => e = .returned (.int .i64 ((k + wordN (s.data.toList.drop k) : Nat) : Int)) ∧ w' = w := by
  have HS := Lib.hid (fun (b : UInt8) W => rLetter (b.toNat : Int) W)
  have hz2 : (s.size : Int) ≤ 1000000 := by omega
  obtain ⟨tot, htot⟩ : ∃ n, n = k + wordN (s.data.toList.drop k) := ⟨_, rfl⟩
  rw [← htot]
  have HT := Lib.hid htot
  clear hs htot
  go_enter Tryz.func93, Tryz.ntmps93
  go_wp2_with fail
  go_loop [1] (fun i => ∃ j : Nat, k ≤ j ∧ j ≤ s.size ∧ i = .int .i64 j ∧ tot = j + runN (fun b => !leU b) (s.data.toList.drop j)) (fun i => s.size - (intOf i).toNat)
  case atStart => exact ⟨k, Nat.le_refl _, hk, rfl, HT.out⟩
  case round =>
    obtain ⟨j, hkj, hj, rfl, heq⟩ := hrel
    have HEQ := Lib.hid heq
    clear heq
    by_cases hlt : j < s.size
    · have hI : (j : Int) < (s.size : Int) := by omega
      have HSJ := Lib.hid (fun W => HS.out (s[j]'hlt) W)
      obtain ⟨y, hy⟩ : ∃ y, y = leU (s[j]'hlt) := ⟨_, rfl⟩
      have hy2 : letB ((s[j]'hlt).toNat : Int) = y := hy.symm
      rw [hy2] at HSJ
      have HY := Lib.hid hy
      clear hy hy2
      cases y
      · have hst := runN_stop (q := fun b => !leU b) hlt (by rw [← HY.out]; rfl)
        have HST := Lib.hid hst
        clear hst
        go_wp2_with fail
        refine (HSJ.out _).mono ?_
        rintro e w2 ⟨rfl, rfl⟩
        go_wp2_with fail
        go_ret
        exact ⟨ret_int (by have := HEQ.out; rw [HST.out] at this; omega), rfl⟩
      · have hst := runN_step (q := fun b => !leU b) hlt (by rw [← HY.out]; rfl)
        have HST := Lib.hid hst
        clear hst
        go_wp2_with fail
        refine (HSJ.out _).mono ?_
        rintro e w2 ⟨rfl, rfl⟩
        go_wp2_with fail
        go_round
        case rel => exact ⟨j + 1, by omega, by omega, by go_num, by have := HEQ.out; rw [HST.out] at this; omega⟩
        case measure => simp [intOf]; omega
    · have hI2 : ¬ (j : Int) < (s.size : Int) := by omega
      have HST := Lib.hid (runN_at_end (fun b => !leU b) s j (by omega))
      go_wp2_with fail
      go_ret
      exact ⟨ret_int (by have := HEQ.out; rw [HST.out] at this; omega), rfl⟩

theorem low_nul1 (b : UInt8) : lowL (nul1 b) = nul1 (lowB b) := by
  by_cases h : b = 0
  · subst h; decide
  · have h2 : lowB b ≠ 0 := by
      unfold lowB
      split
      · rename_i hc
        intro e
        have h1 := hc.1
        have h3 := hc.2
        simp only [UInt8.le_iff_toNat_le] at h1 h3
        have e2 := congrArg UInt8.toNat e
        have e3 : (b + 32).toNat = b.toNat + 32 := by
          rw [UInt8.toNat_add, show (32 : UInt8).toNat = 32 from rfl]
          have : (90 : UInt8).toNat = 90 := rfl
          omega
        rw [e3] at e2
        have : (0 : UInt8).toNat = 0 := rfl
        omega
      · exact h
    rw [nul1_b h, nul1_b h2]
    rfl
theorem low_nul : ∀ l : List UInt8, lowL (nulL l) = nulL (lowL l)
  | [] => rfl
  | b :: t => by
    rw [nulL_cons]
    show lowL (nul1 b ++ nulL t) = nulL (lowB b :: lowL t)
    rw [nulL_cons, ← low_nul1 b, ← low_nul t]
    unfold lowL
    rw [List.map_append]

theorem qName (s : ByteArray) (a : Int) (hs : s.size ≤ 100000) (w : World) :
    Calls Tryz.prog 27 #[.string s, .int .i64 a] w fun e w' => e = .returned (.tuple #[.string (bl (lowL (nulL ((tlS s a).take (runN enU (tlS s a)))))), .int .i64 ((clip s a + runN enU (tlS s a) : Nat) : Int)]) ∧ Below w.heap.size w w' := by
  have HC := Lib.hid (fun W => qClip s a W)
  have hk := clip_le s a
  unfold tlS
  generalize clip s a = k at HC hk ⊢
  have HE := Lib.hid (fun (b : UInt8) W => qEnds b W)
  have hz2 : (s.size : Int) ≤ 100000 := by omega
  have hrun := runN_in enU s k
  obtain ⟨n, hn⟩ : ∃ n, n = runN enU (s.data.toList.drop k) := ⟨_, rfl⟩
  rw [← hn] at hrun ⊢
  obtain ⟨X, hX⟩ : ∃ X, X = s.extract k (k + n) := ⟨_, rfl⟩
  have hXl : X.data.toList = (s.data.toList.drop k).take n := by rw [hX, ext_take s k n (by omega)]
  have hXs : X.size ≤ 100000 := by rw [hX, ByteArray.size_extract]; omega
  have HLO := Lib.hid (fun W => rLower X (by omega) W)
  obtain ⟨V, hV⟩ : ∃ V, V = bl (lowL (nulL ((s.data.toList.drop k).take n))) := ⟨_, rfl⟩
  have hnu := fun W => qNul (lowS X) (by rw [lowS_size]; omega) W
  rw [lowS_eq, hXl, show (bl (lowL ((s.data.toList.drop k).take n))).data.toList = lowL ((s.data.toList.drop k).take n) from rfl, ← low_nul, ← hV] at hnu
  rw [lowS_eq, hXl] at HLO
  have HNU := Lib.hid hnu
  rw [← hV]
  have HN := Lib.hid hn
  have HX := Lib.hid hX
  have HK := Lib.hid hk
  have HRN := Lib.hid hrun
  clear hs hn hX hXl hXs hV hnu hrun
  go_enter Tryz.func27, Tryz.ntmps27
  go_wp2_with fail
  refine (HC.out w).mono ?_
  rintro e w1 ⟨rfl, rfl⟩
  go_wp2_with fail
  go_loop [6] (fun i => ∃ j : Nat, k ≤ j ∧ j ≤ s.size ∧ i = .int .i64 j ∧ k + n = j + runN enU (s.data.toList.drop j)) (fun i => s.size - (intOf i).toNat)
  case atStart => exact ⟨k, Nat.le_refl _, hk, rfl, by rw [HN.out]⟩
  case round =>
    obtain ⟨j, hkj, hj, rfl, heq⟩ := hrel
    have HEQ := Lib.hid heq
    clear heq
    have fin : j = k + n → Hid (s.extract k j = X ∧ (k : Int) ≤ j ∧ (j : Int) ≤ s.size) := fun h => Lib.hid (by subst h; exact ⟨HX.out.symm, by omega, by omega⟩)
    have FIN := Lib.hid fin
    clear fin
    by_cases hlt : j < s.size
    · have hI : (j : Int) < (s.size : Int) := by omega
      have HSJ := Lib.hid (fun W => HE.out (s[j]'hlt) W)
      obtain ⟨y, hy⟩ : ∃ y, y = enU (s[j]'hlt) := ⟨_, rfl⟩
      rw [← hy] at HSJ
      have HY := Lib.hid hy
      clear hy
      cases y
      · have hst := runN_step (q := enU) hlt HY.out.symm
        have HST := Lib.hid hst
        clear hst
        go_wp2_with fail
        refine (HSJ.out _).mono ?_
        rintro e w2 ⟨rfl, rfl⟩
        go_wp2_with fail
        go_round
        case rel => exact ⟨j + 1, by omega, by omega, by go_num, by have := HEQ.out; rw [HST.out] at this; omega⟩
        case measure => simp [intOf]; omega
      · have hst := runN_stop (q := enU) hlt HY.out.symm
        have hjn : j = k + n := by have := HEQ.out; rw [hst] at this; omega
        obtain ⟨f1, f2, f3⟩ := (FIN.out hjn).out
        have HJN := Lib.hid hjn
        clear hst hjn
        go_wp2_with fail
        refine (HSJ.out _).mono ?_
        rintro e w2 ⟨rfl, rfl⟩
        go_wp2_with fail
        refine (HLO.out _).mono ?_
        rintro e w3 ⟨rfl, hb3⟩
        go_wp2_with fail
        refine (HNU.out _).mono ?_
        rintro e w4 ⟨rfl, rfl⟩
        go_wp2_with fail
        go_ret2
        exact ⟨ret2_v rfl (by have := HJN.out; omega), hb3⟩
    · have hI2 : ¬ (j : Int) < (s.size : Int) := by omega
      have hst := runN_at_end enU s j (by omega)
      have hjn : j = k + n := by have := HEQ.out; rw [hst] at this; omega
      obtain ⟨f1, f2, f3⟩ := (FIN.out hjn).out
      have HJN := Lib.hid hjn
      clear hst hjn
      go_wp2_with fail
      refine (HLO.out _).mono ?_
      rintro e w3 ⟨rfl, hb3⟩
      go_wp2_with fail
      refine (HNU.out _).mono ?_
      rintro e w4 ⟨rfl, rfl⟩
      go_wp2_with fail
      go_ret2
      exact ⟨ret2_v rfl (by have := HJN.out; omega), hb3⟩
end Go.Proofs.YtofiaodpjpjedaaGreatDoor

namespace Go.Proofs.YtofiaodpjpjedaaGreatDoor
open Go.RowKit Go.Shelf Go.Lib
set_option maxHeartbeats 4000000
set_option maxRecDepth 100000

/-- What holds between the rounds: the state is that of the states of the program. -/
def QsI (s : ByteArray) (last : List UInt8) (k : Nat) (i : Nat) (md d : Nat) : Prop := k ≤ i ∧ i ≤ s.size ∧ md ≤ 2 ∧ scL last 0 0 (s.data.toList.drop k) = scL last md (min d 2) (s.data.toList.drop i)
theorem qs_step {s : ByteArray} {last : List UInt8} {k i md d : Nat} (h : QsI s last k i md d) (i' md' d' : Nat) (hi : i ≤ i') (hs : i' ≤ s.size) (hm : md' ≤ 2) (he : scL last md (min d 2) (s.data.toList.drop i) = scL last md' (min d' 2) (s.data.toList.drop i')) : QsI s last k i' md' d' :=
  ⟨Nat.le_trans h.1 hi, hs, hm, h.2.2.2.trans he⟩

theorem scL_d0 (last : List UInt8) (d : Nat) (t : List UInt8) : scL last 0 d t = scL last 0 0 t := by
  cases t with
  | nil => rfl
  | cons b t =>
    rw [scL_cons, scL_cons last 0 0, if_pos rfl, if_pos rfl]
theorem scL_no1 (last : List UInt8) (d : Nat) (b : UInt8) (t : List UInt8) (h : closesL last (b :: t) = false) (hb : b ≠ 45) (hg : ¬ (b = 62 ∧ d = 2)) (hw : ¬ (b = 60 ∧ 0 < wordN t)) : scL last 1 d (b :: t) = scL last 1 0 t := by
  rw [scL_cons, if_neg (by simp [h]), if_neg (by decide), if_neg hb, if_neg hg, if_neg (by simpa using hw)]
theorem scL_no2 (last : List UInt8) (d : Nat) (b : UInt8) (t : List UInt8) (hb : b ≠ 45) (hg : ¬ (b = 62 ∧ d = 2)) (hw : ¬ (b = 60 ∧ t.head? = some 47)) : scL last 2 d (b :: t) = scL last 2 0 t := by
  rw [scL_cons, if_neg (by simp), if_neg (by decide), if_neg hb, if_neg hg, if_neg (by simpa using hw)]

theorem qScript (s : ByteArray) (a : Int) (last : ByteArray) (hs : s.size ≤ 100000) (hl : last.size ≤ 100000) (w : World) :
    Calls Tryz.prog 37 #[.string s, .int .i64 a, .string last] w fun e w' => ∃ N, scL last.data.toList 0 0 (tlS s a) = (tlS s a).drop N ∧ clip s a + N ≤ s.size ∧ e = .returned (.tuple #[.string (bl (nulL ((tlS s a).take N))), .int .i64 ((clip s a + N : Nat) : Int)]) ∧ Below w.heap.size w w' := by
  have HC := Lib.hid (fun W => qClip s a W)
  have hk := clip_le s a
  unfold tlS
  generalize clip s a = k at HC hk ⊢
  have HCL := Lib.hid (fun (j : Nat) (_ : j ≤ s.size) W => qCloses s (j : Int) last hs hl W)
  have HLT := Lib.hid (fun (j : Nat) (h : j ≤ s.size) W => qLetters s j h (by omega) W)
  have HBG := Lib.hid (fun (j : Nat) (p : ByteArray) W => rBegins1 (s.extract j s.size) p W)
  have HEN := Lib.hid (fun (b : UInt8) W => qEnds b W)
  have HLW := Lib.hid (fun (j n : Nat) (h : j ≤ n) (hn : n ≤ s.size) W => rLower (s.extract j n) (by rw [ByteArray.size_extract]; omega) W)
  have HNU := Lib.hid (fun (j : Nat) (_ : k ≤ j) (_ : j ≤ s.size) W => qNul (s.extract k j) (by rw [ByteArray.size_extract]; omega) W)
  have HSZ := Lib.hid hs
  have hz2 : (s.size : Int) ≤ 100000 := by omega
  have HK := Lib.hid hk
  clear hs hl
  go_enter Tryz.func37, Tryz.ntmps37
  go_wp2_with fail
  refine (HC.out w).mono ?_
  rintro e w1 ⟨rfl, rfl⟩
  go_wp2_with fail
  go_loopw [8, 9, 10] (fun i md d wr => ∃ (j mo da : Nat), i = .int .i64 j ∧ md = .int .i64 mo ∧ d = .int .i64 da ∧ da ≤ j + 2 ∧ QsI s last.data.toList k j mo da ∧ Below w1.heap.size w1 wr) (fun i _ _ _ => s.size - (intOf i).toNat)
  case atStart => exact ⟨k, 0, 0, rfl, rfl, rfl, by omega, ⟨Nat.le_refl _, hk, by decide, rfl⟩, Below.refl _ _⟩
  case round =>
    obtain ⟨j, mo, da, rfl, rfl, rfl, hda, hQ, hB⟩ := hrel
    have HQ := Lib.hid hQ
    have hj : j ≤ s.size := hQ.2.1
    have hkj : k ≤ j := hQ.1
    have hmo : mo ≤ 2 := hQ.2.2.1
    clear hQ
    have fin : Hid (scL last.data.toList mo (min da 2) (s.data.toList.drop j) = s.data.toList.drop j → ∀ W : World, Below w1.heap.size w1 W → ∃ N, scL last.data.toList 0 0 (s.data.toList.drop k) = (s.data.toList.drop k).drop N ∧ k + N ≤ s.size ∧ (Ending.returned (.tuple #[.string (bl (nulL ((s.data.toList.drop k).take (j - k)))), .int .i64 (j : Int)]) : Ending) = .returned (.tuple #[.string (bl (nulL ((s.data.toList.drop k).take N))), .int .i64 ((k + N : Nat) : Int)]) ∧ Below w1.heap.size w1 W) := Lib.hid (fun h W hW =>
      ⟨j - k, by rw [HQ.out.2.2.2, h, List.drop_drop, show k + (j - k) = j by omega], by omega, ret2_v rfl (by omega), hW⟩)
    have hnu := fun W => HNU.out j hkj hj W
    rw [ext_take2 s k j hkj hj] at hnu
    have hxk : s.extract k j = bl ((s.data.toList.drop k).take (j - k)) := ext_take2 s k j hkj hj
    rw [← hxk, show (s.extract k j).data.toList = (s.data.toList.drop k).take (j - k) by rw [hxk]; rfl] at hnu
    obtain ⟨V, hV⟩ : ∃ V, V = bl (nulL ((s.data.toList.drop k).take (j - k))) := ⟨_, rfl⟩
    rw [← hV] at hnu fin
    have HNJ := Lib.hid hnu
    have hkI : (k : Int) ≤ (j : Int) := by omega
    clear hnu hxk hV
    by_cases hlt : j < s.size
    · have hI : (j : Int) < (s.size : Int) := by omega
      have HD := Lib.hid (drop_byte s j hlt)
      have hcl := fun W => HCL.out j hj W
      rw [tlS_nat s j hj] at hcl
      obtain ⟨q, hq⟩ : ∃ q, q = closesL last.data.toList (s.data.toList.drop j) := ⟨_, rfl⟩
      rw [← hq] at hcl
      have HCJ := Lib.hid hcl
      have HQC := Lib.hid hq
      clear hcl hq
      have hmd : mo = 0 ∨ mo = 1 ∨ mo = 2 := by omega
      rcases hmd with rfl | rfl | rfl
      · cases q
        · have hbg := fun W => HBG.out j ⟨#[60, 33, 45, 45]⟩ W
          rw [ext_drop s j] at hbg
          obtain ⟨p, hp⟩ : ∃ p, p = [60, 33, 45, 45].isPrefixOf (s.data.toList.drop j) := ⟨_, rfl⟩
          rw [show (ByteArray.mk #[60, 33, 45, 45]).data.toList.isPrefixOf (s.data.toList.drop j) = p from hp.symm] at hbg
          have HBJ := Lib.hid hbg
          have HP := Lib.hid hp
          clear hbg hp
          cases p
          · go_wp2_with fail
            refine (HCJ.out _).mono ?_
            rintro e w2 ⟨rfl, hs2⟩
            have hb2 := below_next hB hs2
            clear hs2
            go_wp2_with fail
            refine (HBJ.out _).mono ?_
            rintro e w3 ⟨rfl, rfl⟩
            go_wp2_with fail
            go_roundw
            case rel =>
              refine ⟨j + 1, 0, da, by go_num, rfl, rfl, by omega, qs_step HQ.out (j + 1) 0 da (by omega) (by omega) (by decide) ?_, hb2⟩
              have hc := HQC.out
              have hp := HP.out
              rw [HD.out] at hc hp ⊢
              rw [scL_0 _ _ _ _ hc.symm hp.symm]
              exact (scL_d0 _ _ _).symm
            case measure => simp [intOf]; omega
          · have hj4 : j + 4 ≤ s.size := by
              have h := (List.isPrefixOf_iff_prefix.1 HP.out.symm).length_le
              rw [List.length_drop, size_list] at h
              simp at h
              omega
            go_wp2_with fail
            refine (HCJ.out _).mono ?_
            rintro e w2 ⟨rfl, hs2⟩
            have hb2 := below_next hB hs2
            clear hs2
            go_wp2_with fail
            refine (HBJ.out _).mono ?_
            rintro e w3 ⟨rfl, rfl⟩
            go_wp2_with fail
            go_roundw
            case rel =>
              refine ⟨j + 4, 1, 2, by go_num, rfl, rfl, by omega, qs_step HQ.out (j + 4) 1 2 (by omega) hj4 (by decide) ?_, hb2⟩
              have hp := HP.out
              obtain ⟨t, ht⟩ := List.isPrefixOf_iff_prefix.1 hp.symm
              have h4 : s.data.toList.drop (j + 4) = t := by
                have h := congrArg (List.drop 4) ht
                rw [List.drop_drop] at h
                exact h.symm
              rw [h4, ← ht]
              have hc := HQC.out
              rw [← ht] at hc
              show scL _ 0 _ (60 :: 33 :: 45 :: 45 :: t) = _
              rw [scL_d0, scL_open]
              rfl
            case measure => simp [intOf]; omega
        · go_wp2_with fail
          refine (HCJ.out _).mono ?_
          rintro e w2 ⟨rfl, hs2⟩
          have hb2 := below_next hB hs2
          clear hs2
          go_wp2_with fail
          refine (HNJ.out _).mono ?_
          rintro e w3 ⟨rfl, rfl⟩
          go_wp2_with fail
          go_ret2
          exact fin.out (scL_stop _ _ _ _ (by decide) HQC.out.symm) _ hb2
      · cases q
        · by_cases h45 : s[j]'hlt = 45
          · have t45 : (((s[j]'hlt).toNat : Int) == 45) = true := by rw [h45]; rfl
            have H45 := Lib.hid h45
            clear h45
            go_wp2_with fail
            refine (HCJ.out _).mono ?_
            rintro e w2 ⟨rfl, hs2⟩
            have hb2 := below_next hB hs2
            clear hs2
            go_wp2_with fail
            go_roundw
            case rel =>
              refine ⟨j + 1, 1, da + 1, by go_num, by first | rfl | go_num, by first | rfl | go_num, by omega, qs_step HQ.out (j + 1) 1 (da + 1) (by omega) (by omega) (by decide) ?_, hb2⟩
              rw [HD.out, H45.out, scL_dash _ _ _ _ (by decide), show min (min da 2 + 1) 2 = min (da + 1) 2 by omega]
            case measure => simp [intOf]; omega
          have t45 : (((s[j]'hlt).toNat : Int) == 45) = false := by
            rw [beq_eq_false_iff_ne]
            intro h
            exact h45 (UInt8.toNat_inj.1 (by show (s[j]'hlt).toNat = 45; omega))
          have H45 := Lib.hid h45
          clear h45
          by_cases hgt : s[j]'hlt = 62 ∧ 1 < da
          · have t62 : (((s[j]'hlt).toNat : Int) == 62) = true := by rw [hgt.1]; rfl
            have tda : (1 : Int) < (da : Int) := by have := hgt.2; omega
            have HGT := Lib.hid hgt
            clear hgt
            go_wp2_with fail
            refine (HCJ.out _).mono ?_
            rintro e w2 ⟨rfl, hs2⟩
            have hb2 := below_next hB hs2
            clear hs2
            go_wp2_with fail
            go_roundw
            case rel =>
              refine ⟨j + 1, 0, 0, by go_num, by first | rfl | go_num, by first | rfl | go_num, by omega, qs_step HQ.out (j + 1) 0 (0) (by omega) (by omega) (by decide) ?_, hb2⟩
              have h2 : min da 2 = 2 := by have := HGT.out.2; omega
              rw [HD.out, HGT.out.1, h2, scL_gt _ _ _ (by decide)]
              rfl
            case measure => simp [intOf]; omega
          have tgt : (((s[j]'hlt).toNat : Int) == 62) = false ∨ ((((s[j]'hlt).toNat : Int) == 62) = true ∧ ¬ (1 : Int) < (da : Int)) := by
            by_cases h62 : s[j]'hlt = 62
            · exact .inr ⟨by rw [h62]; rfl, by have h : ¬ 1 < da := fun h => hgt ⟨h62, h⟩
                                               omega⟩
            · refine .inl ?_
              rw [beq_eq_false_iff_ne]
              intro h
              exact h62 (UInt8.toNat_inj.1 (by show (s[j]'hlt).toNat = 62; omega))
          have HGT := Lib.hid (show ¬ (s[j]'hlt = 62 ∧ min da 2 = 2) from fun h => hgt ⟨h.1, by have := h.2; omega⟩)
          clear hgt
          have hb1 := fun W => HBG.out j ⟨#[60]⟩ W
          rw [ext_drop s j] at hb1
          obtain ⟨p, hp⟩ : ∃ p, p = [60].isPrefixOf (s.data.toList.drop j) := ⟨_, rfl⟩
          rw [show (ByteArray.mk #[60]).data.toList.isPrefixOf (s.data.toList.drop j) = p from hp.symm] at hb1
          have HB1 := Lib.hid hb1
          have HP := Lib.hid hp
          clear hb1 hp
          cases p
          · have hnw : scL last.data.toList 1 (min da 2) ((s[j]'hlt) :: s.data.toList.drop (j + 1)) = scL last.data.toList 1 0 (s.data.toList.drop (j + 1)) := by
              have hp := HP.out
              rw [HD.out] at hp
              have hne : s[j]'hlt ≠ 60 := by
                intro h
                rw [h] at hp
                simp [List.isPrefixOf] at hp
              exact scL_no1 _ _ _ _ (closes_ne _ _ hne) H45.out HGT.out (fun h => hne h.1)
            have HNW := Lib.hid hnw
            clear hnw
            rcases tgt with t62 | ⟨t62, tda⟩
            all_goals
              go_wp2_with fail
              refine (HCJ.out _).mono ?_
              rintro e w2 ⟨rfl, hs2⟩
              have hb2 := below_next hB hs2
              clear hs2
              go_wp2_with fail
              refine (HB1.out _).mono ?_
              rintro e w3 ⟨rfl, rfl⟩
              go_wp2_with fail
              go_roundw
              case rel =>
                refine ⟨j + 1, 1, 0, by go_num, rfl, rfl, by omega, qs_step HQ.out (j + 1) 1 0 (by omega) (by omega) (by decide) ?_, hb2⟩
                rw [HD.out]
                exact HNW.out
              case measure => simp [intOf]; omega
          · have hb60 : s[j]'hlt = 60 := by
              have hp := HP.out
              rw [HD.out] at hp
              simp [List.isPrefixOf] at hp
              exact hp.symm
            have H60 := Lib.hid hb60
            have hlt1 := fun W => HLT.out (j + 1) (by omega) W
            have hwl : wordN (s.data.toList.drop (j + 1)) ≤ s.size - (j + 1) := runN_in (fun b => !leU b) s (j + 1)
            obtain ⟨n, hn⟩ : ∃ n, n = wordN (s.data.toList.drop (j + 1)) := ⟨_, rfl⟩
            rw [← hn] at hlt1 hwl
            have HL1 := Lib.hid hlt1
            have HN := Lib.hid hn
            have HWL := Lib.hid hwl
            clear hlt1 hn hb60
            have hjI : ((j + 1 : Nat) : Int) = (j : Int) + 1 := by omega
            rw [hjI] at HL1
            clear hjI
            by_cases hn0 : n = 0
            · have hnw : scL last.data.toList 1 (min da 2) ((s[j]'hlt) :: s.data.toList.drop (j + 1)) = scL last.data.toList 1 0 (s.data.toList.drop (j + 1)) := by
                have hc := HQC.out
                rw [HD.out] at hc
                exact scL_no1 _ _ _ _ hc.symm H45.out HGT.out (fun h => by have := h.2; rw [← HN.out, hn0] at this; exact absurd this (by decide))
              have HNW := Lib.hid hnw
              have tn : ¬ (j : Int) + 1 < (j : Int) + 1 + (n : Int) := by omega
              clear hnw hwl
              rcases tgt with t62 | ⟨t62, tda⟩
              all_goals
                go_wp2_with fail
                refine (HCJ.out _).mono ?_
                rintro e w2 ⟨rfl, hs2⟩
                have hb2 := below_next hB hs2
                clear hs2
                go_wp2_with fail
                refine (HB1.out _).mono ?_
                rintro e w3 ⟨rfl, rfl⟩
                go_wp2_with fail
                refine (HL1.out _).mono ?_
                rintro e w4 ⟨rfl, rfl⟩
                go_wp2_with fail
                go_roundw
                case rel =>
                  refine ⟨j + 1, 1, 0, by go_num, rfl, rfl, by omega, qs_step HQ.out (j + 1) 1 0 (by omega) (by omega) (by decide) ?_, hb2⟩
                  rw [HD.out]
                  exact HNW.out
                case measure => simp [intOf]; omega
            have hsw : scL last.data.toList 1 (min da 2) (s.data.toList.drop j) = scW last.data.toList 1 (s.data.toList.drop (j + 1)) := by
              have hc := HQC.out
              rw [HD.out, H60.out] at hc ⊢
              exact scL_word _ _ _ hc.symm (by rw [← HN.out]; omega)
            have HSW := Lib.hid hsw
            clear hsw
            have tn : (j : Int) + 1 < (j : Int) + 1 + (n : Int) := by omega
            have tn2 : 0 < n := by omega
            clear hn0
            by_cases hkl : j + 1 + n < s.size
            · have hKI : (j : Int) + 1 + (n : Int) < (s.size : Int) := by omega
              have hget := drop_byte s (j + 1 + n) hkl
              have hdr : (s.data.toList.drop (j + 1)).drop (wordN (s.data.toList.drop (j + 1))) = (s[j + 1 + n]'hkl) :: s.data.toList.drop (j + 1 + n + 1) := by rw [← HN.out, List.drop_drop, hget]
              have HEJ := Lib.hid (fun W => HEN.out (s[j + 1 + n]'hkl) W)
              obtain ⟨y, hy⟩ : ∃ y, y = enU (s[j + 1 + n]'hkl) := ⟨_, rfl⟩
              rw [← hy] at HEJ
              have HY := Lib.hid hy
              have HDR := Lib.hid hdr
              have HGE := Lib.hid hget
              clear hy hdr hget hwl
              cases y
              · rcases tgt with t62 | ⟨t62, tda⟩
                all_goals
                  go_wp2_with fail
                  refine (HCJ.out _).mono ?_
                  rintro e w2 ⟨rfl, hs2⟩
                  have hb2 := below_next hB hs2
                  clear hs2
                  go_wp2_with fail
                  refine (HB1.out _).mono ?_
                  rintro e w3 ⟨rfl, rfl⟩
                  go_wp2_with fail
                  refine (HL1.out _).mono ?_
                  rintro e w4 ⟨rfl, rfl⟩
                  go_wp2_with fail
                  refine (HL1.out _).mono ?_
                  rintro e w5 ⟨rfl, rfl⟩
                  go_wp2_with fail
                  refine (HEJ.out _).mono ?_
                  rintro e w6 ⟨rfl, rfl⟩
                  go_wp2_with fail
                  go_roundw
                  case rel =>
                    refine ⟨j + 1 + n, 1, 0, by go_num, rfl, rfl, by omega, qs_step HQ.out (j + 1 + n) 1 0 (by omega) (by omega) (by decide) ?_, hb2⟩
                    rw [HSW.out, scW_no _ _ _ _ _ HDR.out HY.out.symm, HGE.out]
                    rfl
                  case measure => simp [intOf]; omega
              · have hlow := fun W => HLW.out (j + 1) (j + 1 + n) (by omega) (by omega) W
                have hle : lowS (s.extract (j + 1) (j + 1 + n)) = bl (lowL ((s.data.toList.drop (j + 1)).take (wordN (s.data.toList.drop (j + 1))))) := by
                  rw [lowS_eq, ext_take s (j + 1) n (by omega), ← HN.out]
                rw [hle] at hlow
                obtain ⟨X, hX⟩ : ∃ X, X = lowL ((s.data.toList.drop (j + 1)).take (wordN (s.data.toList.drop (j + 1)))) := ⟨_, rfl⟩
                rw [← hX] at hlow
                obtain ⟨z, hz⟩ : ∃ z, ((bl X).toList == [115, 99, 114, 105, 112, 116]) = z := ⟨_, rfl⟩
                have hz2 : (X == sScript) = z := by rw [← hz, ByteArray.toList_eq]; rfl
                have HLJ := Lib.hid hlow
                have HX := Lib.hid hX
                have HZ := Lib.hid hz2
                clear hlow hle hX hz2
                cases z
                · rcases tgt with t62 | ⟨t62, tda⟩
                  all_goals
                    go_wp2_with fail
                    refine (HCJ.out _).mono ?_
                    rintro e w2 ⟨rfl, hs2⟩
                    have hb2 := below_next hB hs2
                    clear hs2
                    go_wp2_with fail
                    refine (HB1.out _).mono ?_
                    rintro e w3 ⟨rfl, rfl⟩
                    go_wp2_with fail
                    refine (HL1.out _).mono ?_
                    rintro e w4 ⟨rfl, rfl⟩
                    go_wp2_with fail
                    refine (HL1.out _).mono ?_
                    rintro e w5 ⟨rfl, rfl⟩
                    go_wp2_with fail
                    refine (HEJ.out _).mono ?_
                    rintro e w6 ⟨rfl, rfl⟩
                    go_wp2_with fail
                    refine (HLJ.out _).mono ?_
                    rintro e w7 ⟨rfl, hs7⟩
                    have hb7 := below_next hb2 hs7
                    clear hs7
                    go_wp2_with fail
                    go_roundw
                    case rel =>
                      refine ⟨j + 1 + n + 1, 1, 0, by go_num, rfl, rfl, by omega, qs_step HQ.out (j + 1 + n + 1) 1 0 (by omega) (by omega) (by decide) ?_, hb7⟩
                      rw [HSW.out, scW_yes _ _ _ _ _ HDR.out HY.out.symm, ← HX.out, if_neg (by have h := HZ.out; rw [beq_eq_false_iff_ne] at h; exact h)]
                      rfl
                    case measure => simp [intOf]; omega
                · rcases tgt with t62 | ⟨t62, tda⟩
                  all_goals
                    go_wp2_with fail
                    refine (HCJ.out _).mono ?_
                    rintro e w2 ⟨rfl, hs2⟩
                    have hb2 := below_next hB hs2
                    clear hs2
                    go_wp2_with fail
                    refine (HB1.out _).mono ?_
                    rintro e w3 ⟨rfl, rfl⟩
                    go_wp2_with fail
                    refine (HL1.out _).mono ?_
                    rintro e w4 ⟨rfl, rfl⟩
                    go_wp2_with fail
                    refine (HL1.out _).mono ?_
                    rintro e w5 ⟨rfl, rfl⟩
                    go_wp2_with fail
                    refine (HEJ.out _).mono ?_
                    rintro e w6 ⟨rfl, rfl⟩
                    go_wp2_with fail
                    refine (HLJ.out _).mono ?_
                    rintro e w7 ⟨rfl, hs7⟩
                    have hb7 := below_next hb2 hs7
                    clear hs7
                    go_wp2_with fail
                    go_roundw
                    case rel =>
                      refine ⟨j + 1 + n + 1, 2, 0, by go_num, by first | rfl | go_num, rfl, by omega, qs_step HQ.out (j + 1 + n + 1) 2 0 (by omega) (by omega) (by decide) ?_, hb7⟩
                      rw [HSW.out, scW_yes _ _ _ _ _ HDR.out HY.out.symm, ← HX.out, if_pos (beq_iff_eq.1 HZ.out)]
                      rfl
                    case measure => simp [intOf]; omega
            · have hKI : ¬ (j : Int) + 1 + (n : Int) < (s.size : Int) := by omega
              have hKe : j + 1 + n = s.size := by omega
              have hdr : (s.data.toList.drop (j + 1)).drop (wordN (s.data.toList.drop (j + 1))) = [] := by rw [← HN.out, List.drop_drop]; exact drop_end s _ (by omega)
              have HDR := Lib.hid hdr
              have HKE := Lib.hid hKe
              clear hdr hKe hwl hkl
              rcases tgt with t62 | ⟨t62, tda⟩
              all_goals
                go_wp2_with fail
                refine (HCJ.out _).mono ?_
                rintro e w2 ⟨rfl, hs2⟩
                have hb2 := below_next hB hs2
                clear hs2
                go_wp2_with fail
                refine (HB1.out _).mono ?_
                rintro e w3 ⟨rfl, rfl⟩
                go_wp2_with fail
                refine (HL1.out _).mono ?_
                rintro e w4 ⟨rfl, rfl⟩
                go_wp2_with fail
                refine (HL1.out _).mono ?_
                rintro e w5 ⟨rfl, rfl⟩
                go_wp2_with fail
                go_roundw
                case rel =>
                  refine ⟨j + 1 + n, 1, 0, by go_num, rfl, rfl, by omega, qs_step HQ.out (j + 1 + n) 1 0 (by omega) (by have := HKE.out; omega) (by decide) ?_, hb2⟩
                  rw [HSW.out, scW_nil _ _ _ HDR.out, drop_end s (j + 1 + n) (by have := HKE.out; omega)]
                  rfl
                case measure =>
                  have := HKE.out
                  simp [intOf]
                  omega
        · go_wp2_with fail
          refine (HCJ.out _).mono ?_
          rintro e w2 ⟨rfl, hs2⟩
          have hb2 := below_next hB hs2
          clear hs2
          go_wp2_with fail
          refine (HNJ.out _).mono ?_
          rintro e w3 ⟨rfl, rfl⟩
          go_wp2_with fail
          go_ret2
          exact fin.out (scL_stop _ _ _ _ (by decide) HQC.out.symm) _ hb2
      · by_cases h45 : s[j]'hlt = 45
        · have t45 : (((s[j]'hlt).toNat : Int) == 45) = true := by rw [h45]; rfl
          have H45 := Lib.hid h45
          clear h45
          have hb2 := hB
          go_wp2_with fail
          go_roundw
          case rel =>
            refine ⟨j + 1, 2, da + 1, by go_num, by first | rfl | go_num, by first | rfl | go_num, by omega, qs_step HQ.out (j + 1) 2 (da + 1) (by omega) (by omega) (by decide) ?_, hb2⟩
            rw [HD.out, H45.out, scL_dash _ _ _ _ (by decide), show min (min da 2 + 1) 2 = min (da + 1) 2 by omega]
          case measure => simp [intOf]; omega
        have t45 : (((s[j]'hlt).toNat : Int) == 45) = false := by
          rw [beq_eq_false_iff_ne]
          intro h
          exact h45 (UInt8.toNat_inj.1 (by show (s[j]'hlt).toNat = 45; omega))
        have H45 := Lib.hid h45
        clear h45
        by_cases hgt : s[j]'hlt = 62 ∧ 1 < da
        · have t62 : (((s[j]'hlt).toNat : Int) == 62) = true := by rw [hgt.1]; rfl
          have tda : (1 : Int) < (da : Int) := by have := hgt.2; omega
          have HGT := Lib.hid hgt
          clear hgt
          have hb2 := hB
          go_wp2_with fail
          go_roundw
          case rel =>
            refine ⟨j + 1, 0, 0, by go_num, by first | rfl | go_num, by first | rfl | go_num, by omega, qs_step HQ.out (j + 1) 0 (0) (by omega) (by omega) (by decide) ?_, hb2⟩
            have h2 : min da 2 = 2 := by have := HGT.out.2; omega
            rw [HD.out, HGT.out.1, h2, scL_gt _ _ _ (by decide)]
            rfl
          case measure => simp [intOf]; omega
        have tgt : (((s[j]'hlt).toNat : Int) == 62) = false ∨ ((((s[j]'hlt).toNat : Int) == 62) = true ∧ ¬ (1 : Int) < (da : Int)) := by
          by_cases h62 : s[j]'hlt = 62
          · exact .inr ⟨by rw [h62]; rfl, by have h : ¬ 1 < da := fun h => hgt ⟨h62, h⟩
                                             omega⟩
          · refine .inl ?_
            rw [beq_eq_false_iff_ne]
            intro h
            exact h62 (UInt8.toNat_inj.1 (by show (s[j]'hlt).toNat = 62; omega))
        have HGT := Lib.hid (show ¬ (s[j]'hlt = 62 ∧ min da 2 = 2) from fun h => hgt ⟨h.1, by have := h.2; omega⟩)
        clear hgt
        have hb1 := fun W => HBG.out j ⟨#[60]⟩ W
        rw [ext_drop s j] at hb1
        obtain ⟨p, hp⟩ : ∃ p, p = [60].isPrefixOf (s.data.toList.drop j) := ⟨_, rfl⟩
        rw [show (ByteArray.mk #[60]).data.toList.isPrefixOf (s.data.toList.drop j) = p from hp.symm] at hb1
        have HB1 := Lib.hid hb1
        have HP := Lib.hid hp
        clear hb1 hp
        have hb3 := fun W => HBG.out j ⟨#[60, 47]⟩ W
        rw [ext_drop s j] at hb3
        obtain ⟨p2, hp2⟩ : ∃ p, p = [60, 47].isPrefixOf (s.data.toList.drop j) := ⟨_, rfl⟩
        rw [show (ByteArray.mk #[60, 47]).data.toList.isPrefixOf (s.data.toList.drop j) = p2 from hp2.symm] at hb3
        have HB3 := Lib.hid hb3
        have HP2 := Lib.hid hp2
        clear hb3 hp2
        cases p2
        · have hnw : scL last.data.toList 2 (min da 2) ((s[j]'hlt) :: s.data.toList.drop (j + 1)) = scL last.data.toList 2 0 (s.data.toList.drop (j + 1)) := by
            have hp := HP2.out
            rw [HD.out] at hp
            refine scL_no2 _ _ _ _ H45.out HGT.out ?_
            rintro ⟨h1, h2⟩
            rw [h1] at hp
            cases hd : s.data.toList.drop (j + 1) with
            | nil => rw [hd] at h2; cases h2
            | cons x u =>
              rw [hd] at hp h2
              obtain rfl : x = 47 := by simpa using h2
              simp [List.isPrefixOf] at hp
          have HNW := Lib.hid hnw
          clear hnw
          rcases tgt with t62 | ⟨t62, tda⟩
          all_goals
            cases p
            all_goals
              have hb2 := hB
              go_wp2_with fail
              refine (HB1.out _).mono ?_
              rintro e w3 ⟨rfl, rfl⟩
              go_wp2_with fail
              refine (HB3.out _).mono ?_
              rintro e w4 ⟨rfl, rfl⟩
              go_wp2_with fail
              go_roundw
              case rel =>
                refine ⟨j + 1, 2, 0, by go_num, rfl, rfl, by omega, qs_step HQ.out (j + 1) 2 0 (by omega) (by omega) (by decide) ?_, hb2⟩
                rw [HD.out]
                exact HNW.out
              case measure => simp [intOf]; omega
        · have hj2 : j + 2 ≤ s.size := by
            have h := (List.isPrefixOf_iff_prefix.1 HP2.out.symm).length_le
            rw [List.length_drop, size_list] at h
            simp at h
            omega
          have hlt1 := fun W => HLT.out (j + 2) (by omega) W
          have hwl : wordN (s.data.toList.drop (j + 2)) ≤ s.size - (j + 2) := runN_in (fun b => !leU b) s (j + 2)
          have hsw0 : s.data.toList.drop j = 60 :: 47 :: s.data.toList.drop (j + 2) := by
            obtain ⟨t, ht⟩ := List.isPrefixOf_iff_prefix.1 HP2.out.symm
            have h := congrArg (List.drop 2) ht
            rw [List.drop_drop] at h
            rw [← ht, ← h]
            rfl
          have hsw : scL last.data.toList 2 (min da 2) (s.data.toList.drop j) = scW last.data.toList 2 (s.data.toList.drop (j + 2)) := by
            rw [hsw0]
            exact scL_word2 _ _ _
          have HSW := Lib.hid hsw
          obtain ⟨n, hn⟩ : ∃ n, n = wordN (s.data.toList.drop (j + 2)) := ⟨_, rfl⟩
          rw [← hn] at hlt1 hwl
          have hjI : ((j + 2 : Nat) : Int) = (j : Int) + 2 := by omega
          rw [hjI] at hlt1
          have HL1 := Lib.hid hlt1
          have HN := Lib.hid hn
          have HWL := Lib.hid hwl
          clear hlt1 hn hsw hsw0 hjI
          cases p
          · exact absurd HP2.out (by
              have h1 := HP.out
              cases hx : s.data.toList.drop j with
              | nil => simp [List.isPrefixOf]
              | cons x u =>
                rw [hx] at h1
                simp [List.isPrefixOf] at h1 ⊢
                intro h
                exact absurd h h1)
          by_cases hkl : j + 2 + n < s.size
          · have hKI : (j : Int) + 2 + (n : Int) < (s.size : Int) := by omega
            have hget := drop_byte s (j + 2 + n) hkl
            have hdr : (s.data.toList.drop (j + 2)).drop (wordN (s.data.toList.drop (j + 2))) = (s[j + 2 + n]'hkl) :: s.data.toList.drop (j + 2 + n + 1) := by rw [← HN.out, List.drop_drop, hget]
            have HEJ := Lib.hid (fun W => HEN.out (s[j + 2 + n]'hkl) W)
            obtain ⟨y, hy⟩ : ∃ y, y = enU (s[j + 2 + n]'hkl) := ⟨_, rfl⟩
            rw [← hy] at HEJ
            have HY := Lib.hid hy
            have HDR := Lib.hid hdr
            have HGE := Lib.hid hget
            clear hy hdr hget hwl
            cases y
            · rcases tgt with t62 | ⟨t62, tda⟩
              all_goals
                have hb2 := hB
                go_wp2_with fail
                refine (HB1.out _).mono ?_
                rintro e w3 ⟨rfl, rfl⟩
                go_wp2_with fail
                refine (HB3.out _).mono ?_
                rintro e w4 ⟨rfl, rfl⟩
                go_wp2_with fail
                refine (HL1.out _).mono ?_
                rintro e w5 ⟨rfl, rfl⟩
                go_wp2_with fail
                refine (HEJ.out _).mono ?_
                rintro e w6 ⟨rfl, rfl⟩
                go_wp2_with fail
                go_roundw
                case rel =>
                  refine ⟨j + 2 + n, 2, 0, by go_num, rfl, rfl, by omega, qs_step HQ.out (j + 2 + n) 2 0 (by omega) (by omega) (by decide) ?_, hb2⟩
                  rw [HSW.out, scW_no _ _ _ _ _ HDR.out HY.out.symm, HGE.out]
                  rfl
                case measure => simp [intOf]; omega
            · have hlow := fun W => HLW.out (j + 2) (j + 2 + n) (by omega) (by omega) W
              have hle : lowS (s.extract (j + 2) (j + 2 + n)) = bl (lowL ((s.data.toList.drop (j + 2)).take (wordN (s.data.toList.drop (j + 2))))) := by
                rw [lowS_eq, ext_take s (j + 2) n (by omega), ← HN.out]
              rw [hle] at hlow
              obtain ⟨X, hX⟩ : ∃ X, X = lowL ((s.data.toList.drop (j + 2)).take (wordN (s.data.toList.drop (j + 2)))) := ⟨_, rfl⟩
              rw [← hX] at hlow
              obtain ⟨z, hz⟩ : ∃ z, ((bl X).toList == [115, 99, 114, 105, 112, 116]) = z := ⟨_, rfl⟩
              have hz2 : (X == sScript) = z := by rw [← hz, ByteArray.toList_eq]; rfl
              have HLJ := Lib.hid hlow
              have HX := Lib.hid hX
              have HZ := Lib.hid hz2
              clear hlow hle hX hz2
              cases z
              · rcases tgt with t62 | ⟨t62, tda⟩
                all_goals
                  have hb2 := hB
                  go_wp2_with fail
                  refine (HB1.out _).mono ?_
                  rintro e w3 ⟨rfl, rfl⟩
                  go_wp2_with fail
                  refine (HB3.out _).mono ?_
                  rintro e w4 ⟨rfl, rfl⟩
                  go_wp2_with fail
                  refine (HL1.out _).mono ?_
                  rintro e w5 ⟨rfl, rfl⟩
                  go_wp2_with fail
                  refine (HEJ.out _).mono ?_
                  rintro e w6 ⟨rfl, rfl⟩
                  go_wp2_with fail
                  refine (HLJ.out _).mono ?_
                  rintro e w7 ⟨rfl, hs7⟩
                  have hb7 := below_next hb2 hs7
                  clear hs7
                  go_wp2_with fail
                  go_roundw
                  case rel =>
                    refine ⟨j + 2 + n + 1, 2, 0, by go_num, rfl, rfl, by omega, qs_step HQ.out (j + 2 + n + 1) 2 0 (by omega) (by omega) (by decide) ?_, hb7⟩
                    rw [HSW.out, scW_yes _ _ _ _ _ HDR.out HY.out.symm, ← HX.out, if_neg (by have h := HZ.out; rw [beq_eq_false_iff_ne] at h; exact h)]
                    rfl
                  case measure => simp [intOf]; omega
              · rcases tgt with t62 | ⟨t62, tda⟩
                all_goals
                  have hb2 := hB
                  go_wp2_with fail
                  refine (HB1.out _).mono ?_
                  rintro e w3 ⟨rfl, rfl⟩
                  go_wp2_with fail
                  refine (HB3.out _).mono ?_
                  rintro e w4 ⟨rfl, rfl⟩
                  go_wp2_with fail
                  refine (HL1.out _).mono ?_
                  rintro e w5 ⟨rfl, rfl⟩
                  go_wp2_with fail
                  refine (HEJ.out _).mono ?_
                  rintro e w6 ⟨rfl, rfl⟩
                  go_wp2_with fail
                  refine (HLJ.out _).mono ?_
                  rintro e w7 ⟨rfl, hs7⟩
                  have hb7 := below_next hb2 hs7
                  clear hs7
                  go_wp2_with fail
                  go_roundw
                  case rel =>
                    refine ⟨j + 2 + n + 1, 1, 0, by go_num, by first | rfl | go_num, rfl, by omega, qs_step HQ.out (j + 2 + n + 1) 1 0 (by omega) (by omega) (by decide) ?_, hb7⟩
                    rw [HSW.out, scW_yes _ _ _ _ _ HDR.out HY.out.symm, ← HX.out, if_pos (beq_iff_eq.1 HZ.out)]
                    rfl
                  case measure => simp [intOf]; omega
          · have hKI : ¬ (j : Int) + 2 + (n : Int) < (s.size : Int) := by omega
            have hKe : j + 2 + n = s.size := by omega
            have hdr : (s.data.toList.drop (j + 2)).drop (wordN (s.data.toList.drop (j + 2))) = [] := by rw [← HN.out, List.drop_drop]; exact drop_end s _ (by omega)
            have HDR := Lib.hid hdr
            have HKE := Lib.hid hKe
            clear hdr hKe hwl hkl
            rcases tgt with t62 | ⟨t62, tda⟩
            all_goals
              have hb2 := hB
              go_wp2_with fail
              refine (HB1.out _).mono ?_
              rintro e w3 ⟨rfl, rfl⟩
              go_wp2_with fail
              refine (HB3.out _).mono ?_
              rintro e w4 ⟨rfl, rfl⟩
              go_wp2_with fail
              refine (HL1.out _).mono ?_
              rintro e w5 ⟨rfl, rfl⟩
              go_wp2_with fail
              go_roundw
              case rel =>
                refine ⟨j + 2 + n, 2, 0, by go_num, rfl, rfl, by omega, qs_step HQ.out (j + 2 + n) 2 0 (by omega) (by have := HKE.out; omega) (by decide) ?_, hb2⟩
                rw [HSW.out, scW_nil _ _ _ HDR.out, drop_end s (j + 2 + n) (by have := HKE.out; omega)]
                rfl
              case measure =>
                have := HKE.out
                simp [intOf]
                omega
    · have hI2 : ¬ (j : Int) < (s.size : Int) := by omega
      have hst : scL last.data.toList mo (min da 2) (s.data.toList.drop j) = s.data.toList.drop j := by rw [drop_end s j (by omega)]; rfl
      have HST := Lib.hid hst
      clear hst
      go_wp2_with fail
      refine (HNJ.out _).mono ?_
      rintro e w3 ⟨rfl, rfl⟩
      go_wp2_with fail
      go_ret2
      exact fin.out HST.out _ hB
end Go.Proofs.YtofiaodpjpjedaaGreatDoor

namespace Go.Proofs.YtofiaodpjpjedaaGreatDoor
open Go.RowKit Go.Shelf Go.Lib
set_option maxHeartbeats 4000000
set_option maxRecDepth 100000

theorem n_uniqS {t l : List UInt8} {N M : Nat} (h1 : l = t.drop N) (h2 : l = t.drop M) (hn : N ≤ t.length) (hm : M ≤ t.length) : N = M := by
  have h := congrArg List.length (h1.symm.trans h2)
  rw [List.length_drop, List.length_drop] at h
  omega
theorem lawScripts (s : ByteArray) (a : Int) (last : ByteArray) (m : Int) (w : World) (hm : w.cell? ⟨1, 0, none⟩ = some (.int .i64 m)) (hc : CtlW w) :
    Calls Tryz.prog 7 #[.string s, .int .i64 a, .string last] w fun e w' => e = .returned (.bool true) ∧ Below w.heap.size w w' := by
  have HM := Lib.hid hm
  have HC := Lib.hid hc
  have HS1 := Lib.hid (small02 s)
  have HS2 := Lib.hid (small02 last)
  have HK := Lib.hid (known02 m w hc hm)
  clear hm hc
  by_cases h1 : s.size ≤ 4096
  · rw [decide_eq_true h1] at HS1
    by_cases h2 : last.size ≤ 4096
    · rw [decide_eq_true h2] at HS2
      have C2 := Lib.hid (fun W h => scriptC s a last m (by omega) W h)
      have R2 := Lib.hid (fun W => qScript s a last (by omega) (by omega) W)
      have hk := clip_le s a
      have HTL := Lib.hid (show (s.data.toList.drop (clip s a)).length = s.size - clip s a by rw [List.length_drop, size_list])
      have HKK := Lib.hid hk
      clear h1 h2 hk
      go_enter Tryz.func7, Tryz.ntmps7
      go_wp2_with fail
      refine (HS1.out w).mono ?_
      rintro e w1 ⟨rfl, rfl⟩
      go_wp2_with fail
      refine (HS2.out w1).mono ?_
      rintro e w2 ⟨rfl, rfl⟩
      go_wp2_with fail
      refine (C2.out w2 HM.out).mono ?_
      rintro e w5 ⟨N, hst, hle, rfl, hb5⟩
      obtain ⟨V2, hV2⟩ : ∃ V, V = bl (nulL ((s.data.toList.drop (clip s a)).take N)) := ⟨_, rfl⟩
      obtain ⟨n2, hn2⟩ : ∃ n : Int, n = ((clip s a + N : Nat) : Int) := ⟨_, rfl⟩
      rw [← hV2, ← hn2]
      have HST := Lib.hid hst
      have HLE := Lib.hid hle
      have HV2 := Lib.hid hV2
      have HN2 := Lib.hid hn2
      clear hst hle hV2 hn2
      go_wp2_with fail
      refine (kof _ _ w5).mono ?_
      rintro e w6 ⟨rfl, hs⟩
      have hb6 := below_next hb5 hs
      clear hs
      go_wp2_with fail
      refine (R2.out w6).mono ?_
      rintro e w7 ⟨N', hst, hle, rfl, hs⟩
      have hb7 := below_next hb6 hs
      clear hs
      have hNN : N = N' := n_uniqS HST.out hst (by rw [HTL.out]; have := HLE.out; omega) (by rw [HTL.out]; omega)
      subst hNN
      rw [show bl (nulL ((tlS s a).take N)) = V2 from HV2.out.symm, ← HN2.out]
      clear hst hle
      go_wp2_with fail
      refine (kof _ _ w7).mono ?_
      rintro e w8 ⟨rfl, hs⟩
      have hb8 := below_next hb7 hs
      clear hs
      have HKn := Lib.hid (known02 m w8 (HC.out.below hb8) (carry HM.out hb8))
      go_wp2_with fail
      refine HKn.out.mono ?_
      rintro e w17 ⟨rfl, hs⟩
      go_wp2_with fail
      go_ret
      exact ⟨rfl, below_next hb8 hs⟩
    · rw [decide_eq_false h2] at HS2
      clear h1 h2
      go_enter Tryz.func7, Tryz.ntmps7
      go_wp2_with fail
      refine (HS1.out w).mono ?_
      rintro e w1 ⟨rfl, rfl⟩
      go_wp2_with fail
      refine (HS2.out w1).mono ?_
      rintro e w2 ⟨rfl, rfl⟩
      go_wp2_with fail
      refine HK.out.mono ?_
      rintro e w4 ⟨rfl, hb⟩
      go_wp2_with fail
      go_ret
      exact ⟨rfl, hb⟩
  · rw [decide_eq_false h1] at HS1
    clear h1
    go_enter Tryz.func7, Tryz.ntmps7
    go_wp2_with fail
    refine (HS1.out w).mono ?_
    rintro e w1 ⟨rfl, rfl⟩
    go_wp2_with fail
    refine HK.out.mono ?_
    rintro e w4 ⟨rfl, hb⟩
    go_wp2_with fail
    go_ret
    exact ⟨rfl, hb⟩
end Go.Proofs.YtofiaodpjpjedaaGreatDoor

namespace Go.Proofs.YtofiaodpjpjedaaGreatDoor
open Go.ChangeShapes Go.WideShapes Go.ChangeAt Go.RowKit
set_option maxRecDepth 100000

def laidC : List (String × DataW Unit) := [("unicode/utf8.acceptRanges", Rows.laid_unicode_utf8_acceptRanges), ("thicket/text.controls", Rows.laid_thicket_text_controls), ("unicode/utf8.first", Rows.laid_unicode_utf8_first)]
theorem doorC_os (os : Os) : (World.laidAll Tryz.prog os laidC).os = os := World.laidAll_os _ _ _
theorem doorC_met (os : Os) (args : Array Value) : laidMetH Tryz.prog laidC ((World.laidAll Tryz.prog os laidC).forCall (fun _ _ => 0) ⟨#[], args, []⟩).memory := by
  rw [MakeChecks.laidMetH_plain _ _ _ (by kernel_rfl)]
  exact laidMet_laidAll _ (by kernel_rfl) (by kernel_rfl)

theorem gCtl : Tryz.prog.globalNamed "thicket/text.controls" = some 0 := by kernel_rfl
theorem tCtl : (Tryz.prog.globals[0]?).map (·.type) = some 99 := by kernel_rfl
theorem cCtl : Tryz.prog.cellsOf 21 = 1 := by kernel_rfl
theorem ctlD : (Rows.laid_thicket_text_controls : DataW Unit) = .agg (ctlT.map fun z => .lit (.int .i32 z)) := rfl

theorem ctl_of_laid {W : World} (h : laidMetH Tryz.prog laidC W) : CtlW W := by
  rw [MakeChecks.laidMetH_plain _ _ _ (by kernel_rfl)] at h
  obtain ⟨ps, ⟨g0, t0, cs0, f0, p0, q0, hg0, ht0, hv0, hd0, ⟨g1, t1, cs1, f1, p1, q1, hg1, ht1, hv1, hd1, _, _⟩, _⟩, _⟩ := h
  obtain rfl := Option.some.inj (gCtl.symm.trans hg1)
  obtain rfl := Option.some.inj (tCtl.symm.trans ht1)
  obtain ⟨xs, m1, rfl, hx1, hlen, hn, hel⟩ := DataW.trod_array Tryz.underlying99 hd1
  intro k hk
  have h1 := hel k hk
  rw [cCtl, Nat.mul_one] at h1
  have hxk : xs[k]? = some (xs[k]'(by omega)) := List.getElem?_eq_getElem (by omega)
  rw [hxk] at h1
  obtain ⟨z, e1, e2, _⟩ := DataW.trod_int Tryz.underlying21 h1
  have hz : z = ctlT.getD k 0 := by
    have hx2 := congrArg Prod.fst hx1
    rw [ctlD] at hx2
    simp only [DataW.agg.injEq] at hx2
    have h3 : (ctlT.map fun z => (DataW.lit (.int .i32 z) : DataW Unit))[k]? = (xs.map (·.1))[k]? := by rw [hx2]
    rw [List.getElem?_map, List.getElem?_map, hxk, e2] at h3
    have hk2 : k < ctlT.length := hk
    rw [List.getElem?_eq_getElem hk2] at h3
    simp at h3
    rw [List.getD_eq_getElem?_getD, List.getElem?_eq_getElem hk2]
    simpa using h3.symm
  rw [World.var?_cell hg1 hv1 k, ← hz]
  have h4 : (cs1.toList.drop k)[0]? = some (.int .i32 z) := by
    have := congrArg (fun l => l[0]?) e1
    simp only [List.getElem?_take] at this
    simpa using this
  rw [List.getElem?_drop, Nat.add_zero, Array.getElem?_toList] at h4
  exact h4

/-- A row whose start is said to hold more, with the shapes and the listed variables at hand. -/
theorem handedC {H : Type} {enc : TypeId × Value → H} {a : Assume} {os : Os} {f : FuncId} {fn : Func} {s : ChangeSpec} {conds : List PathCond} {apart fresh handsOn again : Bool}
    (own : ownKnob Tryz.prog.godebug = none) (started : os.Started) (noInit : Tryz.prog.inits.idxOf? f = none) (hfn : Tryz.prog.funcs[f]? = some fn)
    (witness : ∃ (w : World) (tape : Tape) (i : Input), w.os = os ∧ (w.forCall tape i).Shaped Tryz.prog ∧ i.vars = [] ∧ Input.okWide Tryz.prog (w.forCall tape i) .any w.heap.size f i ∧
      ((s.pre enc Tryz.prog fn conds apart (w.forCall tape i).memory i.args ∧ laidMetH Tryz.prog laidC (w.forCall tape i).memory) ∧ sizedMet enc Tryz.prog fn (OpenSpec.ofChange s) apart (w.forCall tape i).memory i.args) ∧ a.holds Tryz.prog (lone (Frame.enter Tryz.prog f i.args .normal) [] (w.forCall tape i)))
    (walk : ∀ (W : World) (base : Nat) (args : Array Value) (ds gs : List (DataW H)) (before : List MemPlace),
      (∀ (j : Nat) t v, fn.params[j]? = some t → args[j]? = some v → Value.okWide Tryz.prog W .any base t v) →
      DataW.Whole enc Tryz.prog fn.params.toList s.vars apart W args.toList ds gs before → W.ShapedOpen Tryz.prog → CtlW W →
      Calls Tryz.prog f args W fun e W' => ∃ v, e = .returned v ∧ s.post enc Tryz.prog fn apart fresh handsOn again W args v W') :
    ReturnsInHanded a Tryz.checked os f .any (fun w args => (s.pre enc Tryz.prog fn conds apart w args ∧ laidMetH Tryz.prog laidC w) ∧ sizedMet enc Tryz.prog fn (OpenSpec.ofChange s) apart w args) (s.post enc Tryz.prog fn apart fresh handsOn again) := by
  refine returnsInHanded_of_calls (C := Tryz.checked) own started (by exact noInit) witness ?_
  intro w tape i _ hsh _ hok hpre _
  obtain ⟨_, _, _, fn', hfn', _, _, _, _, hval⟩ := hok
  obtain rfl : fn' = fn := Option.some.inj (hfn'.symm.trans hfn)
  obtain ⟨⟨⟨ds, gs, before, hw, _⟩, hX⟩, _⟩ := hpre
  refine (walk (w.forCall tape i) w.heap.size i.args ds gs before hval (DataW.Whole.of_heap (w' := w.forCall tape i) (by rfl) hw) hsh (ctl_of_laid (laidMetH.of_heap (w' := w.forCall tape i) (by rfl) hX))).mono fun e W' ⟨v, he, hp⟩ => ?_
  subst he
  exact ChangeSpec.post_blind hp
end Go.Proofs.YtofiaodpjpjedaaGreatDoor
