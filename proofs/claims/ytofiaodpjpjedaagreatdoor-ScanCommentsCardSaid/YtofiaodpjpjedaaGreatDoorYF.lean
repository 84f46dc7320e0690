/-
  The document's own prefix test.
  The document's readers: offsets, the rule for U+0000, and what stands ahead of a mark.
  Data of comments is read back; what any comment is read as is such data. No program in sight.
  The first mark, and the first end of a comment, in the document's words. No program in sight.
  The document's readers of comments, bogus comments and CDATA sections.
  The document's reader of comments.
  ScanComments: the readers of comments, bogus comments and CDATA sections are those of the document.
  The frame of the rows that list the table of the controls as well.
-/
import Derived.Test.YtofiaodpjpjedaaGreatDoorY27
import Derived.Test.YtofiaodpjpjedaaGreatDoorY29
import Derived.Test.YtofiaodpjpjedaaGreatDoorY33
import Derived.Test.YtofiaodpjpjedaaGreatDoorY34
import Derived.Test.YtofiaodpjpjedaaGreatDoorY03
import Derived.Test.YtofiaodpjpjedaaGreatDoorY37
import Derived.Test.YtofiaodpjpjedaaGreatDoorKs3
import Derived.Test.YtofiaodpjpjedaaGreatDoorY28
namespace Go.Proofs.YtofiaodpjpjedaaGreatDoor
open Go.RowKit Go.Lib
set_option maxHeartbeats 1000000
set_option maxRecDepth 100000

theorem preB_cut (s p : ByteArray) : ((s.extract 0 p.size).toList == p.toList) = p.data.toList.isPrefixOf s.data.toList := by
  rw [Bool.eq_iff_iff, List.isPrefixOf_iff_prefix, List.prefix_iff_eq_take, beq_iff_eq, ByteArray.toList_eq, ByteArray.toList_eq, Lib.extract_data, List.drop_zero, Nat.sub_zero, size_list]
  exact ⟨fun h => h.symm, fun h => h.symm⟩
theorem preB_long {s p : ByteArray} (h : ¬ p.size ≤ s.size) : p.data.toList.isPrefixOf s.data.toList = false := by
  rw [Bool.eq_false_iff]
  intro e
  have := (List.isPrefixOf_iff_prefix.1 e).length_le
  rw [size_list, size_list] at this
  exact h this

theorem rBegins1 (s p : ByteArray) (w : World) :
    Calls Tryz.prog 67 #[.string s, .string p] w fun e w' => e = .returned (.bool (p.data.toList.isPrefixOf s.data.toList)) ∧ w' = w := by
  by_cases hl : p.size ≤ s.size
  · have hI : (p.size : Int) ≤ (s.size : Int) := by omega
    have HE := Lib.hid (preB_cut s p)
    go_enter Tryz.func67, Tryz.ntmps67
    go_wp2
    go_ret
    exact ⟨ret_bool HE.out, rfl⟩
  · have hI : (s.size : Int) < (p.size : Int) := by omega
    have HE := Lib.hid (preB_long hl)
    go_enter Tryz.func67, Tryz.ntmps67
    go_wp2
    go_ret
    exact ⟨ret_bool HE.out.symm, rfl⟩
end Go.Proofs.YtofiaodpjpjedaaGreatDoor

namespace Go.Proofs.YtofiaodpjpjedaaGreatDoor
open Go.RowKit Go.Shelf Go.Lib
set_option maxHeartbeats 2000000
set_option maxRecDepth 100000

theorem qClip (s : ByteArray) (a : Int) (w : World) : Calls Tryz.prog 57 #[.string s, .int .i64 a] w fun e w' => e = .returned (.int .i64 (clip s a : Nat)) ∧ w' = w := by
  go_enter Tryz.func57, Tryz.ntmps57
  go_wp2
  go_ret
  exact ⟨ret_int (by unfold clip; omega), rfl⟩

theorem nul_take (s : ByteArray) (k : Nat) (h : k < s.size) : bl (nulL (s.data.toList.take (k + 1))) = bl (nulL (s.data.toList.take k)) ++ bl (nul1 (s[k]'h)) := by
  have e : s.data.toList[k]? = some (s[k]'h) := by
    rw [Array.getElem?_toList]
    exact Array.getElem?_eq_getElem (xs := s.data) h
  rw [List.take_add_one, e, nulL_app]
  show bl (nulL (s.data.toList.take k) ++ nulL [s[k]'h]) = _
  rw [nulL_cons, nulL_nil, List.append_nil]
  unfold bl
  ext1
  simp

theorem qNul (s : ByteArray) (hs : s.size ≤ 1000000) (w : World) : Calls Tryz.prog 68 #[.string s] w fun e w' => e = .returned (.string (bl (nulL s.data.toList))) ∧ w' = w := by
  have HSZ := Lib.hid hs
  clear hs
  go_enter Tryz.func68, Tryz.ntmps68
  go_wp2_with fail
  go_loop [3, 4] (fun v i => ∃ k : Nat, k ≤ s.size ∧ i = .int .i64 k ∧ v = .string (bl (nulL (s.data.toList.take k)))) (fun _ i => s.size - (intOf i).toNat)
  case atStart => exact ⟨0, Nat.zero_le _, rfl, rfl⟩
  case round =>
    obtain ⟨k, hk, rfl, rfl⟩ := hrel
    by_cases hlt : k < s.size
    · have hI : (k : Int) < (s.size : Int) := by omega
      have hst := nul_take s k hlt
      have hz : (bl (nulL (s.data.toList.take k))).size ≤ 3000000 := by
        rw [bl_size]
        have h1 := nulL_len (s.data.toList.take k)
        have h2 : (s.data.toList.take k).length ≤ k := by rw [List.length_take]; omega
        have := HSZ.out
        omega
      obtain ⟨V, hV⟩ : ∃ V, V = bl (nulL (s.data.toList.take k)) := ⟨_, rfl⟩
      rw [← hV] at hst hz ⊢
      have HST := Lib.hid hst
      clear hst hV
      by_cases h0 : (s[k]'hlt) = 0
      · have t0 : (((s[k]'hlt).toNat : Int) == 0) = true := by rw [h0]; rfl
        have hn : nul1 (s[k]'hlt) = [239, 191, 189] := by unfold nul1; rw [if_pos h0]
        have hz2 : (s.size : Int) ≤ 1000000 := by have := HSZ.out; omega
        have HN := Lib.hid hn
        clear hn h0
        go_wp2_with fail
        go_round
        case rel => exact ⟨k + 1, by omega, by go_num, by rw [HST.out, HN.out]; rfl⟩
        case measure => simp [intOf]; omega
      · have t0 : (((s[k]'hlt).toNat : Int) == 0) = false := by
          rw [beq_eq_false_iff_ne]
          intro e
          exact h0 (UInt8.toNat_inj.1 (by show (s[k]'hlt).toNat = 0; omega))
        have hx : s.extract k (k + 1) = bl (nul1 (s[k]'hlt)) := by
          have h1 := ext_take s k 1 (by omega)
          rw [drop_byte s k hlt] at h1
          have h2 : nul1 (s[k]'hlt) = [s[k]'hlt] := nul1_b h0
          rw [h2]
          exact bl_eq h1
        have hz2 : (s.size : Int) ≤ 1000000 := by have := HSZ.out; omega
        have HX := Lib.hid hx
        clear hx h0
        go_wp2_with fail
        go_round
        case rel => exact ⟨k + 1, by omega, by go_num, by rw [HST.out, ← HX.out]⟩
        case measure => simp [intOf]; omega
    · have hI2 : ¬ (k : Int) < (s.size : Int) := by omega
      have hk' : k = s.size := by omega
      have he : s.data.toList.take k = s.data.toList := List.take_of_length_le (by rw [size_list]; omega)
      rw [he]
      clear he hk' hlt
      go_wp2_with fail
      go_ret
      exact ⟨rfl, rfl⟩
end Go.Proofs.YtofiaodpjpjedaaGreatDoor

namespace Go.Proofs.YtofiaodpjpjedaaGreatDoor
open Go.Lib
set_option maxRecDepth 100000

def noEnd : List UInt8 → Bool
  | [] => true
  | b :: t => !([45, 45, 62].isPrefixOf (b :: t)) && !([45, 45, 33, 62].isPrefixOf (b :: t)) && noEnd t
def fitL (l : List UInt8) : Bool := !([62].isPrefixOf l) && !([45, 62].isPrefixOf l) && noEnd l

/-- Where no comment ends, a byte is data. -/
theorem comS_or (b : UInt8) (t : List UInt8) : (comS (b :: t)).1 = [] ∨ (comS (b :: t) = pre (nul1 b) 1 (comS t) ∧ [45, 45, 62].isPrefixOf (b :: t) = false ∧ [45, 45, 33, 62].isPrefixOf (b :: t) = false) := by
  rw [comS]
  by_cases h1 : [45, 45, 62].isPrefixOf (b :: t) = true
  · rw [if_pos h1]; exact .inl rfl
  · rw [if_neg h1]
    by_cases h2 : [45, 45, 33, 62].isPrefixOf (b :: t) = true
    · rw [if_pos h2]; exact .inl rfl
    · rw [if_neg h2]
      split
      · exact .inl rfl
      · split
        · exact .inl rfl
        · split
          · exact .inl rfl
          · exact .inr ⟨rfl, Bool.eq_false_iff.2 h1, Bool.eq_false_iff.2 h2⟩
theorem comS_hd {c : UInt8} (hc : c ≠ 239) : ∀ {t x : List UInt8}, (comS t).1 = c :: x → ∃ t', t = c :: t' ∧ (comS t').1 = x ∧ [45, 45, 62].isPrefixOf t = false ∧ [45, 45, 33, 62].isPrefixOf t = false
  | [], _, h => by cases h
  | b :: t, x, h => by
    rcases comS_or b t with h0 | ⟨h1, h2, h3⟩
    · rw [h0] at h; cases h
    · rw [h1] at h
      have h' : nul1 b ++ (comS t).1 = c :: x := h
      unfold nul1 at h'
      by_cases hb : b = 0
      · rw [if_pos hb] at h'
        injection h' with h4 _
        exact absurd h4.symm hc
      · rw [if_neg hb] at h'
        injection h' with h4 h5
        subst h4
        exact ⟨t, rfl, h5, h2, h3⟩
theorem pre_of {p l : List UInt8} (h : p.isPrefixOf l = true) : ∃ r, l = p ++ r := by
  obtain ⟨r, hr⟩ := List.isPrefixOf_iff_prefix.1 h
  exact ⟨r, hr.symm⟩
theorem comS_no1 (t : List UInt8) : [45, 45, 62].isPrefixOf (comS t).1 = false := by
  rw [Bool.eq_false_iff]
  intro h
  obtain ⟨r, hr⟩ := pre_of h
  obtain ⟨t1, rfl, h1, hn, _⟩ := comS_hd (by decide) hr
  obtain ⟨t2, rfl, h2, _, _⟩ := comS_hd (by decide) h1
  obtain ⟨t3, rfl, h3, _, _⟩ := comS_hd (by decide) h2
  simp [List.isPrefixOf] at hn
theorem comS_no2 (t : List UInt8) : [45, 45, 33, 62].isPrefixOf (comS t).1 = false := by
  rw [Bool.eq_false_iff]
  intro h
  obtain ⟨r, hr⟩ := pre_of h
  obtain ⟨t1, rfl, h1, _, hn⟩ := comS_hd (by decide) hr
  obtain ⟨t2, rfl, h2, _, _⟩ := comS_hd (by decide) h1
  obtain ⟨t3, rfl, h3, _, _⟩ := comS_hd (by decide) h2
  obtain ⟨t4, rfl, h4, _, _⟩ := comS_hd (by decide) h3
  simp [List.isPrefixOf] at hn
theorem comS_noEnd : ∀ t : List UInt8, noEnd (comS t).1 = true
  | [] => rfl
  | b :: t => by
    have ih := comS_noEnd t
    have n1 := comS_no1 (b :: t)
    have n2 := comS_no2 (b :: t)
    rcases comS_or b t with h0 | ⟨h1, _, _⟩
    · rw [h0]; rfl
    · rw [h1] at n1 n2 ⊢
      have e : (pre (nul1 b) 1 (comS t)).1 = nul1 b ++ (comS t).1 := rfl
      rw [e] at n1 n2 ⊢
      unfold nul1 at n1 n2 ⊢
      by_cases hb : b = 0
      · rw [if_pos hb]
        show noEnd (239 :: 191 :: 189 :: (comS t).1) = true
        simp [noEnd, List.isPrefixOf, ih]
      · rw [if_neg hb] at n1 n2 ⊢
        have n1' : [45, 45, 62].isPrefixOf (b :: (comS t).1) = false := n1
        have n2' : [45, 45, 33, 62].isPrefixOf (b :: (comS t).1) = false := n2
        show noEnd (b :: (comS t).1) = true
        rw [noEnd, n1', n2', ih]
        rfl
/-- What any comment is read as is data that is read back. -/
theorem com_fit (u : List UInt8) : fitL (comL u).1 = true := by
  unfold comL
  by_cases h1 : [62].isPrefixOf u = true
  · rw [if_pos h1]; rfl
  · rw [if_neg h1]
    by_cases h2 : [45, 62].isPrefixOf u = true
    · rw [if_pos h2]; rfl
    · rw [if_neg h2]
      unfold fitL
      have a1 : [62].isPrefixOf (comS u).1 = false := by
        rw [Bool.eq_false_iff]
        intro h
        obtain ⟨r, hr⟩ := pre_of h
        obtain ⟨t1, rfl, _, _, _⟩ := comS_hd (by decide) hr
        simp [List.isPrefixOf] at h1
      have a2 : [45, 62].isPrefixOf (comS u).1 = false := by
        rw [Bool.eq_false_iff]
        intro h
        obtain ⟨r, hr⟩ := pre_of h
        obtain ⟨t1, rfl, h3, _, _⟩ := comS_hd (by decide) hr
        obtain ⟨t2, rfl, _, _, _⟩ := comS_hd (by decide) h3
        simp [List.isPrefixOf] at h2
      rw [a1, a2, comS_noEnd]
      rfl

theorem no_end1 (b : UInt8) (d m : List UInt8) (h : [45, 45, 62].isPrefixOf (b :: d) = false) : [45, 45, 62].isPrefixOf (b :: (d ++ 45 :: 45 :: 62 :: m)) = false := by
  match d, h with
  | [], _ => simp [List.isPrefixOf]
  | [x], _ => simp [List.isPrefixOf]
  | x :: y :: d, h => simpa [List.isPrefixOf] using h
theorem no_end2 (b : UInt8) (d m : List UInt8) (h : [45, 45, 33, 62].isPrefixOf (b :: d) = false) : [45, 45, 33, 62].isPrefixOf (b :: (d ++ 45 :: 45 :: 62 :: m)) = false := by
  match d, h with
  | [], _ => simp [List.isPrefixOf]
  | [x], _ => simp [List.isPrefixOf]
  | [x, y], _ => simp [List.isPrefixOf]
  | x :: y :: z :: d, h => simpa [List.isPrefixOf] using h
theorem comS_back (m : List UInt8) : ∀ d : List UInt8, (∀ x ∈ d, x ≠ 0) → noEnd d = true → comS (d ++ 45 :: 45 :: 62 :: m) = (d, d.length + 3)
  | [], _, _ => by
    show comS (45 :: 45 :: 62 :: m) = _
    rw [comS, if_pos (by simp [List.isPrefixOf])]
    rfl
  | b :: d, hz, hn => by
    rw [noEnd, Bool.and_eq_true, Bool.and_eq_true] at hn
    obtain ⟨⟨h1, h2⟩, h3⟩ := hn
    have e1 := no_end1 b d m (by rw [Bool.not_eq_true'] at h1; exact h1)
    have e2 := no_end2 b d m (by rw [Bool.not_eq_true'] at h2; exact h2)
    have hl : 4 ≤ (b :: (d ++ 45 :: 45 :: 62 :: m)).length := by simp; omega
    have ih := comS_back m d (fun x hx => hz x (by simp [hx])) h3
    rw [List.cons_append, comS, e1, e2, if_neg Bool.false_ne_true, if_neg Bool.false_ne_true, if_neg (fun e => by rw [e] at hl; simp at hl), if_neg (fun e => by rw [e] at hl; simp at hl), if_neg (fun e => by rw [e] at hl; simp at hl), ih]
    have hb : nul1 b = [b] := by unfold nul1; exact if_neg (hz b (by simp))
    rw [hb]
    show ([b] ++ d, 1 + (d.length + 3)) = _
    rw [List.length_cons]
    congr 1
    omega
/-- Such data is read back. -/
theorem com_back (d m : List UInt8) (hz : ∀ x ∈ d, x ≠ 0) (hf : fitL d = true) : comL (d ++ 45 :: 45 :: 62 :: m) = (d, d.length + 3) := by
  unfold fitL at hf
  rw [Bool.and_eq_true, Bool.and_eq_true] at hf
  obtain ⟨⟨h1, h2⟩, h3⟩ := hf
  have a1 : [62].isPrefixOf (d ++ 45 :: 45 :: 62 :: m) = false := by
    match d, h1 with
    | [], _ => simp [List.isPrefixOf]
    | x :: d, h => simpa [List.isPrefixOf] using h
  have a2 : [45, 62].isPrefixOf (d ++ 45 :: 45 :: 62 :: m) = false := by
    match d, h2 with
    | [], _ => simp [List.isPrefixOf]
    | [x], _ => simp [List.isPrefixOf]
    | x :: y :: d, h => rw [Bool.not_eq_true'] at h; exact h
  unfold comL
  rw [a1, a2, if_neg Bool.false_ne_true, if_neg Bool.false_ne_true]
  exact comS_back m d hz h3
end Go.Proofs.YtofiaodpjpjedaaGreatDoor

namespace Go.Proofs.YtofiaodpjpjedaaGreatDoor
open Go.Lib
set_option maxRecDepth 100000

theorem cut_no {s p : List UInt8} (h : Lib.index s p = -1) : (Lib.cut s p).1 = s := by unfold Lib.cut; rw [h, if_neg (by decide)]
theorem cut_yes {s p : List UInt8} {n : Nat} (h : Lib.index s p = n) : (Lib.cut s p).1 = s.take n := by
  unfold Lib.cut
  rw [h, if_pos (by omega)]
  rfl
theorem utL_of {p t x : List UInt8} (h : (Lib.cut t p).1 = x) : utL p t = (x, x.length + if p.isPrefixOf (t.drop x.length) then p.length else 0) := by subst h; rfl
theorem utL_nil (p : List UInt8) (hp : p ≠ []) : utL p [] = ([], 0) := by
  have h : Lib.index [] p = -1 := by
    cases p with
    | nil => exact absurd rfl hp
    | cons a p => rfl
  rw [utL_of (cut_no h)]
  cases p with
  | nil => exact absurd rfl hp
  | cons a p => rfl
theorem utL_cons (p : List UInt8) (b : UInt8) (t : List UInt8) : utL p (b :: t) = if p.isPrefixOf (b :: t) then ([], p.length) else pre [b] 1 (utL p t) := by
  have hi : Lib.index (b :: t) p = if p.isPrefixOf (b :: t) then 0 else if Lib.index t p == -1 then -1 else Lib.index t p + 1 := rfl
  by_cases h : p.isPrefixOf (b :: t) = true
  · rw [if_pos h]
    rw [if_pos h] at hi
    rw [utL_of (cut_yes (n := 0) hi)]
    simp [h]
  · rw [if_neg h]
    rw [if_neg h] at hi
    by_cases h1 : Lib.index t p = -1
    · rw [h1, if_pos (by decide)] at hi
      rw [utL_of (cut_no hi), utL_of (cut_no h1)]
      refine Prod.ext rfl ?_
      show (t.length + 1) + (if p.isPrefixOf (t.drop t.length) then p.length else 0) = 1 + (t.length + (if p.isPrefixOf (t.drop t.length) then p.length else 0))
      omega
    · have hg := Lib.index_ge t p
      rw [if_neg (by rw [beq_iff_eq]; exact h1)] at hi
      obtain ⟨n, hn⟩ : ∃ n : Nat, Lib.index t p = n := ⟨(Lib.index t p).toNat, by omega⟩
      rw [hn] at hi
      rw [utL_of (cut_yes (n := n + 1) hi), utL_of (cut_yes hn), List.take_succ_cons]
      refine Prod.ext rfl ?_
      show ((t.take n).length + 1) + (if p.isPrefixOf (t.drop (t.take n).length) then p.length else 0) = 1 + ((t.take n).length + (if p.isPrefixOf (t.drop (t.take n).length) then p.length else 0))
      omega
theorem utL_le (p : List UInt8) : ∀ t : List UInt8, (utL p t).2 ≤ t.length + p.length
  | [] => by
    unfold utL
    have : (Lib.cut [] p).1 = [] := by unfold Lib.cut; split <;> simp
    rw [this]
    simp only [List.length_nil, Nat.zero_add]
    split <;> omega
  | b :: t => by
    have := utL_le p t
    rw [utL_cons]
    split
    · show p.length ≤ _; omega
    · show 1 + (utL p t).2 ≤ _
      rw [List.length_cons]; omega
/-- No mark so far. -/
theorem utL_run (p : List UInt8) : ∀ (k : Nat) (t : List UInt8), k ≤ t.length → (∀ j, j < k → p.isPrefixOf (t.drop j) = false) → utL p t = pre (t.take k) k (utL p (t.drop k))
  | 0, t, _, _ => by simp [pre]
  | k + 1, [], h, _ => by simp at h
  | k + 1, b :: t, h, hn => by
    have h0 : p.isPrefixOf (b :: t) = false := hn 0 (by omega)
    rw [utL_cons, h0, if_neg (by simp), utL_run p k t (by simp at h; omega) (fun j hj => by have := hn (j + 1) (by omega); simpa using this), pre_pre, List.take_succ_cons, List.drop_succ_cons, Nat.add_comm 1]
    rfl

/-! ### Comments -/
def endAt (t : List UInt8) : Bool := [45, 45, 62].isPrefixOf t || [45, 45, 33, 62].isPrefixOf t
/-- No end so far, and one here. -/
theorem comS_at : ∀ (k : Nat) (t : List UInt8), (∀ j, j < k → endAt (t.drop j) = false) → endAt (t.drop k) = true → comS t = pre (nulL (t.take k)) k (comS (t.drop k))
  | 0, t, _, _ => by simp [pre_nil, nulL_nil]
  | k + 1, [], _, h => by simp [endAt] at h
  | k + 1, b :: t, hn, h => by
    have h0 : endAt (b :: t) = false := hn 0 (by omega)
    unfold endAt at h0
    rw [Bool.or_eq_false_iff] at h0
    have ih := comS_at k t (fun j hj => by have := hn (j + 1) (by omega); simpa using this) (by simpa using h)
    have tl : b :: t ≠ [45, 45, 33] ∧ b :: t ≠ [45, 45] ∧ b :: t ≠ [45] := by
      refine ⟨?_, ?_, ?_⟩
      all_goals
        intro e
        injection e with e1 e2
        subst e1
        subst e2
        rcases k with _ | _ | _ | k <;> simp [endAt] at h
    rw [comS, h0.1, h0.2, if_neg (by simp), if_neg (by simp), if_neg tl.1, if_neg tl.2.1, if_neg tl.2.2, ih, pre_pre, List.take_succ_cons, List.drop_succ_cons, nulL_cons, Nat.add_comm 1]
/-- The end of the string, with what of an end may stand there. -/
def tailR (t : List UInt8) : List UInt8 × Nat :=
  if [45, 45, 33].isSuffixOf t then (nulL (t.take (t.length - 3)), t.length)
  else if [45, 45].isSuffixOf t then (nulL (t.take (t.length - 2)), t.length)
  else if [45].isSuffixOf t then (nulL (t.take (t.length - 1)), t.length)
  else (nulL t, t.length)
theorem suf_cons (x : List UInt8) (b : UInt8) (t : List UInt8) (h : b :: t ≠ x) : x.isSuffixOf (b :: t) = x.isSuffixOf t := by
  rw [Bool.eq_iff_iff, List.isSuffixOf_iff_suffix, List.isSuffixOf_iff_suffix, List.suffix_cons_iff]
  constructor
  · rintro (e | e)
    · exact absurd e.symm h
    · exact e
  · exact .inr
theorem suf_len {x t : List UInt8} (h : x.isSuffixOf t = true) : x.length ≤ t.length := (List.isSuffixOf_iff_suffix.1 h).length_le
theorem tailR_cons (b : UInt8) (t : List UInt8) (h3 : b :: t ≠ [45, 45, 33]) (h2 : b :: t ≠ [45, 45]) (h1 : b :: t ≠ [45]) : tailR (b :: t) = pre (nul1 b) 1 (tailR t) := by
  unfold tailR
  rw [suf_cons _ b t h3, suf_cons _ b t h2, suf_cons _ b t h1]
  have key : ∀ n, n ≤ t.length → ((b :: t).take ((b :: t).length - n)) = b :: t.take (t.length - n) := by
    intro n hn
    rw [List.length_cons, show t.length + 1 - n = t.length - n + 1 by omega, List.take_succ_cons]
  have p : ∀ l : List UInt8, pre (nul1 b) 1 (nulL l, t.length) = (nulL (b :: l), (b :: t).length) := by
    intro l
    rw [nulL_cons, List.length_cons]
    show (_, 1 + t.length) = _
    rw [Nat.add_comm]
  by_cases c3 : [45, 45, 33].isSuffixOf t = true
  · rw [if_pos c3, if_pos c3, p, key 3 (suf_len c3)]
  · rw [if_neg c3, if_neg c3]
    by_cases c2 : [45, 45].isSuffixOf t = true
    · rw [if_pos c2, if_pos c2, p, key 2 (suf_len c2)]
    · rw [if_neg c2, if_neg c2]
      by_cases c1 : [45].isSuffixOf t = true
      · rw [if_pos c1, if_pos c1, p, key 1 (suf_len c1)]
      · rw [if_neg c1, if_neg c1, p]
theorem comS_tail : ∀ t : List UInt8, (∀ j, j < t.length → endAt (t.drop j) = false) → comS t = tailR t
  | [], _ => by decide
  | b :: t, hn => by
    have h0 : endAt (b :: t) = false := hn 0 (by simp)
    unfold endAt at h0
    rw [Bool.or_eq_false_iff] at h0
    by_cases h3 : b :: t = [45, 45, 33]
    · rw [h3]; decide
    by_cases h2 : b :: t = [45, 45]
    · rw [h2]; decide
    by_cases h1 : b :: t = [45]
    · rw [h1]; decide
    have ih := comS_tail t (fun j hj => by have := hn (j + 1) (by simp; omega); simpa using this)
    rw [comS, h0.1, h0.2, if_neg (by simp), if_neg (by simp), if_neg h3, if_neg h2, if_neg h1, ih, tailR_cons b t h3 h2 h1]
theorem comS_3e {t : List UInt8} (h : [45, 45, 62].isPrefixOf t = true) : comS t = ([], 3) := by
  cases t with
  | nil => simp [List.isPrefixOf] at h
  | cons b t => rw [comS, if_pos h]
theorem comS_4e {t : List UInt8} (h3 : [45, 45, 62].isPrefixOf t = false) (h : [45, 45, 33, 62].isPrefixOf t = true) : comS t = ([], 4) := by
  cases t with
  | nil => simp [List.isPrefixOf] at h
  | cons b t => rw [comS, h3, if_neg (by simp), if_pos h]
end Go.Proofs.YtofiaodpjpjedaaGreatDoor

namespace Go.Proofs.YtofiaodpjpjedaaGreatDoor
open Go.RowKit Go.Shelf Go.Lib
set_option maxHeartbeats 4000000
set_option maxRecDepth 100000

theorem ext_take2 (s : ByteArray) (k n : Nat) (h : k ≤ n) (hn : n ≤ s.size) : s.extract k n = bl ((s.data.toList.drop k).take (n - k)) := by
  have h1 := ext_take s k (n - k) (by omega)
  rw [show k + (n - k) = n by omega] at h1
  exact bl_eq h1

theorem qUpTo (s : ByteArray) (a : Int) (p : ByteArray) (hp : p.data.toList ≠ []) (hps : p.size ≤ 10) (hs : s.size ≤ 1000000) (w : World) :
    Calls Tryz.prog 71 #[.string s, .int .i64 a, .string p] w fun e w' => e = .returned (.tuple #[.string (bl (utL p.data.toList (tlS s a)).1), .int .i64 ((clip s a + (utL p.data.toList (tlS s a)).2 : Nat) : Int)]) ∧ w' = w := by
  have HC := Lib.hid (fun W => qClip s a W)
  have hk := clip_le s a
  unfold tlS
  generalize clip s a = k at HC hk ⊢
  have HP := Lib.hid hp
  have HSZ := Lib.hid hs
  have HK := Lib.hid hk
  have HB := Lib.hid (fun (j : Nat) (h : j ≤ s.size) W => rBegins1 (s.extract j s.size) p W)
  clear hp hs
  go_enter Tryz.func71, Tryz.ntmps71
  go_wp2_with fail
  refine (HC.out w).mono ?_
  rintro e w1 ⟨rfl, rfl⟩
  go_wp2_with fail
  go_loop [8] (fun i => ∃ j : Nat, k ≤ j ∧ j ≤ s.size ∧ i = .int .i64 j ∧ utL p.data.toList (s.data.toList.drop k) = pre ((s.data.toList.drop k).take (j - k)) (j - k) (utL p.data.toList (s.data.toList.drop j))) (fun i => s.size - (intOf i).toNat)
  case atStart => exact ⟨k, Nat.le_refl _, hk, rfl, by rw [Nat.sub_self]; simp [pre]⟩
  case round =>
    obtain ⟨j, hkj, hj, rfl, heq⟩ := hrel
    have HEQ := Lib.hid heq
    clear heq
    have hz2 : (s.size : Int) ≤ 1000000 := by have := HSZ.out; omega
    by_cases hlt : j < s.size
    · have hI : (j : Int) < (s.size : Int) := by omega
      have hB := fun W => HB.out j hj W
      have hx := ext_drop s j
      rw [hx] at hB
      obtain ⟨q, hq⟩ : ∃ q, q = p.data.toList.isPrefixOf (s.data.toList.drop j) := ⟨_, rfl⟩
      rw [← hq] at hB
      have HBj := Lib.hid hB
      have HQ := Lib.hid hq
      clear hB hx hq
      have hst : utL p.data.toList (s.data.toList.drop j) = if q then ([], p.data.toList.length) else pre [s[j]'hlt] 1 (utL p.data.toList (s.data.toList.drop (j + 1))) := by
        rw [HQ.out, drop_byte s j hlt, utL_cons]
      have HST := Lib.hid hst
      clear hst
      cases q
      · go_wp2_with fail
        refine (HBj.out _).mono ?_
        rintro e w2 ⟨rfl, rfl⟩
        go_wp2_with fail
        go_round
        case rel =>
          refine ⟨j + 1, by omega, by omega, by go_num, ?_⟩
          rw [HEQ.out, HST.out, if_neg (by simp), pre_pre]
          have e1 : (s.data.toList.drop k).take (j + 1 - k) = (s.data.toList.drop k).take (j - k) ++ [s[j]'hlt] := by
            have hg : (s.data.toList.drop k)[j - k]? = some (s[j]'hlt) := by
              rw [List.getElem?_drop, show k + (j - k) = j by omega, Array.getElem?_toList]
              exact Array.getElem?_eq_getElem (xs := s.data) hlt
            rw [show j + 1 - k = (j - k) + 1 by omega, List.take_add_one, hg]
            rfl
          rw [e1, show j - k + 1 = j + 1 - k by omega]
        case measure => simp [intOf]; omega
      · have hz3 : (p.size : Int) ≤ 10 := by omega
        have hkI : (k : Int) ≤ (j : Int) := by omega
        go_wp2_with fail
        refine (HBj.out _).mono ?_
        rintro e w2 ⟨rfl, rfl⟩
        go_wp2_with fail
        go_ret2
        refine ⟨?_, rfl⟩
        rw [HEQ.out, HST.out, if_pos trivial, ext_take2 s k j hkj hj]
        refine ret2_si ?_ ?_
        · simp [pre]
        · simp only [pre]
          rw [size_list]
          omega
    · have hI2 : ¬ (j : Int) < (s.size : Int) := by omega
      have hj' : j = s.size := by omega
      have hkI : (k : Int) ≤ (s.size : Int) := by have := HK.out; omega
      have hfin : utL p.data.toList (s.data.toList.drop k) = (s.data.toList.drop k, s.size - k) := by
        rw [HEQ.out, drop_end s j (by omega), utL_nil _ HP.out]
        have e1 : (s.data.toList.drop k).take (j - k) = s.data.toList.drop k := List.take_of_length_le (by rw [List.length_drop, size_list]; omega)
        rw [e1, hj']
        simp [pre]
      have HF := Lib.hid hfin
      clear hfin hj'
      go_wp2_with fail
      go_ret2
      refine ⟨?_, rfl⟩
      rw [HF.out, show s.extract k s.size = bl (s.data.toList.drop k) from bl_eq (ext_drop s k)]
      exact ret2_si rfl (by have := HK.out; simp only; omega)

theorem qBogus (s : ByteArray) (a : Int) (hs : s.size ≤ 1000000) (w : World) :
    Calls Tryz.prog 21 #[.string s, .int .i64 a] w fun e w' => e = .returned (.tuple #[.string (bl (nulL (utL [62] (tlS s a)).1)), .int .i64 ((clip s a + (utL [62] (tlS s a)).2 : Nat) : Int)]) ∧ w' = w := by
  have HU := Lib.hid (qUpTo s a ⟨#[62]⟩ (by simp) (by decide) hs w)
  obtain ⟨V, hV⟩ : ∃ V, V = bl (utL [62] (tlS s a)).1 := ⟨_, rfl⟩
  obtain ⟨n, hn⟩ : ∃ n : Int, n = ((clip s a + (utL [62] (tlS s a)).2 : Nat) : Int) := ⟨_, rfl⟩
  have hV1 : (utL [62] (tlS s a)).1.length ≤ s.size := by
    have h := (cut_pre (tlS s a) [62]).length_le
    unfold tlS at h ⊢
    rw [List.length_drop, size_list] at h
    show (Lib.cut _ _).1.length ≤ _
    omega
  have HN := Lib.hid (qNul V (by rw [hV, bl_size]; omega) w)
  rw [show (ByteArray.mk #[62]).data.toList = [62] from rfl, ← hV, ← hn] at HU
  have hVl : V.data.toList = (utL [62] (tlS s a)).1 := by rw [hV]; rfl
  rw [hVl] at HN
  rw [← hn]
  obtain ⟨V2, hV2⟩ : ∃ V2, V2 = bl (nulL (utL [62] (tlS s a)).1) := ⟨_, rfl⟩
  rw [← hV2] at HN ⊢
  clear hV hV1 hVl hn hV2 hs
  go_enter Tryz.func21, Tryz.ntmps21
  go_wp2_with fail
  refine HU.out.mono ?_
  rintro e w1 ⟨rfl, rfl⟩
  go_wp2_with fail
  refine HN.out.mono ?_
  rintro e w2 ⟨rfl, rfl⟩
  go_wp2_with fail
  go_ret2
  exact ⟨rfl, rfl⟩
theorem qCdata (s : ByteArray) (a : Int) (hs : s.size ≤ 1000000) (w : World) :
    Calls Tryz.prog 23 #[.string s, .int .i64 a] w fun e w' => e = .returned (.tuple #[.string (bl (utL [93, 93, 62] (tlS s a)).1), .int .i64 ((clip s a + (utL [93, 93, 62] (tlS s a)).2 : Nat) : Int)]) ∧ w' = w := by
  have HU := Lib.hid (qUpTo s a ⟨#[93, 93, 62]⟩ (by simp) (by decide) hs w)
  obtain ⟨V, hV⟩ : ∃ V, V = bl (utL [93, 93, 62] (tlS s a)).1 := ⟨_, rfl⟩
  obtain ⟨n, hn⟩ : ∃ n : Int, n = ((clip s a + (utL [93, 93, 62] (tlS s a)).2 : Nat) : Int) := ⟨_, rfl⟩
  rw [show (ByteArray.mk #[93, 93, 62]).data.toList = [93, 93, 62] from rfl, ← hV, ← hn] at HU
  rw [← hn, ← hV]
  clear hV hn hs
  go_enter Tryz.func23, Tryz.ntmps23
  go_wp2_with fail
  refine HU.out.mono ?_
  rintro e w1 ⟨rfl, rfl⟩
  go_wp2_with fail
  go_ret2
  exact ⟨rfl, rfl⟩
theorem qPlain (s : ByteArray) (a : Int) (hs : s.size ≤ 1000000) (w : World) :
    Calls Tryz.prog 35 #[.string s, .int .i64 a] w fun e w' => e = .returned (.tuple #[.string (bl (nulL (tlS s a))), .int .i64 s.size]) ∧ w' = w := by
  have HC := Lib.hid (fun W => qClip s a W)
  have hk := clip_le s a
  unfold tlS
  generalize clip s a = k at HC hk ⊢
  have HN := Lib.hid (qNul (s.extract k s.size) (by rw [ByteArray.size_extract]; omega) w)
  rw [ext_drop] at HN
  obtain ⟨V, hV⟩ : ∃ V, V = bl (nulL (s.data.toList.drop k)) := ⟨_, rfl⟩
  rw [← hV] at HN ⊢
  have hkI : (k : Int) ≤ (s.size : Int) := by omega
  have hz2 : (s.size : Int) ≤ 1000000 := by omega
  clear hV hs hk
  go_enter Tryz.func35, Tryz.ntmps35
  go_wp2_with fail
  refine (HC.out w).mono ?_
  rintro e w1 ⟨rfl, rfl⟩
  go_wp2_with fail
  refine HN.out.mono ?_
  rintro e w2 ⟨rfl, rfl⟩
  go_wp2_with fail
  go_ret2
  exact ⟨rfl, rfl⟩
end Go.Proofs.YtofiaodpjpjedaaGreatDoor

namespace Go.Proofs.YtofiaodpjpjedaaGreatDoor
open Go.RowKit Go.Shelf Go.Lib
set_option maxHeartbeats 4000000
set_option maxRecDepth 100000

theorem tail_at (T : ByteArray) (n : Nat) (h : n ≤ T.size) : (T.extract (T.size - n) T.size).data.toList = T.data.toList.drop (T.size - n) ∧ (T.extract 0 (T.size - n)).data.toList = T.data.toList.take (T.size - n) := by
  refine ⟨ext_drop T _, ?_⟩
  have h1 := ext_take2 T 0 (T.size - n) (Nat.zero_le _) (by omega)
  rw [List.drop_zero, Nat.sub_zero] at h1
  rw [h1]
  rfl
theorem tail_cmp (T : ByteArray) (L : List UInt8) (n : Nat) (hL : L.length = n) (h : n ≤ T.size) : ((T.extract (T.size - n) T.size).toList == L) = L.isSuffixOf T.data.toList := by
  rw [ByteArray.toList_eq, ext_drop T, Bool.eq_iff_iff, beq_iff_eq, List.isSuffixOf_iff_suffix, List.suffix_iff_eq_drop, size_list, hL]
  exact ⟨fun e => e.symm, fun e => e.symm⟩
theorem qComment (s : ByteArray) (a : Int) (hs : s.size ≤ 1000000) (w : World) :
    Calls Tryz.prog 19 #[.string s, .int .i64 a] w fun e w' => e = .returned (.tuple #[.string (bl (comL (tlS s a)).1), .int .i64 ((clip s a + (comL (tlS s a)).2 : Nat) : Int)]) ∧ Below w.heap.size w w' := by
  have HC := Lib.hid (fun W => qClip s a W)
  have hk := clip_le s a
  unfold tlS
  generalize clip s a = k at HC hk ⊢
  obtain ⟨T, hT⟩ : ∃ T, T = s.extract k s.size := ⟨_, rfl⟩
  have hTl : T.data.toList = s.data.toList.drop k := by rw [hT, ext_drop]
  have hTs : T.size = s.size - k := by rw [hT, ByteArray.size_extract]; omega
  rw [← hTl]
  have HT := Lib.hid hT
  have HK := Lib.hid hk
  have HSZ := Lib.hid hs
  have HTs := Lib.hid hTs
  have hb1 := fun W => rBegins1 T ⟨#[62]⟩ W
  have hb2 := fun W => rBegins1 T ⟨#[45, 62]⟩ W
  obtain ⟨p1, hp1⟩ : ∃ p1, p1 = [62].isPrefixOf T.data.toList := ⟨_, rfl⟩
  obtain ⟨p2, hp2⟩ : ∃ p2, p2 = [45, 62].isPrefixOf T.data.toList := ⟨_, rfl⟩
  rw [show (ByteArray.mk #[62]).data.toList.isPrefixOf T.data.toList = p1 from hp1.symm] at hb1
  rw [show (ByteArray.mk #[45, 62]).data.toList.isPrefixOf T.data.toList = p2 from hp2.symm] at hb2
  have hcl : comL T.data.toList = if p1 then ([], 1) else if p2 then ([], 2) else comS T.data.toList := by unfold comL; rw [hp1, hp2]
  have HB1 := Lib.hid hb1
  have HB2 := Lib.hid hb2
  have HCL := Lib.hid hcl
  have hkI : (k : Int) ≤ (s.size : Int) := by omega
  have hz2 : (s.size : Int) ≤ 1000000 := by omega
  clear hT hTl hTs hb1 hb2 hp1 hp2 hcl hs hk
  cases p1
  · cases p2
    · go_enter Tryz.func19, Tryz.ntmps19
      go_wp2_with fail
      refine (HC.out w).mono ?_
      rintro e w1 ⟨rfl, rfl⟩
      go_wp2_with fail
      rw [← HT.out]
      refine (HB1.out _).mono ?_
      rintro e w2 ⟨rfl, rfl⟩
      go_wp2_with fail
      refine (HB2.out _).mono ?_
      rintro e w3 ⟨rfl, rfl⟩
      go_wp2_with fail
      go_loop [7] (fun i => ∃ j : Nat, j ≤ T.size ∧ i = .int .i64 j ∧ ∀ x, x < j → endAt (T.data.toList.drop x) = false) (fun i => T.size - (intOf i).toNat)
      case atStart => exact ⟨0, Nat.zero_le _, rfl, fun x hx => absurd hx (Nat.not_lt_zero x)⟩
      case round =>
        obtain ⟨j, hj, rfl, hno⟩ := hrel
        have HNO := Lib.hid hno
        clear hno
        have hz3 : (T.size : Int) ≤ 1000000 := by have := HTs.out; omega
        by_cases hlt : j < T.size
        · have hI : (j : Int) < (T.size : Int) := by omega
          have hx := ext_drop T j
          obtain ⟨q1, hq1⟩ : ∃ q1, q1 = [45, 45, 62].isPrefixOf (T.data.toList.drop j) := ⟨_, rfl⟩
          obtain ⟨q2, hq2⟩ : ∃ q2, q2 = [45, 45, 33, 62].isPrefixOf (T.data.toList.drop j) := ⟨_, rfl⟩
          have hc1 := fun W => rBegins1 (T.extract j T.size) ⟨#[45, 45, 62]⟩ W
          have hc2 := fun W => rBegins1 (T.extract j T.size) ⟨#[45, 45, 33, 62]⟩ W
          rw [hx] at hc1 hc2
          rw [show (ByteArray.mk #[45, 45, 62]).data.toList.isPrefixOf (T.data.toList.drop j) = q1 from hq1.symm] at hc1
          rw [show (ByteArray.mk #[45, 45, 33, 62]).data.toList.isPrefixOf (T.data.toList.drop j) = q2 from hq2.symm] at hc2
          have HC1 := Lib.hid hc1
          have HC2 := Lib.hid hc2
          have HQ1 := Lib.hid hq1
          have HQ2 := Lib.hid hq2
          have hn : T.extract 0 j = bl (T.data.toList.take j) := by
            have h1 := ext_take2 T 0 j (Nat.zero_le _) hj
            rw [List.drop_zero, Nat.sub_zero] at h1
            exact h1
          have hnl := fun W => qNul (T.extract 0 j) (by rw [ByteArray.size_extract]; have := HTs.out; have := HSZ.out; omega) W
          rw [show (T.extract 0 j).data.toList = T.data.toList.take j by rw [hn]; rfl] at hnl
          obtain ⟨V, hV⟩ : ∃ V, V = bl (nulL (T.data.toList.take j)) := ⟨_, rfl⟩
          rw [← hV] at hnl
          have HNL := Lib.hid hnl
          have HV := Lib.hid hV
          clear hc1 hc2 hx hq1 hq2 hn hnl hV
          cases q1
          · cases q2
            · go_wp2_with fail
              refine (HC1.out _).mono ?_
              rintro e w3 ⟨rfl, rfl⟩
              go_wp2_with fail
              refine (HC2.out _).mono ?_
              rintro e w4 ⟨rfl, rfl⟩
              go_wp2_with fail
              go_round
              case rel =>
                refine ⟨j + 1, by omega, by go_num, fun x hx => ?_⟩
                rcases Nat.lt_or_ge x j with h | h
                · exact HNO.out x h
                · obtain rfl : x = j := by omega
                  unfold endAt
                  rw [← HQ1.out, ← HQ2.out]
                  rfl
              case measure => simp [intOf]; omega
            · go_wp2_with fail
              refine (HC1.out _).mono ?_
              rintro e w3 ⟨rfl, rfl⟩
              go_wp2_with fail
              refine (HC2.out _).mono ?_
              rintro e w4 ⟨rfl, rfl⟩
              go_wp2_with fail
              refine (HNL.out _).mono ?_
              rintro e w5 ⟨rfl, rfl⟩
              go_wp2_with fail
              go_ret2
              refine ⟨?_, Below.refl _ _⟩
              have h1 := comS_at j T.data.toList HNO.out (by unfold endAt; rw [← HQ1.out, ← HQ2.out]; rfl)
              rw [comS_4e HQ1.out.symm HQ2.out.symm] at h1
              rw [HCL.out, if_neg (by simp), if_neg (by simp), h1, HV.out]
              exact ret2_si (by simp [pre]) (by simp only [pre]; omega)
          · go_wp2_with fail
            refine (HC1.out _).mono ?_
            rintro e w3 ⟨rfl, rfl⟩
            go_wp2_with fail
            refine (HNL.out _).mono ?_
            rintro e w5 ⟨rfl, rfl⟩
            go_wp2_with fail
            go_ret2
            refine ⟨?_, Below.refl _ _⟩
            have h1 := comS_at j T.data.toList HNO.out (by unfold endAt; rw [← HQ1.out]; rfl)
            rw [comS_3e HQ1.out.symm] at h1
            rw [HCL.out, if_neg (by simp), if_neg (by simp), h1, HV.out]
            exact ret2_si (by simp [pre]) (by simp only [pre]; omega)
        · have hI2 : ¬ (j : Int) < (T.size : Int) := by omega
          have hj' : j = T.size := by omega
          have htl : comS T.data.toList = tailR T.data.toList := comS_tail _ (fun x hx => HNO.out x (by rw [size_list] at hx; omega))
          have HTL := Lib.hid htl
          clear hj' htl
          have ht := fun n (h : n ≤ T.size) => tail_at T n h
          have HTA := Lib.hid ht
          clear ht
          go_wp2_with fail
          generalize hw4 : World.alloc _ _ = w4
          have t1 : w4.heap[w3.heap.size]? = some (.cells #[.string ⟨#[45, 45, 33]⟩, .string ⟨#[45, 45]⟩, .string ⟨#[45]⟩] 9 (0, 0)) := by
            rw [← hw4]
            show (w3.heap.push _)[w3.heap.size]? = _; exact Array.getElem?_push_size
          have hb4 : Below w3.heap.size w3 w4 := by rw [← hw4]; exact below_alloc (Below.refl _ _) _
          have c0 : w4.cell? ⟨w3.heap.size, 0, none⟩ = some (.string ⟨#[45, 45, 33]⟩) := heap_cell t1 0
          have c1 : w4.cell? ⟨w3.heap.size, 1, none⟩ = some (.string ⟨#[45, 45]⟩) := heap_cell t1 1
          have c2 : w4.cell? ⟨w3.heap.size, 2, none⟩ = some (.string ⟨#[45]⟩) := heap_cell t1 2
          clear hw4 t1
          refine wp_loop_rounds 4 ?_
          have HB4 := Lib.hid hb4
          clear hb4
          by_cases h3 : 3 ≤ T.size
          · clear hlt
            obtain ⟨y, hy⟩ : ∃ y, [45, 45, 33].isSuffixOf T.data.toList = y := ⟨_, rfl⟩
            have HY := Lib.hid hy
            have hcmp : ((T.extract (T.size - 3) T.size).toList == [45, 45, 33]) = y := by rw [← hy]; exact tail_cmp T [45, 45, 33] 3 rfl (by omega)
            have hnl := fun W => qNul (T.extract 0 (T.size - 3)) (by rw [ByteArray.size_extract]; have := HTs.out; have := HSZ.out; omega) W
            rw [(HTA.out 3 (by omega)).2] at hnl
            obtain ⟨V, hV⟩ : ∃ V, V = bl (nulL (T.data.toList.take (T.size - 3))) := ⟨_, rfl⟩
            rw [← hV] at hnl
            rw [← size_list] at hV
            have HV := Lib.hid hV
            clear hV hy
            obtain ⟨N0, hN⟩ : ∃ N : Int, N = (T.size : Int) - 3 := ⟨_, rfl⟩
            have d1 : decide (0 ≤ N0) = true := decide_eq_true (by omega)
            have hNn : T.size - 3 = N0.toNat := by omega
            rw [hNn] at hcmp hnl
            have HNL := Lib.hid hnl
            have g1 : 0 ≤ N0 := by omega
            have g2 : N0 ≤ (T.size : Int) := by omega
            clear hnl hNn
            rw [rounds_succ]
            cases y
            · have HF0 := HY
              go_wp2_with fail
              rw [← hN]
              have HNN := Lib.hid hN
              clear hN
              go_quiet (fail)
              go_wp2_with fail
              clear d1 hcmp HNL HNN g1 g2 HV HY
              obtain ⟨y, hy⟩ : ∃ y, [45, 45].isSuffixOf T.data.toList = y := ⟨_, rfl⟩
              have HY := Lib.hid hy
              have hcmp : ((T.extract (T.size - 2) T.size).toList == [45, 45]) = y := by rw [← hy]; exact tail_cmp T [45, 45] 2 rfl (by omega)
              have hnl := fun W => qNul (T.extract 0 (T.size - 2)) (by rw [ByteArray.size_extract]; have := HTs.out; have := HSZ.out; omega) W
              rw [(HTA.out 2 (by omega)).2] at hnl
              obtain ⟨V, hV⟩ : ∃ V, V = bl (nulL (T.data.toList.take (T.size - 2))) := ⟨_, rfl⟩
              rw [← hV] at hnl
              rw [← size_list] at hV
              have HV := Lib.hid hV
              clear hV hy
              obtain ⟨N1, hN⟩ : ∃ N : Int, N = (T.size : Int) - 2 := ⟨_, rfl⟩
              have d1 : decide (0 ≤ N1) = true := decide_eq_true (by omega)
              have hNn : T.size - 2 = N1.toNat := by omega
              rw [hNn] at hcmp hnl
              have HNL := Lib.hid hnl
              have g1 : 0 ≤ N1 := by omega
              have g2 : N1 ≤ (T.size : Int) := by omega
              clear hnl hNn
              rw [rounds_succ]
              cases y
              · have HF1 := HY
                go_wp2_with fail
                rw [← hN]
                have HNN := Lib.hid hN
                clear hN
                go_quiet (fail)
                go_wp2_with fail
                clear d1 hcmp HNL HNN g1 g2 HV HY
                obtain ⟨y, hy⟩ : ∃ y, [45].isSuffixOf T.data.toList = y := ⟨_, rfl⟩
                have HY := Lib.hid hy
                have hcmp : ((T.extract (T.size - 1) T.size).toList == [45]) = y := by rw [← hy]; exact tail_cmp T [45] 1 rfl (by omega)
                have hnl := fun W => qNul (T.extract 0 (T.size - 1)) (by rw [ByteArray.size_extract]; have := HTs.out; have := HSZ.out; omega) W
                rw [(HTA.out 1 (by omega)).2] at hnl
                obtain ⟨V, hV⟩ : ∃ V, V = bl (nulL (T.data.toList.take (T.size - 1))) := ⟨_, rfl⟩
                rw [← hV] at hnl
                rw [← size_list] at hV
                have HV := Lib.hid hV
                clear hV hy
                obtain ⟨N2, hN⟩ : ∃ N : Int, N = (T.size : Int) - 1 := ⟨_, rfl⟩
                have d1 : decide (0 ≤ N2) = true := decide_eq_true (by omega)
                have hNn : T.size - 1 = N2.toNat := by omega
                rw [hNn] at hcmp hnl
                have HNL := Lib.hid hnl
                have g1 : 0 ≤ N2 := by omega
                have g2 : N2 ≤ (T.size : Int) := by omega
                clear hnl hNn
                rw [rounds_succ]
                cases y
                · have HF2 := HY
                  go_wp2_with fail
                  rw [← hN]
                  have HNN := Lib.hid hN
                  clear hN
                  go_quiet (fail)
                  go_wp2_with fail
                  clear d1 hcmp HNL HNN g1 g2 HV HY
                  rw [rounds_succ]
                  have HN := Lib.hid (fun W => qNul T (by have := HTs.out; have := HSZ.out; omega) W)
                  obtain ⟨V, hV⟩ : ∃ V, V = bl (nulL T.data.toList) := ⟨_, rfl⟩
                  rw [← hV] at HN
                  have HV := Lib.hid hV
                  clear hV
                  go_wp2_with fail
                  refine (HN.out _).mono ?_
                  rintro e w9 ⟨rfl, rfl⟩
                  go_wp2_with fail
                  go_ret2
                  refine ⟨?_, by first | exact HB4.out | exact _root_.Go.below_drewN HB4.out _ | exact _root_.Go.below_drewN (_root_.Go.below_drewN HB4.out _) _ | exact _root_.Go.below_drewN (_root_.Go.below_drewN (_root_.Go.below_drewN HB4.out _) _) _⟩
                  rw [HCL.out, if_neg (by simp), if_neg (by simp), HTL.out, HV.out]
                  unfold tailR
                  rw [if_neg (by rw [HF0.out]; simp), if_neg (by rw [HF1.out]; simp), if_neg (by rw [HF2.out]; simp)]
                  exact ret2_si rfl (by have := HTs.out; have := HK.out; simp only; rw [size_list]; omega)
                · go_wp2_with fail
                  rw [← hN]
                  have HNN := Lib.hid hN
                  clear hN
                  go_quiet (fail)

                  go_wp2_with fail
                  refine (HNL.out _).mono ?_
                  rintro e w9 ⟨rfl, rfl⟩
                  go_wp2_with fail
                  go_ret2
                  refine ⟨?_, by first | exact HB4.out | exact _root_.Go.below_drewN HB4.out _ | exact _root_.Go.below_drewN (_root_.Go.below_drewN HB4.out _) _ | exact _root_.Go.below_drewN (_root_.Go.below_drewN (_root_.Go.below_drewN HB4.out _) _) _⟩
                  rw [HCL.out, if_neg (by simp), if_neg (by simp), HTL.out, HV.out]
                  unfold tailR
                  rw [if_neg (by rw [HF0.out]; simp), if_neg (by rw [HF1.out]; simp), if_pos HY.out]
                  exact ret2_si rfl (by have := HTs.out; have := HK.out; simp only; rw [size_list]; omega)
              · go_wp2_with fail
                rw [← hN]
                have HNN := Lib.hid hN
                clear hN
                go_quiet (fail)

                go_wp2_with fail
                refine (HNL.out _).mono ?_
                rintro e w9 ⟨rfl, rfl⟩
                go_wp2_with fail
                go_ret2
                refine ⟨?_, by first | exact HB4.out | exact _root_.Go.below_drewN HB4.out _ | exact _root_.Go.below_drewN (_root_.Go.below_drewN HB4.out _) _ | exact _root_.Go.below_drewN (_root_.Go.below_drewN (_root_.Go.below_drewN HB4.out _) _) _⟩
                rw [HCL.out, if_neg (by simp), if_neg (by simp), HTL.out, HV.out]
                unfold tailR
                rw [if_neg (by rw [HF0.out]; simp), if_pos HY.out]
                exact ret2_si rfl (by have := HTs.out; have := HK.out; simp only; rw [size_list]; omega)
            · go_wp2_with fail
              rw [← hN]
              have HNN := Lib.hid hN
              clear hN
              go_quiet (fail)

              go_wp2_with fail
              refine (HNL.out _).mono ?_
              rintro e w9 ⟨rfl, rfl⟩
              go_wp2_with fail
              go_ret2
              refine ⟨?_, by first | exact HB4.out | exact _root_.Go.below_drewN HB4.out _ | exact _root_.Go.below_drewN (_root_.Go.below_drewN HB4.out _) _ | exact _root_.Go.below_drewN (_root_.Go.below_drewN (_root_.Go.below_drewN HB4.out _) _) _⟩
              rw [HCL.out, if_neg (by simp), if_neg (by simp), HTL.out, HV.out]
              unfold tailR
              rw [if_pos HY.out]
              exact ret2_si rfl (by have := HTs.out; have := HK.out; simp only; rw [size_list]; omega)
          · by_cases h2 : 2 ≤ T.size
            · clear hlt
              have hf : [45, 45, 33].isSuffixOf T.data.toList = false := by
                rw [Bool.eq_false_iff]
                intro h
                have h2 := suf_len h
                rw [size_list] at h2
                simp at h2
                omega
              have HF0 := Lib.hid hf
              clear hf
              rw [rounds_succ]
              go_wp2_with fail
              obtain ⟨N0, hN⟩ : ∃ N : Int, N = (T.size : Int) - 3 := ⟨_, rfl⟩
              rw [← hN]
              have d1 : decide (0 ≤ N0) = false := decide_eq_false (by omega)
              have HNN := Lib.hid hN
              clear hN
              go_quiet (fail)
              go_wp2_with fail
              clear d1
              obtain ⟨y, hy⟩ : ∃ y, [45, 45].isSuffixOf T.data.toList = y := ⟨_, rfl⟩
              have HY := Lib.hid hy
              have hcmp : ((T.extract (T.size - 2) T.size).toList == [45, 45]) = y := by rw [← hy]; exact tail_cmp T [45, 45] 2 rfl (by omega)
              have hnl := fun W => qNul (T.extract 0 (T.size - 2)) (by rw [ByteArray.size_extract]; have := HTs.out; have := HSZ.out; omega) W
              rw [(HTA.out 2 (by omega)).2] at hnl
              obtain ⟨V, hV⟩ : ∃ V, V = bl (nulL (T.data.toList.take (T.size - 2))) := ⟨_, rfl⟩
              rw [← hV] at hnl
              rw [← size_list] at hV
              have HV := Lib.hid hV
              clear hV hy
              obtain ⟨N1, hN⟩ : ∃ N : Int, N = (T.size : Int) - 2 := ⟨_, rfl⟩
              have d1 : decide (0 ≤ N1) = true := decide_eq_true (by omega)
              have hNn : T.size - 2 = N1.toNat := by omega
              rw [hNn] at hcmp hnl
              have HNL := Lib.hid hnl
              have g1 : 0 ≤ N1 := by omega
              have g2 : N1 ≤ (T.size : Int) := by omega
              clear hnl hNn
              rw [rounds_succ]
              cases y
              · have HF1 := HY
                go_wp2_with fail
                rw [← hN]
                have HNN := Lib.hid hN
                clear hN
                go_quiet (fail)
                go_wp2_with fail
                clear d1 hcmp HNL HNN g1 g2 HV HY
                obtain ⟨y, hy⟩ : ∃ y, [45].isSuffixOf T.data.toList = y := ⟨_, rfl⟩
                have HY := Lib.hid hy
                have hcmp : ((T.extract (T.size - 1) T.size).toList == [45]) = y := by rw [← hy]; exact tail_cmp T [45] 1 rfl (by omega)
                have hnl := fun W => qNul (T.extract 0 (T.size - 1)) (by rw [ByteArray.size_extract]; have := HTs.out; have := HSZ.out; omega) W
                rw [(HTA.out 1 (by omega)).2] at hnl
                obtain ⟨V, hV⟩ : ∃ V, V = bl (nulL (T.data.toList.take (T.size - 1))) := ⟨_, rfl⟩
                rw [← hV] at hnl
                rw [← size_list] at hV
                have HV := Lib.hid hV
                clear hV hy
                obtain ⟨N2, hN⟩ : ∃ N : Int, N = (T.size : Int) - 1 := ⟨_, rfl⟩
                have d1 : decide (0 ≤ N2) = true := decide_eq_true (by omega)
                have hNn : T.size - 1 = N2.toNat := by omega
                rw [hNn] at hcmp hnl
                have HNL := Lib.hid hnl
                have g1 : 0 ≤ N2 := by omega
                have g2 : N2 ≤ (T.size : Int) := by omega
                clear hnl hNn
                rw [rounds_succ]
                cases y
                · have HF2 := HY
                  go_wp2_with fail
                  rw [← hN]
                  have HNN := Lib.hid hN
                  clear hN
                  go_quiet (fail)
                  go_wp2_with fail
                  clear d1 hcmp HNL HNN g1 g2 HV HY
                  rw [rounds_succ]
                  have HN := Lib.hid (fun W => qNul T (by have := HTs.out; have := HSZ.out; omega) W)
                  obtain ⟨V, hV⟩ : ∃ V, V = bl (nulL T.data.toList) := ⟨_, rfl⟩
                  rw [← hV] at HN
                  have HV := Lib.hid hV
                  clear hV
                  go_wp2_with fail
                  refine (HN.out _).mono ?_
                  rintro e w9 ⟨rfl, rfl⟩
                  go_wp2_with fail
                  go_ret2
                  refine ⟨?_, by first | exact HB4.out | exact _root_.Go.below_drewN HB4.out _ | exact _root_.Go.below_drewN (_root_.Go.below_drewN HB4.out _) _ | exact _root_.Go.below_drewN (_root_.Go.below_drewN (_root_.Go.below_drewN HB4.out _) _) _⟩
                  rw [HCL.out, if_neg (by simp), if_neg (by simp), HTL.out, HV.out]
                  unfold tailR
                  rw [if_neg (by rw [HF0.out]; simp), if_neg (by rw [HF1.out]; simp), if_neg (by rw [HF2.out]; simp)]
                  exact ret2_si rfl (by have := HTs.out; have := HK.out; simp only; rw [size_list]; omega)
                · go_wp2_with fail
                  rw [← hN]
                  have HNN := Lib.hid hN
                  clear hN
                  go_quiet (fail)

                  go_wp2_with fail
                  refine (HNL.out _).mono ?_
                  rintro e w9 ⟨rfl, rfl⟩
                  go_wp2_with fail
                  go_ret2
                  refine ⟨?_, by first | exact HB4.out | exact _root_.Go.below_drewN HB4.out _ | exact _root_.Go.below_drewN (_root_.Go.below_drewN HB4.out _) _ | exact _root_.Go.below_drewN (_root_.Go.below_drewN (_root_.Go.below_drewN HB4.out _) _) _⟩
                  rw [HCL.out, if_neg (by simp), if_neg (by simp), HTL.out, HV.out]
                  unfold tailR
                  rw [if_neg (by rw [HF0.out]; simp), if_neg (by rw [HF1.out]; simp), if_pos HY.out]
                  exact ret2_si rfl (by have := HTs.out; have := HK.out; simp only; rw [size_list]; omega)
              · go_wp2_with fail
                rw [← hN]
                have HNN := Lib.hid hN
                clear hN
                go_quiet (fail)

                go_wp2_with fail
                refine (HNL.out _).mono ?_
                rintro e w9 ⟨rfl, rfl⟩
                go_wp2_with fail
                go_ret2
                refine ⟨?_, by first | exact HB4.out | exact _root_.Go.below_drewN HB4.out _ | exact _root_.Go.below_drewN (_root_.Go.below_drewN HB4.out _) _ | exact _root_.Go.below_drewN (_root_.Go.below_drewN (_root_.Go.below_drewN HB4.out _) _) _⟩
                rw [HCL.out, if_neg (by simp), if_neg (by simp), HTL.out, HV.out]
                unfold tailR
                rw [if_neg (by rw [HF0.out]; simp), if_pos HY.out]
                exact ret2_si rfl (by have := HTs.out; have := HK.out; simp only; rw [size_list]; omega)
            · by_cases h1 : 1 ≤ T.size
              · clear hlt
                have hf : [45, 45, 33].isSuffixOf T.data.toList = false := by
                  rw [Bool.eq_false_iff]
                  intro h
                  have h2 := suf_len h
                  rw [size_list] at h2
                  simp at h2
                  omega
                have HF0 := Lib.hid hf
                clear hf
                rw [rounds_succ]
                go_wp2_with fail
                obtain ⟨N0, hN⟩ : ∃ N : Int, N = (T.size : Int) - 3 := ⟨_, rfl⟩
                rw [← hN]
                have d1 : decide (0 ≤ N0) = false := decide_eq_false (by omega)
                have HNN := Lib.hid hN
                clear hN
                go_quiet (fail)
                go_wp2_with fail
                clear d1
                have hf : [45, 45].isSuffixOf T.data.toList = false := by
                  rw [Bool.eq_false_iff]
                  intro h
                  have h2 := suf_len h
                  rw [size_list] at h2
                  simp at h2
                  omega
                have HF1 := Lib.hid hf
                clear hf
                rw [rounds_succ]
                go_wp2_with fail
                obtain ⟨N1, hN⟩ : ∃ N : Int, N = (T.size : Int) - 2 := ⟨_, rfl⟩
                rw [← hN]
                have d1 : decide (0 ≤ N1) = false := decide_eq_false (by omega)
                have HNN := Lib.hid hN
                clear hN
                go_quiet (fail)
                go_wp2_with fail
                clear d1
                obtain ⟨y, hy⟩ : ∃ y, [45].isSuffixOf T.data.toList = y := ⟨_, rfl⟩
                have HY := Lib.hid hy
                have hcmp : ((T.extract (T.size - 1) T.size).toList == [45]) = y := by rw [← hy]; exact tail_cmp T [45] 1 rfl (by omega)
                have hnl := fun W => qNul (T.extract 0 (T.size - 1)) (by rw [ByteArray.size_extract]; have := HTs.out; have := HSZ.out; omega) W
                rw [(HTA.out 1 (by omega)).2] at hnl
                obtain ⟨V, hV⟩ : ∃ V, V = bl (nulL (T.data.toList.take (T.size - 1))) := ⟨_, rfl⟩
                rw [← hV] at hnl
                rw [← size_list] at hV
                have HV := Lib.hid hV
                clear hV hy
                obtain ⟨N2, hN⟩ : ∃ N : Int, N = (T.size : Int) - 1 := ⟨_, rfl⟩
                have d1 : decide (0 ≤ N2) = true := decide_eq_true (by omega)
                have hNn : T.size - 1 = N2.toNat := by omega
                rw [hNn] at hcmp hnl
                have HNL := Lib.hid hnl
                have g1 : 0 ≤ N2 := by omega
                have g2 : N2 ≤ (T.size : Int) := by omega
                clear hnl hNn
                rw [rounds_succ]
                cases y
                · have HF2 := HY
                  go_wp2_with fail
                  rw [← hN]
                  have HNN := Lib.hid hN
                  clear hN
                  go_quiet (fail)
                  go_wp2_with fail
                  clear d1 hcmp HNL HNN g1 g2 HV HY
                  rw [rounds_succ]
                  have HN := Lib.hid (fun W => qNul T (by have := HTs.out; have := HSZ.out; omega) W)
                  obtain ⟨V, hV⟩ : ∃ V, V = bl (nulL T.data.toList) := ⟨_, rfl⟩
                  rw [← hV] at HN
                  have HV := Lib.hid hV
                  clear hV
                  go_wp2_with fail
                  refine (HN.out _).mono ?_
                  rintro e w9 ⟨rfl, rfl⟩
                  go_wp2_with fail
                  go_ret2
                  refine ⟨?_, by first | exact HB4.out | exact _root_.Go.below_drewN HB4.out _ | exact _root_.Go.below_drewN (_root_.Go.below_drewN HB4.out _) _ | exact _root_.Go.below_drewN (_root_.Go.below_drewN (_root_.Go.below_drewN HB4.out _) _) _⟩
                  rw [HCL.out, if_neg (by simp), if_neg (by simp), HTL.out, HV.out]
                  unfold tailR
                  rw [if_neg (by rw [HF0.out]; simp), if_neg (by rw [HF1.out]; simp), if_neg (by rw [HF2.out]; simp)]
                  exact ret2_si rfl (by have := HTs.out; have := HK.out; simp only; rw [size_list]; omega)
                · go_wp2_with fail
                  rw [← hN]
                  have HNN := Lib.hid hN
                  clear hN
                  go_quiet (fail)

                  go_wp2_with fail
                  refine (HNL.out _).mono ?_
                  rintro e w9 ⟨rfl, rfl⟩
                  go_wp2_with fail
                  go_ret2
                  refine ⟨?_, by first | exact HB4.out | exact _root_.Go.below_drewN HB4.out _ | exact _root_.Go.below_drewN (_root_.Go.below_drewN HB4.out _) _ | exact _root_.Go.below_drewN (_root_.Go.below_drewN (_root_.Go.below_drewN HB4.out _) _) _⟩
                  rw [HCL.out, if_neg (by simp), if_neg (by simp), HTL.out, HV.out]
                  unfold tailR
                  rw [if_neg (by rw [HF0.out]; simp), if_neg (by rw [HF1.out]; simp), if_pos HY.out]
                  exact ret2_si rfl (by have := HTs.out; have := HK.out; simp only; rw [size_list]; omega)
              · clear hlt
                have hf : [45, 45, 33].isSuffixOf T.data.toList = false := by
                  rw [Bool.eq_false_iff]
                  intro h
                  have h2 := suf_len h
                  rw [size_list] at h2
                  simp at h2
                  omega
                have HF0 := Lib.hid hf
                clear hf
                rw [rounds_succ]
                go_wp2_with fail
                obtain ⟨N0, hN⟩ : ∃ N : Int, N = (T.size : Int) - 3 := ⟨_, rfl⟩
                rw [← hN]
                have d1 : decide (0 ≤ N0) = false := decide_eq_false (by omega)
                have HNN := Lib.hid hN
                clear hN
                go_quiet (fail)
                go_wp2_with fail
                clear d1
                have hf : [45, 45].isSuffixOf T.data.toList = false := by
                  rw [Bool.eq_false_iff]
                  intro h
                  have h2 := suf_len h
                  rw [size_list] at h2
                  simp at h2
                  omega
                have HF1 := Lib.hid hf
                clear hf
                rw [rounds_succ]
                go_wp2_with fail
                obtain ⟨N1, hN⟩ : ∃ N : Int, N = (T.size : Int) - 2 := ⟨_, rfl⟩
                rw [← hN]
                have d1 : decide (0 ≤ N1) = false := decide_eq_false (by omega)
                have HNN := Lib.hid hN
                clear hN
                go_quiet (fail)
                go_wp2_with fail
                clear d1
                have hf : [45].isSuffixOf T.data.toList = false := by
                  rw [Bool.eq_false_iff]
                  intro h
                  have h2 := suf_len h
                  rw [size_list] at h2
                  simp at h2
                  omega
                have HF2 := Lib.hid hf
                clear hf
                rw [rounds_succ]
                go_wp2_with fail
                obtain ⟨N2, hN⟩ : ∃ N : Int, N = (T.size : Int) - 1 := ⟨_, rfl⟩
                rw [← hN]
                have d1 : decide (0 ≤ N2) = false := decide_eq_false (by omega)
                have HNN := Lib.hid hN
                clear hN
                go_quiet (fail)
                go_wp2_with fail
                clear d1
                rw [rounds_succ]
                have HN := Lib.hid (fun W => qNul T (by have := HTs.out; have := HSZ.out; omega) W)
                obtain ⟨V, hV⟩ : ∃ V, V = bl (nulL T.data.toList) := ⟨_, rfl⟩
                rw [← hV] at HN
                have HV := Lib.hid hV
                clear hV
                go_wp2_with fail
                refine (HN.out _).mono ?_
                rintro e w9 ⟨rfl, rfl⟩
                go_wp2_with fail
                go_ret2
                refine ⟨?_, by first | exact HB4.out | exact _root_.Go.below_drewN HB4.out _ | exact _root_.Go.below_drewN (_root_.Go.below_drewN HB4.out _) _ | exact _root_.Go.below_drewN (_root_.Go.below_drewN (_root_.Go.below_drewN HB4.out _) _) _⟩
                rw [HCL.out, if_neg (by simp), if_neg (by simp), HTL.out, HV.out]
                unfold tailR
                rw [if_neg (by rw [HF0.out]; simp), if_neg (by rw [HF1.out]; simp), if_neg (by rw [HF2.out]; simp)]
                exact ret2_si rfl (by have := HTs.out; have := HK.out; simp only; rw [size_list]; omega)
    · go_enter Tryz.func19, Tryz.ntmps19
      go_wp2_with fail
      refine (HC.out w).mono ?_
      rintro e w1 ⟨rfl, rfl⟩
      go_wp2_with fail
      rw [← HT.out]
      refine (HB1.out _).mono ?_
      rintro e w2 ⟨rfl, rfl⟩
      go_wp2_with fail
      refine (HB2.out _).mono ?_
      rintro e w3 ⟨rfl, rfl⟩
      go_wp2_with fail
      go_ret2
      refine ⟨?_, Below.refl _ _⟩
      rw [HCL.out]
      exact ret2_si rfl (by simp)
  · go_enter Tryz.func19, Tryz.ntmps19
    go_wp2_with fail
    refine (HC.out w).mono ?_
    rintro e w1 ⟨rfl, rfl⟩
    go_wp2_with fail
    rw [← HT.out]
    refine (HB1.out _).mono ?_
    rintro e w2 ⟨rfl, rfl⟩
    go_wp2_with fail
    go_ret2
    refine ⟨?_, Below.refl _ _⟩
    rw [HCL.out]
    exact ret2_si rfl (by simp)
end Go.Proofs.YtofiaodpjpjedaaGreatDoor

namespace Go.Proofs.YtofiaodpjpjedaaGreatDoor
open Go.RowKit Go.Shelf Go.Lib
set_option maxHeartbeats 4000000
set_option maxRecDepth 100000

theorem lawComments (s : ByteArray) (a : Int) (m : Int) (w : World) (hm : w.cell? ⟨1, 0, none⟩ = some (.int .i64 m)) (hc : CtlW w) :
    Calls Tryz.prog 4 #[.string s, .int .i64 a] w fun e w' => e = .returned (.bool true) ∧ Below w.heap.size w w' := by
  have HM := Lib.hid hm
  have HC := Lib.hid hc
  have HS1 := Lib.hid (small02 s)
  have HK := Lib.hid (known02 m w hc hm)
  clear hm hc
  by_cases h1 : s.size ≤ 4096
  · rw [decide_eq_true h1] at HS1
    have c1 := fun W h => commentC s a m (by omega) W h
    have c2 := fun W h => bogusC s a m (by omega) W h
    have c3 := fun W h => cdata s a m (by omega) W h
    have r1 := fun W => qComment s a (by omega) W
    have r2 := fun W => qBogus s a (by omega) W
    have r3 := fun W => qCdata s a (by omega) W
    obtain ⟨V1, hV1⟩ : ∃ V, V = bl (comL (tlS s a)).1 := ⟨_, rfl⟩
    obtain ⟨V2, hV2⟩ : ∃ V, V = bl (nulL (utL [62] (tlS s a)).1) := ⟨_, rfl⟩
    obtain ⟨V3, hV3⟩ : ∃ V, V = bl (utL [93, 93, 62] (tlS s a)).1 := ⟨_, rfl⟩
    obtain ⟨n1, hn1⟩ : ∃ n : Int, n = ((clip s a + (comL (tlS s a)).2 : Nat) : Int) := ⟨_, rfl⟩
    obtain ⟨n2, hn2⟩ : ∃ n : Int, n = ((clip s a + (utL [62] (tlS s a)).2 : Nat) : Int) := ⟨_, rfl⟩
    obtain ⟨n3, hn3⟩ : ∃ n : Int, n = ((clip s a + (utL [93, 93, 62] (tlS s a)).2 : Nat) : Int) := ⟨_, rfl⟩
    simp only [← hV1, ← hn1] at c1 r1
    simp only [← hV2, ← hn2] at c2 r2
    simp only [← hV3, ← hn3] at c3 r3
    have C1 := Lib.hid c1
    have C2 := Lib.hid c2
    have C3 := Lib.hid c3
    have R1 := Lib.hid r1
    have R2 := Lib.hid r2
    have R3 := Lib.hid r3
    clear c1 c2 c3 r1 r2 r3 hV1 hV2 hV3 hn1 hn2 hn3 h1
    go_enter Tryz.func4, Tryz.ntmps4
    go_wp2_with fail
    refine (HS1.out w).mono ?_
    rintro e w1 ⟨rfl, rfl⟩
    have hb0 := Below.refl w1.heap.size w1
    go_wp2_with fail
    refine (C1.out w1 HM.out).mono ?_
    rintro e w2 ⟨rfl, hb2⟩
    go_wp2_with fail
    refine (kof _ _ w2).mono ?_
    rintro e w3 ⟨rfl, hs⟩
    have hb3 := below_next hb2 hs
    clear hs
    go_wp2_with fail
    refine (R1.out w3).mono ?_
    rintro e w4 ⟨rfl, hs⟩
    have hb4 := below_next hb3 hs
    clear hs
    go_wp2_with fail
    refine (kof _ _ w4).mono ?_
    rintro e w5 ⟨rfl, hs⟩
    have hb5 := below_next hb4 hs
    clear hs
    go_wp2_with fail
    refine (C2.out w5 (carry HM.out hb5)).mono ?_
    rintro e w6 ⟨rfl, hs⟩
    have hb6 := below_next hb5 hs
    clear hs
    go_wp2_with fail
    refine (kof _ _ w6).mono ?_
    rintro e w7 ⟨rfl, hs⟩
    have hb7 := below_next hb6 hs
    clear hs
    go_wp2_with fail
    refine (R2.out w7).mono ?_
    rintro e w8 ⟨rfl, rfl⟩
    go_wp2_with fail
    refine (kof _ _ w8).mono ?_
    rintro e w9 ⟨rfl, hs⟩
    have hb9 := below_next hb7 hs
    clear hs
    go_wp2_with fail
    refine (C3.out w9 (carry HM.out hb9)).mono ?_
    rintro e w10 ⟨rfl, hs⟩
    have hb10 := below_next hb9 hs
    clear hs
    go_wp2_with fail
    refine (kof _ _ w10).mono ?_
    rintro e w11 ⟨rfl, hs⟩
    have hb11 := below_next hb10 hs
    clear hs
    go_wp2_with fail
    refine (R3.out w11).mono ?_
    rintro e w12 ⟨rfl, rfl⟩
    go_wp2_with fail
    refine (kof _ _ w12).mono ?_
    rintro e w13 ⟨rfl, hs⟩
    have hb13 := below_next hb11 hs
    clear hs
    have HKn := Lib.hid (known02 m w13 (HC.out.below hb13) (carry HM.out hb13))
    go_wp2_with fail
    refine HKn.out.mono ?_
    rintro e w14 ⟨rfl, hs⟩
    go_wp2_with fail
    go_ret
    exact ⟨rfl, below_next hb13 hs⟩
  · rw [decide_eq_false h1] at HS1
    clear h1
    go_enter Tryz.func4, Tryz.ntmps4
    go_wp2_with fail
    refine (HS1.out w).mono ?_
    rintro e w1 ⟨rfl, rfl⟩
    go_wp2_with fail
    refine HK.out.mono ?_
    rintro e w4 ⟨rfl, hb⟩
    go_wp2_with fail
    go_ret
    exact ⟨rfl, hb⟩
end Go.Proofs.YtofiaodpjpjedaaGreatDoor

namespace Go.Proofs.YtofiaodpjpjedaaGreatDoor
open Go.ChangeShapes Go.WideShapes Go.ChangeAt Go.RowKit
set_option maxRecDepth 100000

def laidC : List (String × DataW Unit) := [("unicode/utf8.acceptRanges", Rows.laid_unicode_utf8_acceptRanges), ("thicket/text.controls", Rows.laid_thicket_text_controls), ("unicode/utf8.first", Rows.laid_unicode_utf8_first)]
theorem doorC_os (os : Os) : (World.laidAll Tryz.prog os laidC).os = os := World.laidAll_os _ _ _
theorem doorC_met (os : Os) (args : Array Value) : laidMetH Tryz.prog laidC ((World.laidAll Tryz.prog os laidC).forCall (fun _ _ => 0) ⟨#[], args, []⟩).memory := by
  rw [MakeChecks.laidMetH_plain _ _ _ (by kernel_rfl)]
  exact laidMet_laidAll _ (by kernel_rfl) (by kernel_rfl)

theorem gCtl : Tryz.prog.globalNamed "thicket/text.controls" = some 0 := by kernel_rfl
theorem tCtl : (Tryz.prog.globals[0]?).map (·.type) = some 99 := by kernel_rfl
theorem cCtl : Tryz.prog.cellsOf 21 = 1 := by kernel_rfl
theorem ctlD : (Rows.laid_thicket_text_controls : DataW Unit) = .agg (ctlT.map fun z => .lit (.int .i32 z)) := rfl

theorem ctl_of_laid {W : World} (h : laidMetH Tryz.prog laidC W) : CtlW W := by
  rw [MakeChecks.laidMetH_plain _ _ _ (by kernel_rfl)] at h
  obtain ⟨ps, ⟨g0, t0, cs0, f0, p0, q0, hg0, ht0, hv0, hd0, ⟨g1, t1, cs1, f1, p1, q1, hg1, ht1, hv1, hd1, _, _⟩, _⟩, _⟩ := h
  obtain rfl := Option.some.inj (gCtl.symm.trans hg1)
  obtain rfl := Option.some.inj (tCtl.symm.trans ht1)
  obtain ⟨xs, m1, rfl, hx1, hlen, hn, hel⟩ := DataW.trod_array Tryz.underlying99 hd1
  intro k hk
  have h1 := hel k hk
  rw [cCtl, Nat.mul_one] at h1
  have hxk : xs[k]? = some (xs[k]'(by omega)) := List.getElem?_eq_getElem (by omega)
  rw [hxk] at h1
  obtain ⟨z, e1, e2, _⟩ := DataW.trod_int Tryz.underlying21 h1
  have hz : z = ctlT.getD k 0 := by
    have hx2 := congrArg Prod.fst hx1
    rw [ctlD] at hx2
    simp only [DataW.agg.injEq] at hx2
    have h3 : (ctlT.map fun z => (DataW.lit (.int .i32 z) : DataW Unit))[k]? = (xs.map (·.1))[k]? := by rw [hx2]
    rw [List.getElem?_map, List.getElem?_map, hxk, e2] at h3
    have hk2 : k < ctlT.length := hk
    rw [List.getElem?_eq_getElem hk2] at h3
    simp at h3
    rw [List.getD_eq_getElem?_getD, List.getElem?_eq_getElem hk2]
    simpa using h3.symm
  rw [World.var?_cell hg1 hv1 k, ← hz]
  have h4 : (cs1.toList.drop k)[0]? = some (.int .i32 z) := by
    have := congrArg (fun l => l[0]?) e1
    simp only [List.getElem?_take] at this
    simpa using this
  rw [List.getElem?_drop, Nat.add_zero, Array.getElem?_toList] at h4
  exact h4

/-- A row whose start is said to hold more, with the shapes and the listed variables at hand. -/
theorem handedC {H : Type} {enc : TypeId × Value → H} {a : Assume} {os : Os} {f : FuncId} {fn : Func} {s : ChangeSpec} {conds : List PathCond} {apart fresh handsOn again : Bool}
    (own : ownKnob Tryz.prog.godebug = none) (started : os.Started) (noInit : Tryz.prog.inits.idxOf? f = none) (hfn : Tryz.prog.funcs[f]? = some fn)
    (witness : ∃ (w : World) (tape : Tape) (i : Input), w.os = os ∧ (w.forCall tape i).Shaped Tryz.prog ∧ i.vars = [] ∧ Input.okWide Tryz.prog (w.forCall tape i) .any w.heap.size f i ∧
      ((s.pre enc Tryz.prog fn conds apart (w.forCall tape i).memory i.args ∧ laidMetH Tryz.prog laidC (w.forCall tape i).memory) ∧ sizedMet enc Tryz.prog fn (OpenSpec.ofChange s) apart (w.forCall tape i).memory i.args) ∧ a.holds Tryz.prog (lone (Frame.enter Tryz.prog f i.args .normal) [] (w.forCall tape i)))
    (walk : ∀ (W : World) (base : Nat) (args : Array Value) (ds gs : List (DataW H)) (before : List MemPlace),
      (∀ (j : Nat) t v, fn.params[j]? = some t → args[j]? = some v → Value.okWide Tryz.prog W .any base t v) →
      DataW.Whole enc Tryz.prog fn.params.toList s.vars apart W args.toList ds gs before → W.ShapedOpen Tryz.prog → CtlW W →
      Calls Tryz.prog f args W fun e W' => ∃ v, e = .returned v ∧ s.post enc Tryz.prog fn apart fresh handsOn again W args v W') :
    ReturnsInHanded a Tryz.checked os f .any (fun w args => (s.pre enc Tryz.prog fn conds apart w args ∧ laidMetH Tryz.prog laidC w) ∧ sizedMet enc Tryz.prog fn (OpenSpec.ofChange s) apart w args) (s.post enc Tryz.prog fn apart fresh handsOn again) := by
  refine returnsInHanded_of_calls (C := Tryz.checked) own started (by exact noInit) witness ?_
  intro w tape i _ hsh _ hok hpre _
  obtain ⟨_, _, _, fn', hfn', _, _, _, _, hval⟩ := hok
  obtain rfl : fn' = fn := Option.some.inj (hfn'.symm.trans hfn)
  obtain ⟨⟨⟨ds, gs, before, hw, _⟩, hX⟩, _⟩ := hpre
  refine (walk (w.forCall tape i) w.heap.size i.args ds gs before hval (DataW.Whole.of_heap (w' := w.forCall tape i) (by rfl) hw) hsh (ctl_of_laid (laidMetH.of_heap (w' := w.forCall tape i) (by rfl) hX))).mono fun e W' ⟨v, he, hp⟩ => ?_
  subst he
  exact ChangeSpec.post_blind hp
end Go.Proofs.YtofiaodpjpjedaaGreatDoor
