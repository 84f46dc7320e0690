/-
  Data of comments is read back; what any comment is read as is such data. No program in sight.
  The document's own prefix test.
  ScanCommentsBack: the data of a comment is read back, and what any comment is read as is such data.
  A script element in a comment of script data: where script data ends then. No program in sight.
  ScanEscaped: a script element in a comment of script data.
  The frame of the rows that list the table of the controls as well.
-/
import Derived.Test.YtofiaodpjpjedaaGreatDoorY03
import Derived.Test.YtofiaodpjpjedaaGreatDoorY27
import Derived.Test.YtofiaodpjpjedaaGreatDoorY29
import Derived.Test.YtofiaodpjpjedaaGreatDoorKs3
import Derived.Test.YtofiaodpjpjedaaGreatDoorY13
import Derived.Test.YtofiaodpjpjedaaGreatDoorY28
namespace Go.Proofs.YtofiaodpjpjedaaGreatDoor
open Go.Lib
set_option maxRecDepth 100000

def noEnd : List UInt8 → Bool
  | [] => true
  | b :: t => !([45, 45, 62].isPrefixOf (b :: t)) && !([45, 45, 33, 62].isPrefixOf (b :: t)) && noEnd t
def fitL (l : List UInt8) : Bool := !([62].isPrefixOf l) && !([45, 62].isPrefixOf l) && noEnd l

/-- Where no comment ends, a byte is data. -/
theorem comS_or (b : UInt8) (t : List UInt8) : (comS (b :: t)).1 = [] ∨ (comS (b :: t) = pre (nul1 b) 1 (comS t) ∧ [45, 45, 62].isPrefixOf (b :: t) = false ∧ [45, 45, 33, 62].isPrefixOf (b :: t) = false) := by
  rw [comS]
  by_cases h1 : [45, 45, 62].isPrefixOf (b :: t) = true
  · rw [if_pos h1]; exact .inl rfl
  · rw [if_neg h1]
    by_cases h2 : [45, 45, 33, 62].isPrefixOf (b :: t) = true
    · rw [if_pos h2]; exact .inl rfl
    · rw [if_neg h2]
      split
      · exact .inl rfl
      · split
        · exact .inl rfl
        · split
          · exact .inl rfl
          · exact .inr ⟨rfl, Bool.eq_false_iff.2 h1, Bool.eq_false_iff.2 h2⟩
theorem comS_hd {c : UInt8} (hc : c ≠ 239) : ∀ {t x : List UInt8}, (comS t).1 = c :: x → ∃ t', t = c :: t' ∧ (comS t').1 = x ∧ [45, 45, 62].isPrefixOf t = false ∧ [45, 45, 33, 62].isPrefixOf t = false
  | [], _, h => by cases h
  | b :: t, x, h => by
    rcases comS_or b t with h0 | ⟨h1, h2, h3⟩
    · rw [h0] at h; cases h
    · rw [h1] at h
      have h' : nul1 b ++ (comS t).1 = c :: x := h
      unfold nul1 at h'
      by_cases hb : b = 0
      · rw [if_pos hb] at h'
        injection h' with h4 _
        exact absurd h4.symm hc
      · rw [if_neg hb] at h'
        injection h' with h4 h5
        subst h4
        exact ⟨t, rfl, h5, h2, h3⟩
theorem pre_of {p l : List UInt8} (h : p.isPrefixOf l = true) : ∃ r, l = p ++ r := by
  obtain ⟨r, hr⟩ := List.isPrefixOf_iff_prefix.1 h
  exact ⟨r, hr.symm⟩
theorem comS_no1 (t : List UInt8) : [45, 45, 62].isPrefixOf (comS t).1 = false := by
  rw [Bool.eq_false_iff]
  intro h
  obtain ⟨r, hr⟩ := pre_of h
  obtain ⟨t1, rfl, h1, hn, _⟩ := comS_hd (by decide) hr
  obtain ⟨t2, rfl, h2, _, _⟩ := comS_hd (by decide) h1
  obtain ⟨t3, rfl, h3, _, _⟩ := comS_hd (by decide) h2
  simp [List.isPrefixOf] at hn
theorem comS_no2 (t : List UInt8) : [45, 45, 33, 62].isPrefixOf (comS t).1 = false := by
  rw [Bool.eq_false_iff]
  intro h
  obtain ⟨r, hr⟩ := pre_of h
  obtain ⟨t1, rfl, h1, _, hn⟩ := comS_hd (by decide) hr
  obtain ⟨t2, rfl, h2, _, _⟩ := comS_hd (by decide) h1
  obtain ⟨t3, rfl, h3, _, _⟩ := comS_hd (by decide) h2
  obtain ⟨t4, rfl, h4, _, _⟩ := comS_hd (by decide) h3
  simp [List.isPrefixOf] at hn
theorem comS_noEnd : ∀ t : List UInt8, noEnd (comS t).1 = true
  | [] => rfl
  | b :: t => by
    have ih := comS_noEnd t
    have n1 := comS_no1 (b :: t)
    have n2 := comS_no2 (b :: t)
    rcases comS_or b t with h0 | ⟨h1, _, _⟩
    · rw [h0]; rfl
    · rw [h1] at n1 n2 ⊢
      have e : (pre (nul1 b) 1 (comS t)).1 = nul1 b ++ (comS t).1 := rfl
      rw [e] at n1 n2 ⊢
      unfold nul1 at n1 n2 ⊢
      by_cases hb : b = 0
      · rw [if_pos hb]
        show noEnd (239 :: 191 :: 189 :: (comS t).1) = true
        simp [noEnd, List.isPrefixOf, ih]
      · rw [if_neg hb] at n1 n2 ⊢
        have n1' : [45, 45, 62].isPrefixOf (b :: (comS t).1) = false := n1
        have n2' : [45, 45, 33, 62].isPrefixOf (b :: (comS t).1) = false := n2
        show noEnd (b :: (comS t).1) = true
        rw [noEnd, n1', n2', ih]
        rfl
/-- What any comment is read as is data that is read back. -/
theorem com_fit (u : List UInt8) : fitL (comL u).1 = true := by
  unfold comL
  by_cases h1 : [62].isPrefixOf u = true
  · rw [if_pos h1]; rfl
  · rw [if_neg h1]
    by_cases h2 : [45, 62].isPrefixOf u = true
    · rw [if_pos h2]; rfl
    · rw [if_neg h2]
      unfold fitL
      have a1 : [62].isPrefixOf (comS u).1 = false := by
        rw [Bool.eq_false_iff]
        intro h
        obtain ⟨r, hr⟩ := pre_of h
        obtain ⟨t1, rfl, _, _, _⟩ := comS_hd (by decide) hr
        simp [List.isPrefixOf] at h1
      have a2 : [45, 62].isPrefixOf (comS u).1 = false := by
        rw [Bool.eq_false_iff]
        intro h
        obtain ⟨r, hr⟩ := pre_of h
        obtain ⟨t1, rfl, h3, _, _⟩ := comS_hd (by decide) hr
        obtain ⟨t2, rfl, _, _, _⟩ := comS_hd (by decide) h3
        simp [List.isPrefixOf] at h2
      rw [a1, a2, comS_noEnd]
      rfl

theorem no_end1 (b : UInt8) (d m : List UInt8) (h : [45, 45, 62].isPrefixOf (b :: d) = false) : [45, 45, 62].isPrefixOf (b :: (d ++ 45 :: 45 :: 62 :: m)) = false := by
  match d, h with
  | [], _ => simp [List.isPrefixOf]
  | [x], _ => simp [List.isPrefixOf]
  | x :: y :: d, h => simpa [List.isPrefixOf] using h
theorem no_end2 (b : UInt8) (d m : List UInt8) (h : [45, 45, 33, 62].isPrefixOf (b :: d) = false) : [45, 45, 33, 62].isPrefixOf (b :: (d ++ 45 :: 45 :: 62 :: m)) = false := by
  match d, h with
  | [], _ => simp [List.isPrefixOf]
  | [x], _ => simp [List.isPrefixOf]
  | [x, y], _ => simp [List.isPrefixOf]
  | x :: y :: z :: d, h => simpa [List.isPrefixOf] using h
theorem comS_back (m : List UInt8) : ∀ d : List UInt8, (∀ x ∈ d, x ≠ 0) → noEnd d = true → comS (d ++ 45 :: 45 :: 62 :: m) = (d, d.length + 3)
  | [], _, _ => by
    show comS (45 :: 45 :: 62 :: m) = _
    rw [comS, if_pos (by simp [List.isPrefixOf])]
    rfl
  | b :: d, hz, hn => by
    rw [noEnd, Bool.and_eq_true, Bool.and_eq_true] at hn
    obtain ⟨⟨h1, h2⟩, h3⟩ := hn
    have e1 := no_end1 b d m (by rw [Bool.not_eq_true'] at h1; exact h1)
    have e2 := no_end2 b d m (by rw [Bool.not_eq_true'] at h2; exact h2)
    have hl : 4 ≤ (b :: (d ++ 45 :: 45 :: 62 :: m)).length := by simp; omega
    have ih := comS_back m d (fun x hx => hz x (by simp [hx])) h3
    rw [List.cons_append, comS, e1, e2, if_neg Bool.false_ne_true, if_neg Bool.false_ne_true, if_neg (fun e => by rw [e] at hl; simp at hl), if_neg (fun e => by rw [e] at hl; simp at hl), if_neg (fun e => by rw [e] at hl; simp at hl), ih]
    have hb : nul1 b = [b] := by unfold nul1; exact if_neg (hz b (by simp))
    rw [hb]
    show ([b] ++ d, 1 + (d.length + 3)) = _
    rw [List.length_cons]
    congr 1
    omega
/-- Such data is read back. -/
theorem com_back (d m : List UInt8) (hz : ∀ x ∈ d, x ≠ 0) (hf : fitL d = true) : comL (d ++ 45 :: 45 :: 62 :: m) = (d, d.length + 3) := by
  unfold fitL at hf
  rw [Bool.and_eq_true, Bool.and_eq_true] at hf
  obtain ⟨⟨h1, h2⟩, h3⟩ := hf
  have a1 : [62].isPrefixOf (d ++ 45 :: 45 :: 62 :: m) = false := by
    match d, h1 with
    | [], _ => simp [List.isPrefixOf]
    | x :: d, h => simpa [List.isPrefixOf] using h
  have a2 : [45, 62].isPrefixOf (d ++ 45 :: 45 :: 62 :: m) = false := by
    match d, h2 with
    | [], _ => simp [List.isPrefixOf]
    | [x], _ => simp [List.isPrefixOf]
    | x :: y :: d, h => rw [Bool.not_eq_true'] at h; exact h
  unfold comL
  rw [a1, a2, if_neg Bool.false_ne_true, if_neg Bool.false_ne_true]
  exact comS_back m d hz h3
end Go.Proofs.YtofiaodpjpjedaaGreatDoor

namespace Go.Proofs.YtofiaodpjpjedaaGreatDoor
open Go.RowKit Go.Lib
set_option maxHeartbeats 1000000
set_option maxRecDepth 100000

theorem preB_cut (s p : ByteArray) : ((s.extract 0 p.size).toList == p.toList) = p.data.toList.isPrefixOf s.data.toList := by
  rw [Bool.eq_iff_iff, List.isPrefixOf_iff_prefix, List.prefix_iff_eq_take, beq_iff_eq, ByteArray.toList_eq, ByteArray.toList_eq, Lib.extract_data, List.drop_zero, Nat.sub_zero, size_list]
  exact ⟨fun h => h.symm, fun h => h.symm⟩
theorem preB_long {s p : ByteArray} (h : ¬ p.size ≤ s.size) : p.data.toList.isPrefixOf s.data.toList = false := by
  rw [Bool.eq_false_iff]
  intro e
  have := (List.isPrefixOf_iff_prefix.1 e).length_le
  rw [size_list, size_list] at this
  exact h this

theorem rBegins1 (s p : ByteArray) (w : World) :
    Calls Tryz.prog 67 #[.string s, .string p] w fun e w' => e = .returned (.bool (p.data.toList.isPrefixOf s.data.toList)) ∧ w' = w := by
  by_cases hl : p.size ≤ s.size
  · have hI : (p.size : Int) ≤ (s.size : Int) := by omega
    have HE := Lib.hid (preB_cut s p)
    go_enter Tryz.func67, Tryz.ntmps67
    go_wp2
    go_ret
    exact ⟨ret_bool HE.out, rfl⟩
  · have hI : (s.size : Int) < (p.size : Int) := by omega
    have HE := Lib.hid (preB_long hl)
    go_enter Tryz.func67, Tryz.ntmps67
    go_wp2
    go_ret
    exact ⟨ret_bool HE.out.symm, rfl⟩
end Go.Proofs.YtofiaodpjpjedaaGreatDoor

namespace Go.Proofs.YtofiaodpjpjedaaGreatDoor
open Go.RowKit Go.Shelf Go.Lib
set_option maxHeartbeats 4000000
set_option maxRecDepth 100000

theorem noEnd_drop {s : ByteArray} {k : Nat} (hk : k < s.size) : noEnd (s.data.toList.drop k) = (!([45, 45, 62].isPrefixOf (s.data.toList.drop k)) && !([45, 45, 33, 62].isPrefixOf (s.data.toList.drop k)) && noEnd (s.data.toList.drop (k + 1))) := by
  rw [drop_byte s k hk, noEnd]
theorem comS_len : ∀ t : List UInt8, (comS t).1.length ≤ 3 * t.length
  | [] => Nat.zero_le _
  | b :: t => by
    have ih := comS_len t
    rcases comS_or b t with h0 | ⟨h1, _, _⟩
    · rw [h0]; exact Nat.zero_le _
    · rw [h1]
      have e : (pre (nul1 b) 1 (comS t)).1 = nul1 b ++ (comS t).1 := rfl
      have : (nul1 b).length ≤ 3 := by unfold nul1; split <;> simp
      rw [e, List.length_append, List.length_cons]
      omega
theorem comL_len (t : List UInt8) : (comL t).1.length ≤ 3 * t.length := by
  unfold comL
  split
  · exact Nat.zero_le _
  · split
    · exact Nat.zero_le _
    · exact comS_len t
theorem tl0 (B : ByteArray) : clip B 0 = 0 ∧ tlS B 0 = B.data.toList := by
  have : clip B 0 = 0 := by unfold clip; omega
  exact ⟨this, by unfold tlS; rw [this]; rfl⟩
end Go.Proofs.YtofiaodpjpjedaaGreatDoor

namespace Go.Proofs.YtofiaodpjpjedaaGreatDoor
open Go.Lib
set_option maxRecDepth 100000

/-- Neither a "<" nor a "-". -/
def okT (u : List UInt8) : Prop := ∀ x ∈ u, x ≠ 60 ∧ x ≠ 45
def sOpen : List UInt8 := [60, 115, 99, 114, 105, 112, 116, 62]
def sClose : List UInt8 := [60, 47, 115, 99, 114, 105, 112, 116, 62]
def sBeg : List UInt8 := [60, 33, 45, 45]
def sEnd : List UInt8 := [45, 45, 62]
def sB : List UInt8 := [60, 47, 98, 62]

theorem esc_run0 (last r : List UInt8) : ∀ u, okT u → scL last 0 0 (u ++ r) = scL last 0 0 r
  | [], _ => rfl
  | b :: t, h => by
    rw [List.cons_append, scL_0b last b _ (h b (by simp)).1]
    exact esc_run0 last r t fun x hx => h x (by simp [hx])
theorem esc_run1 (last r : List UInt8) : ∀ u, okT u → scL last 1 0 (u ++ r) = scL last 1 0 r
  | [], _ => rfl
  | b :: t, h => by
    have hb := h b (by simp)
    rw [List.cons_append, scL_1b last b _ (closes_ne last _ hb.1) hb.2 (fun e => hb.1 e.1)]
    exact esc_run1 last r t fun x hx => h x (by simp [hx])
theorem esc_run2 (last r : List UInt8) : ∀ u, okT u → scL last 2 0 (u ++ r) = scL last 2 0 r
  | [], _ => rfl
  | b :: t, h => by
    have hb := h b (by simp)
    rw [List.cons_append, scL_2b last b _ hb.2 (fun e => hb.1 e.1)]
    exact esc_run2 last r t fun x hx => h x (by simp [hx])
theorem closes_s (r : List UInt8) : closesL sScript (sClose ++ r) = true := rfl
theorem closes_o (r : List UInt8) : closesL sScript (sOpen ++ r) = false := rfl
theorem closes_b (r : List UInt8) : closesL sScript (sB ++ r) = false := rfl
theorem esc_stop (m d : Nat) (hm : m < 2) (r : List UInt8) : scL sScript m d (sClose ++ r) = sClose ++ r := scL_stop _ m d _ hm (closes_s r)
/-- Through "script" and ">". -/
theorem esc_word (last : List UInt8) (m : Nat) (r : List UInt8) : scW last m (sScript ++ 62 :: r) = scL last (3 - m) 0 r := by
  have h1 : wordN (sScript ++ 62 :: r) = 6 := rfl
  have h2 : lowL ((sScript ++ 62 :: r).take 6) = sScript := rfl
  rw [scW_yes last m _ r 62 (by rw [h1]; rfl) (by decide), h1, h2, if_pos rfl]
theorem esc_open0 (r : List UInt8) : scL sScript 0 0 (sOpen ++ r) = scL sScript 0 0 (sScript ++ 62 :: r) := scL_0 sScript 0 60 (sScript ++ 62 :: r) (closes_o r) rfl
theorem esc_open1 (d : Nat) (r : List UInt8) : scL sScript 1 d (sOpen ++ r) = scL sScript 2 0 r := by
  show scL sScript 1 d (60 :: (sScript ++ 62 :: r)) = _
  have h := scL_word sScript d (sScript ++ 62 :: r) (closes_o r) (by show 0 < 6; decide)
  rw [h, esc_word]
theorem esc_close2 (d : Nat) (r : List UInt8) : scL sScript 2 d (sClose ++ r) = scL sScript 1 0 r := by
  show scL sScript 2 d (60 :: 47 :: (sScript ++ 62 :: r)) = _
  rw [scL_word2, esc_word]
theorem esc_end (r : List UInt8) : scL sScript 1 0 (sEnd ++ r) = scL sScript 0 0 r := by
  show scL sScript 1 0 (45 :: 45 :: 62 :: r) = _
  rw [scL_dash _ _ _ _ (by decide), scL_dash _ _ _ _ (by decide), show min (min (0 + 1) 2 + 1) 2 = 2 by decide, scL_gt _ _ _ (by decide)]
theorem esc_b1 (r : List UInt8) : scL sScript 1 0 (sB ++ r) = scL sScript 1 0 r := by
  have h : scL sScript 1 0 (60 :: ([47, 98, 62] ++ r)) = scL sScript 1 0 ([47, 98, 62] ++ r) := scL_1b sScript 60 _ (closes_b r) (by decide) (fun e => absurd e.2 (by show ¬ 0 < 0; decide))
  show scL sScript 1 0 (60 :: ([47, 98, 62] ++ r)) = _
  rw [h]
  exact esc_run1 sScript r [47, 98, 62] (by intro x hx; simp at hx; rcases hx with rfl | rfl | rfl <;> decide)
theorem okT_script : okT (sScript ++ [62]) := by intro x hx; simp [sScript] at hx; rcases hx with rfl | rfl | rfl | rfl | rfl | rfl | rfl <;> decide
/-- Directly behind "<!--": nothing but a ">" ends the passage. -/
theorem esc_begin (a r : List UInt8) (ha : okT a) (h62 : a.head? ≠ some 62) (hr : r.head? = some 60) : scL sScript 0 0 (sBeg ++ (a ++ r)) = scL sScript 1 0 r := by
  show scL sScript 0 0 (60 :: 33 :: 45 :: 45 :: (a ++ r)) = _
  rw [scL_open]
  obtain ⟨t, rfl⟩ : ∃ t, r = 60 :: t := by
    cases r with
    | nil => cases hr
    | cons x t =>
      obtain rfl : x = 60 := by simpa using hr
      exact ⟨t, rfl⟩
  have e : scL sScript 1 2 (a ++ 60 :: t) = scL sScript 1 0 (a ++ 60 :: t) := by
    cases a with
    | nil => exact scL_d _ _ _ _ (by simp) (.inl (by simp))
    | cons b a =>
      have hb := ha b (by simp)
      exact scL_d _ _ _ _ (by simpa using hb.2) (.inl (by simpa using h62))
  rw [e]
  exact esc_run1 sScript _ a ha
/-- "<!-->" ends the passage at once: the first end tag ends the script. -/
theorem esc_at_once (a b r : List UInt8) (ha : okT (62 :: a)) (hb : okT b) : scL sScript 0 0 (sBeg ++ (62 :: a ++ (sOpen ++ (b ++ (sClose ++ r))))) = sClose ++ r := by
  show scL sScript 0 0 (60 :: 33 :: 45 :: 45 :: (62 :: (a ++ (sOpen ++ (b ++ (sClose ++ r)))))) = _
  rw [scL_open, scL_gt _ _ _ (by decide), esc_run0 _ _ a (fun x hx => ha x (by simp [hx])), esc_open0]
  have e : sScript ++ 62 :: (b ++ (sClose ++ r)) = (sScript ++ [62]) ++ (b ++ (sClose ++ r)) := rfl
  rw [e, esc_run0 _ _ _ okT_script, esc_run0 _ _ b hb, esc_stop _ _ (by decide)]
/-- The script element in the comment, and the end tag behind the comment. -/
theorem esc_whole (a b c r : List UInt8) (ha : okT a) (hb : okT b) (hc : okT c) (h62 : a.head? ≠ some 62) :
    scL sScript 0 0 (sBeg ++ (a ++ (sOpen ++ (b ++ (sClose ++ (c ++ (sEnd ++ (a ++ (sClose ++ r))))))))) = sClose ++ r := by
  rw [esc_begin a _ ha h62 rfl, esc_open1, esc_run2 _ _ b hb, esc_close2, esc_run1 _ _ c hc, esc_end, esc_run0 _ _ a ha, esc_stop _ _ (by decide)]
theorem esc_plain (a b r : List UInt8) (ha : okT a) (hb : okT b) (h62 : a.head? ≠ some 62) :
    scL sScript 0 0 (sBeg ++ (a ++ (sB ++ (b ++ (sClose ++ r))))) = sClose ++ r := by
  rw [esc_begin a _ ha h62 rfl, esc_b1, esc_run1 _ _ b hb, esc_stop _ _ (by decide)]
/-- What was read, if it ends where the end tag is. -/
theorem esc_len {s r x : List UInt8} {N : Nat} (hs : s = x ++ r) (h : r = s.drop N) (hN : N ≤ s.length) : N = x.length ∧ s.take N = x := by
  have h1 := congrArg List.length h
  have h2 := congrArg List.length hs
  rw [List.length_drop] at h1
  rw [List.length_append] at h2
  obtain rfl : N = x.length := by omega
  exact ⟨rfl, by rw [hs, List.take_left]⟩
end Go.Proofs.YtofiaodpjpjedaaGreatDoor

namespace Go.Proofs.YtofiaodpjpjedaaGreatDoor
open Go.RowKit Go.Shelf Go.Lib
set_option maxHeartbeats 4000000
set_option maxRecDepth 100000

theorem nulL_idC : ∀ l : List UInt8, (∀ x ∈ l, x ≠ 0) → nulL l = l
  | [], _ => rfl
  | b :: t, h => by
    have hb : b ≠ 0 := h b (by simp)
    rw [nulL_cons, nulL_idC t (fun x hx => h x (by simp [hx]))]
    have : nul1 b = [b] := by unfold nul1; exact if_neg hb
    rw [this]
    rfl
theorem byte0 {s : ByteArray} {c : UInt8} (h : s.data.toList.head? = some c) (hp : 0 < s.size) : ((s[0]'hp).toNat : Int) = c.toNat := by
  have e := drop_byte s 0 hp
  rw [List.drop_zero] at e
  rw [e] at h
  have : s[0]'hp = c := by simpa using h
  rw [this]
theorem byte0n {s : ByteArray} (h : s.data.toList.head? ≠ some 62) (hp : 0 < s.size) : ((s[0]'hp).toNat : Int) ≠ 62 := by
  have e := drop_byte s 0 hp
  rw [List.drop_zero] at e
  rw [e] at h
  intro hx
  apply h
  have : s[0]'hp = 62 := UInt8.toNat_inj.1 (by show (s[0]'hp).toNat = 62; omega)
  rw [List.head?_cons, this]
theorem nz_beg : ∀ x ∈ sBeg, x ≠ 0 := by decide
theorem nz_open : ∀ x ∈ sOpen, x ≠ 0 := by decide
theorem nz_close : ∀ x ∈ sClose, x ≠ 0 := by decide
theorem nz_end : ∀ x ∈ sEnd, x ≠ 0 := by decide
theorem nz_b : ∀ x ∈ sB, x ≠ 0 := by decide

/-- A call of Script that ends where X ends. -/
theorem scriptIs (B X : ByteArray) (r : List UInt8) (hl : B.data.toList = X.data.toList ++ r) (hs : scL sScript 0 0 B.data.toList = r) (hz : ∀ x ∈ X.data.toList, x ≠ 0) (hB : B.size ≤ 1000000) (m : Int) (w : World) (hm : w.cell? ⟨1, 0, none⟩ = some (.int .i64 m)) :
    Calls Tryz.prog 36 #[.string B, .int .i64 0, .string ⟨#[115, 99, 114, 105, 112, 116]⟩] w fun e w' => e = .returned (.tuple #[.string X, .int .i64 X.size]) ∧ Below w.heap.size w w' := by
  refine (scriptC B 0 ⟨#[115, 99, 114, 105, 112, 116]⟩ m hB w hm).mono ?_
  rintro e w' ⟨N, h1, h2, rfl, hb⟩
  rw [(tl0 B).1] at h1 h2 ⊢
  rw [List.drop_zero] at h1 ⊢
  have h1' : r = B.data.toList.drop N := by rw [← h1]; exact hs.symm
  obtain ⟨e1, e2⟩ := esc_len hl h1' (by rw [size_list]; omega)
  rw [e2, nulL_idC _ hz, bl_of X, e1, ← size_list]
  refine ⟨?_, hb⟩
  rw [Nat.zero_add]
theorem okT_of {s : ByteArray} (h1 : allB (fun b => !(b == (60 : Int))) s = true) (h2 : allB (fun b => !(b == (45 : Int))) s = true) : okT s.data.toList := by
  intro x hx
  unfold allB at h1 h2
  have a1 := List.all_eq_true.1 h1 x hx
  have a2 := List.all_eq_true.1 h2 x hx
  refine ⟨?_, ?_⟩
  · rintro rfl; simp at a1
  · rintro rfl; simp at a2
theorem nz_of {s : ByteArray} (h1 : allB (fun b => !(b == (0 : Int))) s = true) : ∀ x ∈ s.data.toList, x ≠ 0 := by
  intro x hx
  unfold allB at h1
  have a1 := List.all_eq_true.1 h1 x hx
  rintro rfl
  simp at a1

theorem lawEscaped (a b c : ByteArray) (m : Int) (w : World) (hm : w.cell? ⟨1, 0, none⟩ = some (.int .i64 m)) (hc : CtlW w) :
    Calls Tryz.prog 9 #[.string a, .string b, .string c] w fun e w' => e = .returned (.bool true) ∧ Below w.heap.size w w' := by
  have HM := Lib.hid hm
  have HC := Lib.hid hc
  clear hm hc
  go_enter Tryz.func9, Tryz.ntmps9
  go_wp2_with fail
  generalize hw1 : w.alloc _ = w1
  have t1 : w1.heap[w.heap.size]? = some (.cells #[.string a, .string b, .string c] 9 (0, 0)) := by
    rw [← hw1]
    show (w.heap.push _)[w.heap.size]? = _; exact Array.getElem?_push_size
  have hb1 : Below w.heap.size w w1 := by rw [← hw1]; exact below_alloc (Below.refl _ _) _
  have c0 : w1.cell? ⟨w.heap.size, 0, none⟩ = some (.string a) := heap_cell t1 0
  have c1 : w1.cell? ⟨w.heap.size, 1, none⟩ = some (.string b) := heap_cell t1 1
  have c2 : w1.cell? ⟨w.heap.size, 2, none⟩ = some (.string c) := heap_cell t1 2
  have HM1 := Lib.hid (carry HM.out hb1)
  have HC1 := Lib.hid (HC.out.below hb1)
  have HK := Lib.hid (known02 m w1 HC1.out HM1.out)
  clear hw1 t1
  refine wp_loop_rounds 4 ?_
  have HSa := Lib.hid (small02 a)
  obtain ⟨pa, hpa⟩ : ∃ p, p = decide (a.size ≤ 4096) := ⟨_, rfl⟩
  rw [← hpa] at HSa
  have HPa := Lib.hid hpa
  clear hpa
  rw [rounds_succ]
  go_wp2_with fail
  refine (HSa.out _).mono ?_
  rintro e w2 ⟨rfl, rfl⟩
  cases pa
  · go_wp2_with fail
    refine HK.out.mono ?_
    rintro e w4 ⟨rfl, hb⟩
    go_wp2_with fail
    go_ret
    exact ⟨rfl, below_next hb1 hb⟩
  · have za : a.size ≤ 4096 := of_decide_eq_true HPa.out.symm
    have HH := Lib.hid (rHas a 60 (by unfold maxLen; omega))
    obtain ⟨q, hq⟩ : ∃ q, q = allB (fun b => !(b == (60 : Int))) a := ⟨_, rfl⟩
    rw [← hq] at HH
    have HQa60 := Lib.hid hq
    clear hq
    go_wp2_with fail
    refine (HH.out _).mono ?_
    rintro e w2 ⟨rfl, rfl⟩
    cases q
    · go_wp2_with fail
      refine HK.out.mono ?_
      rintro e w4 ⟨rfl, hb⟩
      go_wp2_with fail
      go_ret
      exact ⟨rfl, below_next hb1 hb⟩
    · clear HH
      have HH := Lib.hid (rHas a 45 (by unfold maxLen; omega))
      obtain ⟨q, hq⟩ : ∃ q, q = allB (fun b => !(b == (45 : Int))) a := ⟨_, rfl⟩
      rw [← hq] at HH
      have HQa45 := Lib.hid hq
      clear hq
      go_wp2_with fail
      refine (HH.out _).mono ?_
      rintro e w2 ⟨rfl, rfl⟩
      cases q
      · go_wp2_with fail
        refine HK.out.mono ?_
        rintro e w4 ⟨rfl, hb⟩
        go_wp2_with fail
        go_ret
        exact ⟨rfl, below_next hb1 hb⟩
      · clear HH
        have HH := Lib.hid (rHas a 0 (by unfold maxLen; omega))
        obtain ⟨q, hq⟩ : ∃ q, q = allB (fun b => !(b == (0 : Int))) a := ⟨_, rfl⟩
        rw [← hq] at HH
        have HQa0 := Lib.hid hq
        clear hq
        go_wp2_with fail
        refine (HH.out _).mono ?_
        rintro e w2 ⟨rfl, rfl⟩
        cases q
        · go_wp2_with fail
          refine HK.out.mono ?_
          rintro e w4 ⟨rfl, hb⟩
          go_wp2_with fail
          go_ret
          exact ⟨rfl, below_next hb1 hb⟩
        · clear HH
          go_wp2_with fail
          have HSb := Lib.hid (small02 b)
          obtain ⟨pb, hpb⟩ : ∃ p, p = decide (b.size ≤ 4096) := ⟨_, rfl⟩
          rw [← hpb] at HSb
          have HPb := Lib.hid hpb
          clear hpb
          rw [rounds_succ]
          go_wp2_with fail
          refine (HSb.out _).mono ?_
          rintro e w2 ⟨rfl, rfl⟩
          cases pb
          · go_wp2_with fail
            refine HK.out.mono ?_
            rintro e w4 ⟨rfl, hb⟩
            go_wp2_with fail
            go_ret
            exact ⟨rfl, below_next hb1 hb⟩
          · have zb : b.size ≤ 4096 := of_decide_eq_true HPb.out.symm
            have HH := Lib.hid (rHas b 60 (by unfold maxLen; omega))
            obtain ⟨q, hq⟩ : ∃ q, q = allB (fun b => !(b == (60 : Int))) b := ⟨_, rfl⟩
            rw [← hq] at HH
            have HQb60 := Lib.hid hq
            clear hq
            go_wp2_with fail
            refine (HH.out _).mono ?_
            rintro e w2 ⟨rfl, rfl⟩
            cases q
            · go_wp2_with fail
              refine HK.out.mono ?_
              rintro e w4 ⟨rfl, hb⟩
              go_wp2_with fail
              go_ret
              exact ⟨rfl, below_next hb1 hb⟩
            · clear HH
              have HH := Lib.hid (rHas b 45 (by unfold maxLen; omega))
              obtain ⟨q, hq⟩ : ∃ q, q = allB (fun b => !(b == (45 : Int))) b := ⟨_, rfl⟩
              rw [← hq] at HH
              have HQb45 := Lib.hid hq
              clear hq
              go_wp2_with fail
              refine (HH.out _).mono ?_
              rintro e w2 ⟨rfl, rfl⟩
              cases q
              · go_wp2_with fail
                refine HK.out.mono ?_
                rintro e w4 ⟨rfl, hb⟩
                go_wp2_with fail
                go_ret
                exact ⟨rfl, below_next hb1 hb⟩
              · clear HH
                have HH := Lib.hid (rHas b 0 (by unfold maxLen; omega))
                obtain ⟨q, hq⟩ : ∃ q, q = allB (fun b => !(b == (0 : Int))) b := ⟨_, rfl⟩
                rw [← hq] at HH
                have HQb0 := Lib.hid hq
                clear hq
                go_wp2_with fail
                refine (HH.out _).mono ?_
                rintro e w2 ⟨rfl, rfl⟩
                cases q
                · go_wp2_with fail
                  refine HK.out.mono ?_
                  rintro e w4 ⟨rfl, hb⟩
                  go_wp2_with fail
                  go_ret
                  exact ⟨rfl, below_next hb1 hb⟩
                · clear HH
                  go_wp2_with fail
                  have HSc := Lib.hid (small02 c)
                  obtain ⟨pc, hpc⟩ : ∃ p, p = decide (c.size ≤ 4096) := ⟨_, rfl⟩
                  rw [← hpc] at HSc
                  have HPc := Lib.hid hpc
                  clear hpc
                  rw [rounds_succ]
                  go_wp2_with fail
                  refine (HSc.out _).mono ?_
                  rintro e w2 ⟨rfl, rfl⟩
                  cases pc
                  · go_wp2_with fail
                    refine HK.out.mono ?_
                    rintro e w4 ⟨rfl, hb⟩
                    go_wp2_with fail
                    go_ret
                    exact ⟨rfl, below_next hb1 hb⟩
                  · have zc : c.size ≤ 4096 := of_decide_eq_true HPc.out.symm
                    have HH := Lib.hid (rHas c 60 (by unfold maxLen; omega))
                    obtain ⟨q, hq⟩ : ∃ q, q = allB (fun b => !(b == (60 : Int))) c := ⟨_, rfl⟩
                    rw [← hq] at HH
                    have HQc60 := Lib.hid hq
                    clear hq
                    go_wp2_with fail
                    refine (HH.out _).mono ?_
                    rintro e w2 ⟨rfl, rfl⟩
                    cases q
                    · go_wp2_with fail
                      refine HK.out.mono ?_
                      rintro e w4 ⟨rfl, hb⟩
                      go_wp2_with fail
                      go_ret
                      exact ⟨rfl, below_next hb1 hb⟩
                    · clear HH
                      have HH := Lib.hid (rHas c 45 (by unfold maxLen; omega))
                      obtain ⟨q, hq⟩ : ∃ q, q = allB (fun b => !(b == (45 : Int))) c := ⟨_, rfl⟩
                      rw [← hq] at HH
                      have HQc45 := Lib.hid hq
                      clear hq
                      go_wp2_with fail
                      refine (HH.out _).mono ?_
                      rintro e w2 ⟨rfl, rfl⟩
                      cases q
                      · go_wp2_with fail
                        refine HK.out.mono ?_
                        rintro e w4 ⟨rfl, hb⟩
                        go_wp2_with fail
                        go_ret
                        exact ⟨rfl, below_next hb1 hb⟩
                      · clear HH
                        have HH := Lib.hid (rHas c 0 (by unfold maxLen; omega))
                        obtain ⟨q, hq⟩ : ∃ q, q = allB (fun b => !(b == (0 : Int))) c := ⟨_, rfl⟩
                        rw [← hq] at HH
                        have HQc0 := Lib.hid hq
                        clear hq
                        go_wp2_with fail
                        refine (HH.out _).mono ?_
                        rintro e w2 ⟨rfl, rfl⟩
                        cases q
                        · go_wp2_with fail
                          refine HK.out.mono ?_
                          rintro e w4 ⟨rfl, hb⟩
                          go_wp2_with fail
                          go_ret
                          exact ⟨rfl, below_next hb1 hb⟩
                        · clear HH
                          go_wp2_with fail
                          rw [rounds_succ]
                          have oka := okT_of HQa60.out.symm HQa45.out.symm
                          have okb := okT_of HQb60.out.symm HQb45.out.symm
                          have okc := okT_of HQc60.out.symm HQc45.out.symm
                          have nza := nz_of HQa0.out.symm
                          have nzb := nz_of HQb0.out.symm
                          have nzc := nz_of HQc0.out.symm
                          have OKa := Lib.hid oka
                          have OKb := Lib.hid okb
                          have OKc := Lib.hid okc
                          have NZa := Lib.hid nza
                          have NZb := Lib.hid nzb
                          have NZc := Lib.hid nzc
                          clear oka okb okc nza nzb nzc HQa60 HQa45 HQa0 HQb60 HQb45 HQb0 HQc60 HQc45 HQc0 HSa HSb HSc HPa HPb HPc
                          have hcase : a.data.toList.head? = some 62 ∨ a.data.toList.head? ≠ some 62 := Decidable.em _
                          rcases hcase with h62 | h62
                          · have hp : 0 < a.size := by
                              rw [← size_list]
                              cases hl : a.data.toList with
                              | nil => rw [hl] at h62; cases h62
                              | cons x t => simp
                            have t0 : decide ((0 : Int) < (a.size : Int)) = true := decide_eq_true (by omega)
                            have e62 : ((a[0]'hp).toNat : Int) = 62 := byte0 h62 hp
                            have t2 : (((a[0]'hp).toNat : Int) == 62) = true := by rw [e62]; rfl
                            clear e62
                            have HP := Lib.hid h62
                            clear h62
                            go_wp2_with fail
                            obtain ⟨F, hF⟩ : ∃ F, F = (⟨#[60, 33, 45, 45]⟩ : ByteArray) ++ a ++ (⟨#[60, 115, 99, 114, 105, 112, 116, 62]⟩ : ByteArray) ++ b := ⟨_, rfl⟩
                            obtain ⟨W0, hW⟩ : ∃ W0, W0 = F ++ (⟨#[60, 47, 115, 99, 114, 105, 112, 116, 62]⟩ : ByteArray) ++ c ++ (⟨#[45, 45, 62]⟩ : ByteArray) ++ a := ⟨_, rfl⟩
                            rw [← hF, ← hW]
                            have zF : F.size = a.size + b.size + 12 := by
                              rw [hF, ByteArray.size_append, ByteArray.size_append, ByteArray.size_append]
                              show 4 + a.size + 8 + b.size = _
                              omega
                            have lF : F.data.toList = sBeg ++ (a.data.toList ++ (sOpen ++ b.data.toList)) := by
                              rw [hF]
                              simp only [ByteArray.data_append, Array.toList_append, List.append_assoc]
                              rfl
                            have zW : W0.size = F.size + c.size + a.size + 12 := by
                              rw [hW, ByteArray.size_append, ByteArray.size_append, ByteArray.size_append, ByteArray.size_append]
                              show F.size + 9 + c.size + 3 + a.size = _
                              omega
                            have lW : W0.data.toList = sBeg ++ (a.data.toList ++ (sOpen ++ (b.data.toList ++ (sClose ++ (c.data.toList ++ (sEnd ++ a.data.toList)))))) := by
                              rw [hW]
                              simp only [ByteArray.data_append, Array.toList_append, List.append_assoc, lF]
                              rfl
                            have nF : ∀ x ∈ F.data.toList, x ≠ 0 := by
                              intro x hx
                              rw [lF] at hx
                              simp only [List.mem_append] at hx
                              rcases hx with hx | hx | hx | hx
                              · exact nz_beg x hx
                              · exact NZa.out x hx
                              · exact nz_open x hx
                              · exact NZb.out x hx
                            have nW : ∀ x ∈ W0.data.toList, x ≠ 0 := by
                              intro x hx
                              rw [lW] at hx
                              simp only [List.mem_append] at hx
                              rcases hx with hx | hx | hx | hx | hx | hx | hx | hx
                              · exact nz_beg x hx
                              · exact NZa.out x hx
                              · exact nz_open x hx
                              · exact NZb.out x hx
                              · exact nz_close x hx
                              · exact NZc.out x hx
                              · exact nz_end x hx
                              · exact NZa.out x hx
                            obtain ⟨a', ha'⟩ : ∃ a', a.data.toList = 62 :: a' := by
                              have h := HP.out
                              cases hl : a.data.toList with
                              | nil => rw [hl] at h; cases h
                              | cons x t =>
                                rw [hl] at h
                                obtain rfl : x = 62 := by simpa using h
                                exact ⟨t, rfl⟩
                            have HSC := Lib.hid (scriptIs (W0 ++ (⟨#[60, 47, 115, 99, 114, 105, 112, 116, 62]⟩ : ByteArray)) F (sClose ++ (c.data.toList ++ (sEnd ++ (a.data.toList ++ sClose))))
                              (by
                                simp only [ByteArray.data_append, Array.toList_append, List.append_assoc, lW, lF]
                                rfl)
                              (by
                                have h := esc_at_once a' b.data.toList (c.data.toList ++ (sEnd ++ (a.data.toList ++ sClose))) (by rw [← ha']; exact OKa.out) OKb.out
                                rw [← ha'] at h
                                refine Eq.trans (congrArg (scL sScript 0 0) ?_) h
                                simp only [ByteArray.data_append, Array.toList_append, List.append_assoc, lW]
                                rfl) nF (by rw [ByteArray.size_append]; show W0.size + 9 ≤ _; omega) m w2 HM1.out)
                            have zF' : F.size ≤ 10000 := by omega
                            clear hF hW zF lF zW lW nF nW ha' t0 t2
                            refine HSC.out.mono ?_
                            rintro e w5 ⟨rfl, hs5⟩
                            have hb5 := below_next hb1 hs5
                            clear hs5
                            go_wp2_with fail
                            refine (kof _ _ w5).mono ?_
                            rintro e w6 ⟨rfl, hs6⟩
                            have hb6 := below_next hb5 hs6
                            clear hs6 hb5
                            go_wp2_with fail
                            refine (kof _ _ w6).mono ?_
                            rintro e w7 ⟨rfl, hs7⟩
                            have hb7 := below_next hb6 hs7
                            clear hs7 hb6
                            have HKn := Lib.hid (known02 m w7 (HC.out.below hb7) (carry HM.out hb7))
                            go_wp2_with fail
                            refine HKn.out.mono ?_
                            rintro e w8 ⟨rfl, hb8⟩
                            go_wp2_with fail
                            go_ret
                            exact ⟨rfl, below_next hb7 hb8⟩
                          · have hcs : a.size = 0 ∨ ∃ h : 0 < a.size, (((a[0]'h).toNat : Int) == 62) = false := by
                              by_cases h0 : a.size = 0
                              · exact .inl h0
                              · refine .inr ⟨by omega, ?_⟩
                                rw [beq_eq_false_iff_ne]
                                exact byte0n h62 (by omega)
                            have HP := Lib.hid h62
                            clear h62
                            rcases hcs with h0 | ⟨h0, t2⟩
                            · have t0 : decide ((0 : Int) < (a.size : Int)) = false := decide_eq_false (by omega)
                              go_wp2_with fail
                              clear t0 h0
                              obtain ⟨F, hF⟩ : ∃ F, F = (⟨#[60, 33, 45, 45]⟩ : ByteArray) ++ a ++ (⟨#[60, 115, 99, 114, 105, 112, 116, 62]⟩ : ByteArray) ++ b := ⟨_, rfl⟩
                              obtain ⟨W0, hW⟩ : ∃ W0, W0 = F ++ (⟨#[60, 47, 115, 99, 114, 105, 112, 116, 62]⟩ : ByteArray) ++ c ++ (⟨#[45, 45, 62]⟩ : ByteArray) ++ a := ⟨_, rfl⟩
                              rw [← hF, ← hW]
                              have zF : F.size = a.size + b.size + 12 := by
                                rw [hF, ByteArray.size_append, ByteArray.size_append, ByteArray.size_append]
                                show 4 + a.size + 8 + b.size = _
                                omega
                              have lF : F.data.toList = sBeg ++ (a.data.toList ++ (sOpen ++ b.data.toList)) := by
                                rw [hF]
                                simp only [ByteArray.data_append, Array.toList_append, List.append_assoc]
                                rfl
                              have zW : W0.size = F.size + c.size + a.size + 12 := by
                                rw [hW, ByteArray.size_append, ByteArray.size_append, ByteArray.size_append, ByteArray.size_append]
                                show F.size + 9 + c.size + 3 + a.size = _
                                omega
                              have lW : W0.data.toList = sBeg ++ (a.data.toList ++ (sOpen ++ (b.data.toList ++ (sClose ++ (c.data.toList ++ (sEnd ++ a.data.toList)))))) := by
                                rw [hW]
                                simp only [ByteArray.data_append, Array.toList_append, List.append_assoc, lF]
                                rfl
                              have nF : ∀ x ∈ F.data.toList, x ≠ 0 := by
                                intro x hx
                                rw [lF] at hx
                                simp only [List.mem_append] at hx
                                rcases hx with hx | hx | hx | hx
                                · exact nz_beg x hx
                                · exact NZa.out x hx
                                · exact nz_open x hx
                                · exact NZb.out x hx
                              have nW : ∀ x ∈ W0.data.toList, x ≠ 0 := by
                                intro x hx
                                rw [lW] at hx
                                simp only [List.mem_append] at hx
                                rcases hx with hx | hx | hx | hx | hx | hx | hx | hx
                                · exact nz_beg x hx
                                · exact NZa.out x hx
                                · exact nz_open x hx
                                · exact NZb.out x hx
                                · exact nz_close x hx
                                · exact NZc.out x hx
                                · exact nz_end x hx
                                · exact NZa.out x hx
                              have HSC := Lib.hid (scriptIs (W0 ++ (⟨#[60, 47, 115, 99, 114, 105, 112, 116, 62]⟩ : ByteArray)) W0 sClose
                                (by
                                  rw [ByteArray.data_append, Array.toList_append]
                                  rfl)
                                (by
                                  have h := esc_whole a.data.toList b.data.toList c.data.toList [] OKa.out OKb.out OKc.out HP.out
                                  rw [List.append_nil] at h
                                  refine Eq.trans (congrArg (scL sScript 0 0) ?_) h
                                  rw [ByteArray.data_append, Array.toList_append, lW]
                                  simp only [List.append_assoc]
                                  rfl) nW (by rw [ByteArray.size_append]; show W0.size + 9 ≤ _; omega) m w2 HM1.out)
                              obtain ⟨P, hP⟩ : ∃ P, P = (⟨#[60, 33, 45, 45]⟩ : ByteArray) ++ a ++ (⟨#[60, 47, 98, 62]⟩ : ByteArray) ++ b := ⟨_, rfl⟩
                              have zP : P.size = a.size + b.size + 8 := by
                                rw [hP, ByteArray.size_append, ByteArray.size_append, ByteArray.size_append]
                                show 4 + a.size + 4 + b.size = _
                                omega
                              have lP : P.data.toList = sBeg ++ (a.data.toList ++ (sB ++ b.data.toList)) := by
                                rw [hP]
                                simp only [ByteArray.data_append, Array.toList_append, List.append_assoc]
                                rfl
                              have nP : ∀ x ∈ P.data.toList, x ≠ 0 := by
                                intro x hx
                                rw [lP] at hx
                                simp only [List.mem_append] at hx
                                rcases hx with hx | hx | hx | hx
                                · exact nz_beg x hx
                                · exact NZa.out x hx
                                · exact nz_b x hx
                                · exact NZb.out x hx
                              have HSP := Lib.hid (fun W hW => scriptIs (P ++ (⟨#[60, 47, 115, 99, 114, 105, 112, 116, 62]⟩ : ByteArray) ++ W0) P (sClose ++ W0.data.toList)
                                (by
                                  simp only [ByteArray.data_append, Array.toList_append, List.append_assoc]
                                  rfl)
                                (by
                                  have h := esc_plain a.data.toList b.data.toList W0.data.toList OKa.out OKb.out HP.out
                                  refine Eq.trans (congrArg (scL sScript 0 0) ?_) h
                                  simp only [ByteArray.data_append, Array.toList_append, List.append_assoc, lP]
                                  rfl) nP (by rw [ByteArray.size_append, ByteArray.size_append]; show P.size + 9 + W0.size ≤ _; omega) m W hW)
                              have zW' : W0.size ≤ 40000 := by omega
                              have zP' : P.size ≤ 10000 := by omega
                              have HPE := Lib.hid hP
                              clear hF hW zF lF zW lW nF nW hP zP lP nP
                              refine HSC.out.mono ?_
                              rintro e w5 ⟨rfl, hs5⟩
                              have hb5 := below_next hb1 hs5
                              clear hs5
                              go_wp2_with fail
                              refine (kof _ _ w5).mono ?_
                              rintro e w6 ⟨rfl, hs6⟩
                              have hb6 := below_next hb5 hs6
                              clear hs6 hb5
                              go_wp2_with fail
                              refine (kof _ _ w6).mono ?_
                              rintro e w7 ⟨rfl, hs7⟩
                              have hb7 := below_next hb6 hs7
                              clear hs7 hb6
                              go_wp2_with fail
                              rw [← HPE.out]
                              refine (HSP.out w7 (carry HM.out hb7)).mono ?_
                              rintro e w8 ⟨rfl, hs8⟩
                              have hb8 := below_next hb7 hs8
                              clear hs8 hb7
                              go_wp2_with fail
                              refine (kof _ _ w8).mono ?_
                              rintro e w9 ⟨rfl, hs9⟩
                              have hb9 := below_next hb8 hs9
                              clear hs9 hb8
                              go_wp2_with fail
                              refine (kof _ _ w9).mono ?_
                              rintro e w10 ⟨rfl, hs10⟩
                              have hb10 := below_next hb9 hs10
                              clear hs10 hb9
                              have HKn := Lib.hid (known02 m w10 (HC.out.below hb10) (carry HM.out hb10))
                              go_wp2_with fail
                              refine HKn.out.mono ?_
                              rintro e w11 ⟨rfl, hb11⟩
                              go_wp2_with fail
                              go_ret
                              exact ⟨rfl, below_next hb10 hb11⟩
                            · have t0 : decide ((0 : Int) < (a.size : Int)) = true := decide_eq_true (by omega)
                              go_wp2_with fail
                              clear t0 t2
                              obtain ⟨F, hF⟩ : ∃ F, F = (⟨#[60, 33, 45, 45]⟩ : ByteArray) ++ a ++ (⟨#[60, 115, 99, 114, 105, 112, 116, 62]⟩ : ByteArray) ++ b := ⟨_, rfl⟩
                              obtain ⟨W0, hW⟩ : ∃ W0, W0 = F ++ (⟨#[60, 47, 115, 99, 114, 105, 112, 116, 62]⟩ : ByteArray) ++ c ++ (⟨#[45, 45, 62]⟩ : ByteArray) ++ a := ⟨_, rfl⟩
                              rw [← hF, ← hW]
                              have zF : F.size = a.size + b.size + 12 := by
                                rw [hF, ByteArray.size_append, ByteArray.size_append, ByteArray.size_append]
                                show 4 + a.size + 8 + b.size = _
                                omega
                              have lF : F.data.toList = sBeg ++ (a.data.toList ++ (sOpen ++ b.data.toList)) := by
                                rw [hF]
                                simp only [ByteArray.data_append, Array.toList_append, List.append_assoc]
                                rfl
                              have zW : W0.size = F.size + c.size + a.size + 12 := by
                                rw [hW, ByteArray.size_append, ByteArray.size_append, ByteArray.size_append, ByteArray.size_append]
                                show F.size + 9 + c.size + 3 + a.size = _
                                omega
                              have lW : W0.data.toList = sBeg ++ (a.data.toList ++ (sOpen ++ (b.data.toList ++ (sClose ++ (c.data.toList ++ (sEnd ++ a.data.toList)))))) := by
                                rw [hW]
                                simp only [ByteArray.data_append, Array.toList_append, List.append_assoc, lF]
                                rfl
                              have nF : ∀ x ∈ F.data.toList, x ≠ 0 := by
                                intro x hx
                                rw [lF] at hx
                                simp only [List.mem_append] at hx
                                rcases hx with hx | hx | hx | hx
                                · exact nz_beg x hx
                                · exact NZa.out x hx
                                · exact nz_open x hx
                                · exact NZb.out x hx
                              have nW : ∀ x ∈ W0.data.toList, x ≠ 0 := by
                                intro x hx
                                rw [lW] at hx
                                simp only [List.mem_append] at hx
                                rcases hx with hx | hx | hx | hx | hx | hx | hx | hx
                                · exact nz_beg x hx
                                · exact NZa.out x hx
                                · exact nz_open x hx
                                · exact NZb.out x hx
                                · exact nz_close x hx
                                · exact NZc.out x hx
                                · exact nz_end x hx
                                · exact NZa.out x hx
                              have HSC := Lib.hid (scriptIs (W0 ++ (⟨#[60, 47, 115, 99, 114, 105, 112, 116, 62]⟩ : ByteArray)) W0 sClose
                                (by
                                  rw [ByteArray.data_append, Array.toList_append]
                                  rfl)
                                (by
                                  have h := esc_whole a.data.toList b.data.toList c.data.toList [] OKa.out OKb.out OKc.out HP.out
                                  rw [List.append_nil] at h
                                  refine Eq.trans (congrArg (scL sScript 0 0) ?_) h
                                  rw [ByteArray.data_append, Array.toList_append, lW]
                                  simp only [List.append_assoc]
                                  rfl) nW (by rw [ByteArray.size_append]; show W0.size + 9 ≤ _; omega) m w2 HM1.out)
                              obtain ⟨P, hP⟩ : ∃ P, P = (⟨#[60, 33, 45, 45]⟩ : ByteArray) ++ a ++ (⟨#[60, 47, 98, 62]⟩ : ByteArray) ++ b := ⟨_, rfl⟩
                              have zP : P.size = a.size + b.size + 8 := by
                                rw [hP, ByteArray.size_append, ByteArray.size_append, ByteArray.size_append]
                                show 4 + a.size + 4 + b.size = _
                                omega
                              have lP : P.data.toList = sBeg ++ (a.data.toList ++ (sB ++ b.data.toList)) := by
                                rw [hP]
                                simp only [ByteArray.data_append, Array.toList_append, List.append_assoc]
                                rfl
                              have nP : ∀ x ∈ P.data.toList, x ≠ 0 := by
                                intro x hx
                                rw [lP] at hx
                                simp only [List.mem_append] at hx
                                rcases hx with hx | hx | hx | hx
                                · exact nz_beg x hx
                                · exact NZa.out x hx
                                · exact nz_b x hx
                                · exact NZb.out x hx
                              have HSP := Lib.hid (fun W hW => scriptIs (P ++ (⟨#[60, 47, 115, 99, 114, 105, 112, 116, 62]⟩ : ByteArray) ++ W0) P (sClose ++ W0.data.toList)
                                (by
                                  simp only [ByteArray.data_append, Array.toList_append, List.append_assoc]
                                  rfl)
                                (by
                                  have h := esc_plain a.data.toList b.data.toList W0.data.toList OKa.out OKb.out HP.out
                                  refine Eq.trans (congrArg (scL sScript 0 0) ?_) h
                                  simp only [ByteArray.data_append, Array.toList_append, List.append_assoc, lP]
                                  rfl) nP (by rw [ByteArray.size_append, ByteArray.size_append]; show P.size + 9 + W0.size ≤ _; omega) m W hW)
                              have zW' : W0.size ≤ 40000 := by omega
                              have zP' : P.size ≤ 10000 := by omega
                              have HPE := Lib.hid hP
                              clear hF hW zF lF zW lW nF nW hP zP lP nP
                              refine HSC.out.mono ?_
                              rintro e w5 ⟨rfl, hs5⟩
                              have hb5 := below_next hb1 hs5
                              clear hs5
                              go_wp2_with fail
                              refine (kof _ _ w5).mono ?_
                              rintro e w6 ⟨rfl, hs6⟩
                              have hb6 := below_next hb5 hs6
                              clear hs6 hb5
                              go_wp2_with fail
                              refine (kof _ _ w6).mono ?_
                              rintro e w7 ⟨rfl, hs7⟩
                              have hb7 := below_next hb6 hs7
                              clear hs7 hb6
                              go_wp2_with fail
                              rw [← HPE.out]
                              refine (HSP.out w7 (carry HM.out hb7)).mono ?_
                              rintro e w8 ⟨rfl, hs8⟩
                              have hb8 := below_next hb7 hs8
                              clear hs8 hb7
                              go_wp2_with fail
                              refine (kof _ _ w8).mono ?_
                              rintro e w9 ⟨rfl, hs9⟩
                              have hb9 := below_next hb8 hs9
                              clear hs9 hb8
                              go_wp2_with fail
                              refine (kof _ _ w9).mono ?_
                              rintro e w10 ⟨rfl, hs10⟩
                              have hb10 := below_next hb9 hs10
                              clear hs10 hb9
                              have HKn := Lib.hid (known02 m w10 (HC.out.below hb10) (carry HM.out hb10))
                              go_wp2_with fail
                              refine HKn.out.mono ?_
                              rintro e w11 ⟨rfl, hb11⟩
                              go_wp2_with fail
                              go_ret
                              exact ⟨rfl, below_next hb10 hb11⟩
end Go.Proofs.YtofiaodpjpjedaaGreatDoor

namespace Go.Proofs.YtofiaodpjpjedaaGreatDoor
open Go.ChangeShapes Go.WideShapes Go.ChangeAt Go.RowKit
set_option maxRecDepth 100000

def laidC : List (String × DataW Unit) := [("unicode/utf8.acceptRanges", Rows.laid_unicode_utf8_acceptRanges), ("thicket/text.controls", Rows.laid_thicket_text_controls), ("unicode/utf8.first", Rows.laid_unicode_utf8_first)]
theorem doorC_os (os : Os) : (World.laidAll Tryz.prog os laidC).os = os := World.laidAll_os _ _ _
theorem doorC_met (os : Os) (args : Array Value) : laidMetH Tryz.prog laidC ((World.laidAll Tryz.prog os laidC).forCall (fun _ _ => 0) ⟨#[], args, []⟩).memory := by
  rw [MakeChecks.laidMetH_plain _ _ _ (by kernel_rfl)]
  exact laidMet_laidAll _ (by kernel_rfl) (by kernel_rfl)

theorem gCtl : Tryz.prog.globalNamed "thicket/text.controls" = some 0 := by kernel_rfl
theorem tCtl : (Tryz.prog.globals[0]?).map (·.type) = some 99 := by kernel_rfl
theorem cCtl : Tryz.prog.cellsOf 21 = 1 := by kernel_rfl
theorem ctlD : (Rows.laid_thicket_text_controls : DataW Unit) = .agg (ctlT.map fun z => .lit (.int .i32 z)) := rfl

theorem ctl_of_laid {W : World} (h : laidMetH Tryz.prog laidC W) : CtlW W := by
  rw [MakeChecks.laidMetH_plain _ _ _ (by kernel_rfl)] at h
  obtain ⟨ps, ⟨g0, t0, cs0, f0, p0, q0, hg0, ht0, hv0, hd0, ⟨g1, t1, cs1, f1, p1, q1, hg1, ht1, hv1, hd1, _, _⟩, _⟩, _⟩ := h
  obtain rfl := Option.some.inj (gCtl.symm.trans hg1)
  obtain rfl := Option.some.inj (tCtl.symm.trans ht1)
  obtain ⟨xs, m1, rfl, hx1, hlen, hn, hel⟩ := DataW.trod_array Tryz.underlying99 hd1
  intro k hk
  have h1 := hel k hk
  rw [cCtl, Nat.mul_one] at h1
  have hxk : xs[k]? = some (xs[k]'(by omega)) := List.getElem?_eq_getElem (by omega)
  rw [hxk] at h1
  obtain ⟨z, e1, e2, _⟩ := DataW.trod_int Tryz.underlying21 h1
  have hz : z = ctlT.getD k 0 := by
    have hx2 := congrArg Prod.fst hx1
    rw [ctlD] at hx2
    simp only [DataW.agg.injEq] at hx2
    have h3 : (ctlT.map fun z => (DataW.lit (.int .i32 z) : DataW Unit))[k]? = (xs.map (·.1))[k]? := by rw [hx2]
    rw [List.getElem?_map, List.getElem?_map, hxk, e2] at h3
    have hk2 : k < ctlT.length := hk
    rw [List.getElem?_eq_getElem hk2] at h3
    simp at h3
    rw [List.getD_eq_getElem?_getD, List.getElem?_eq_getElem hk2]
    simpa using h3.symm
  rw [World.var?_cell hg1 hv1 k, ← hz]
  have h4 : (cs1.toList.drop k)[0]? = some (.int .i32 z) := by
    have := congrArg (fun l => l[0]?) e1
    simp only [List.getElem?_take] at this
    simpa using this
  rw [List.getElem?_drop, Nat.add_zero, Array.getElem?_toList] at h4
  exact h4

/-- A row whose start is said to hold more, with the shapes and the listed variables at hand. -/
theorem handedC {H : Type} {enc : TypeId × Value → H} {a : Assume} {os : Os} {f : FuncId} {fn : Func} {s : ChangeSpec} {conds : List PathCond} {apart fresh handsOn again : Bool}
    (own : ownKnob Tryz.prog.godebug = none) (started : os.Started) (noInit : Tryz.prog.inits.idxOf? f = none) (hfn : Tryz.prog.funcs[f]? = some fn)
    (witness : ∃ (w : World) (tape : Tape) (i : Input), w.os = os ∧ (w.forCall tape i).Shaped Tryz.prog ∧ i.vars = [] ∧ Input.okWide Tryz.prog (w.forCall tape i) .any w.heap.size f i ∧
      ((s.pre enc Tryz.prog fn conds apart (w.forCall tape i).memory i.args ∧ laidMetH Tryz.prog laidC (w.forCall tape i).memory) ∧ sizedMet enc Tryz.prog fn (OpenSpec.ofChange s) apart (w.forCall tape i).memory i.args) ∧ a.holds Tryz.prog (lone (Frame.enter Tryz.prog f i.args .normal) [] (w.forCall tape i)))
    (walk : ∀ (W : World) (base : Nat) (args : Array Value) (ds gs : List (DataW H)) (before : List MemPlace),
      (∀ (j : Nat) t v, fn.params[j]? = some t → args[j]? = some v → Value.okWide Tryz.prog W .any base t v) →
      DataW.Whole enc Tryz.prog fn.params.toList s.vars apart W args.toList ds gs before → W.ShapedOpen Tryz.prog → CtlW W →
      Calls Tryz.prog f args W fun e W' => ∃ v, e = .returned v ∧ s.post enc Tryz.prog fn apart fresh handsOn again W args v W') :
    ReturnsInHanded a Tryz.checked os f .any (fun w args => (s.pre enc Tryz.prog fn conds apart w args ∧ laidMetH Tryz.prog laidC w) ∧ sizedMet enc Tryz.prog fn (OpenSpec.ofChange s) apart w args) (s.post enc Tryz.prog fn apart fresh handsOn again) := by
  refine returnsInHanded_of_calls (C := Tryz.checked) own started (by exact noInit) witness ?_
  intro w tape i _ hsh _ hok hpre _
  obtain ⟨_, _, _, fn', hfn', _, _, _, _, hval⟩ := hok
  obtain rfl : fn' = fn := Option.some.inj (hfn'.symm.trans hfn)
  obtain ⟨⟨⟨ds, gs, before, hw, _⟩, hX⟩, _⟩ := hpre
  refine (walk (w.forCall tape i) w.heap.size i.args ds gs before hval (DataW.Whole.of_heap (w' := w.forCall tape i) (by rfl) hw) hsh (ctl_of_laid (laidMetH.of_heap (w' := w.forCall tape i) (by rfl) hX))).mono fun e W' ⟨v, he, hp⟩ => ?_
  subst he
  exact ChangeSpec.post_blind hp
end Go.Proofs.YtofiaodpjpjedaaGreatDoor
