/-
  Data of comments is read back; what any comment is read as is such data. No program in sight.
  The document's own prefix test.
  ScanCommentsBack: the data of a comment is read back, and what any comment is read as is such data.
  A call of Reference whose answer is known.
  The digits of a number, with zeros ahead, as a numeric reference.
  ScanNumbers: a number's digits, with zeros ahead, are read as the code point that the number stands for.
  The frame of the rows that list the table of the controls as well.
-/
import Derived.Test.YtofiaodpjpjedaaGreatDoorY03
import Derived.Test.YtofiaodpjpjedaaGreatDoorY27
import Derived.Test.YtofiaodpjpjedaaGreatDoorY29
import Derived.Test.YtofiaodpjpjedaaGreatDoorKs3
import Derived.Test.YtofiaodpjpjedaaGreatDoorY15
import Derived.Test.YtofiaodpjpjedaaGreatDoorY28
namespace Go.Proofs.YtofiaodpjpjedaaGreatDoor
open Go.Lib
set_option maxRecDepth 100000

def noEnd : List UInt8 → Bool
  | [] => true
  | b :: t => !([45, 45, 62].isPrefixOf (b :: t)) && !([45, 45, 33, 62].isPrefixOf (b :: t)) && noEnd t
def fitL (l : List UInt8) : Bool := !([62].isPrefixOf l) && !([45, 62].isPrefixOf l) && noEnd l

/-- Where no comment ends, a byte is data. -/
theorem comS_or (b : UInt8) (t : List UInt8) : (comS (b :: t)).1 = [] ∨ (comS (b :: t) = pre (nul1 b) 1 (comS t) ∧ [45, 45, 62].isPrefixOf (b :: t) = false ∧ [45, 45, 33, 62].isPrefixOf (b :: t) = false) := by
  rw [comS]
  by_cases h1 : [45, 45, 62].isPrefixOf (b :: t) = true
  · rw [if_pos h1]; exact .inl rfl
  · rw [if_neg h1]
    by_cases h2 : [45, 45, 33, 62].isPrefixOf (b :: t) = true
    · rw [if_pos h2]; exact .inl rfl
    · rw [if_neg h2]
      split
      · exact .inl rfl
      · split
        · exact .inl rfl
        · split
          · exact .inl rfl
          · exact .inr ⟨rfl, Bool.eq_false_iff.2 h1, Bool.eq_false_iff.2 h2⟩
theorem comS_hd {c : UInt8} (hc : c ≠ 239) : ∀ {t x : List UInt8}, (comS t).1 = c :: x → ∃ t', t = c :: t' ∧ (comS t').1 = x ∧ [45, 45, 62].isPrefixOf t = false ∧ [45, 45, 33, 62].isPrefixOf t = false
  | [], _, h => by cases h
  | b :: t, x, h => by
    rcases comS_or b t with h0 | ⟨h1, h2, h3⟩
    · rw [h0] at h; cases h
    · rw [h1] at h
      have h' : nul1 b ++ (comS t).1 = c :: x := h
      unfold nul1 at h'
      by_cases hb : b = 0
      · rw [if_pos hb] at h'
        injection h' with h4 _
        exact absurd h4.symm hc
      · rw [if_neg hb] at h'
        injection h' with h4 h5
        subst h4
        exact ⟨t, rfl, h5, h2, h3⟩
theorem pre_of {p l : List UInt8} (h : p.isPrefixOf l = true) : ∃ r, l = p ++ r := by
  obtain ⟨r, hr⟩ := List.isPrefixOf_iff_prefix.1 h
  exact ⟨r, hr.symm⟩
theorem comS_no1 (t : List UInt8) : [45, 45, 62].isPrefixOf (comS t).1 = false := by
  rw [Bool.eq_false_iff]
  intro h
  obtain ⟨r, hr⟩ := pre_of h
  obtain ⟨t1, rfl, h1, hn, _⟩ := comS_hd (by decide) hr
  obtain ⟨t2, rfl, h2, _, _⟩ := comS_hd (by decide) h1
  obtain ⟨t3, rfl, h3, _, _⟩ := comS_hd (by decide) h2
  simp [List.isPrefixOf] at hn
theorem comS_no2 (t : List UInt8) : [45, 45, 33, 62].isPrefixOf (comS t).1 = false := by
  rw [Bool.eq_false_iff]
  intro h
  obtain ⟨r, hr⟩ := pre_of h
  obtain ⟨t1, rfl, h1, _, hn⟩ := comS_hd (by decide) hr
  obtain ⟨t2, rfl, h2, _, _⟩ := comS_hd (by decide) h1
  obtain ⟨t3, rfl, h3, _, _⟩ := comS_hd (by decide) h2
  obtain ⟨t4, rfl, h4, _, _⟩ := comS_hd (by decide) h3
  simp [List.isPrefixOf] at hn
theorem comS_noEnd : ∀ t : List UInt8, noEnd (comS t).1 = true
  | [] => rfl
  | b :: t => by
    have ih := comS_noEnd t
    have n1 := comS_no1 (b :: t)
    have n2 := comS_no2 (b :: t)
    rcases comS_or b t with h0 | ⟨h1, _, _⟩
    · rw [h0]; rfl
    · rw [h1] at n1 n2 ⊢
      have e : (pre (nul1 b) 1 (comS t)).1 = nul1 b ++ (comS t).1 := rfl
      rw [e] at n1 n2 ⊢
      unfold nul1 at n1 n2 ⊢
      by_cases hb : b = 0
      · rw [if_pos hb]
        show noEnd (239 :: 191 :: 189 :: (comS t).1) = true
        simp [noEnd, List.isPrefixOf, ih]
      · rw [if_neg hb] at n1 n2 ⊢
        have n1' : [45, 45, 62].isPrefixOf (b :: (comS t).1) = false := n1
        have n2' : [45, 45, 33, 62].isPrefixOf (b :: (comS t).1) = false := n2
        show noEnd (b :: (comS t).1) = true
        rw [noEnd, n1', n2', ih]
        rfl
/-- What any comment is read as is data that is read back. -/
theorem com_fit (u : List UInt8) : fitL (comL u).1 = true := by
  unfold comL
  by_cases h1 : [62].isPrefixOf u = true
  · rw [if_pos h1]; rfl
  · rw [if_neg h1]
    by_cases h2 : [45, 62].isPrefixOf u = true
    · rw [if_pos h2]; rfl
    · rw [if_neg h2]
      unfold fitL
      have a1 : [62].isPrefixOf (comS u).1 = false := by
        rw [Bool.eq_false_iff]
        intro h
        obtain ⟨r, hr⟩ := pre_of h
        obtain ⟨t1, rfl, _, _, _⟩ := comS_hd (by decide) hr
        simp [List.isPrefixOf] at h1
      have a2 : [45, 62].isPrefixOf (comS u).1 = false := by
        rw [Bool.eq_false_iff]
        intro h
        obtain ⟨r, hr⟩ := pre_of h
        obtain ⟨t1, rfl, h3, _, _⟩ := comS_hd (by decide) hr
        obtain ⟨t2, rfl, _, _, _⟩ := comS_hd (by decide) h3
        simp [List.isPrefixOf] at h2
      rw [a1, a2, comS_noEnd]
      rfl

theorem no_end1 (b : UInt8) (d m : List UInt8) (h : [45, 45, 62].isPrefixOf (b :: d) = false) : [45, 45, 62].isPrefixOf (b :: (d ++ 45 :: 45 :: 62 :: m)) = false := by
  match d, h with
  | [], _ => simp [List.isPrefixOf]
  | [x], _ => simp [List.isPrefixOf]
  | x :: y :: d, h => simpa [List.isPrefixOf] using h
theorem no_end2 (b : UInt8) (d m : List UInt8) (h : [45, 45, 33, 62].isPrefixOf (b :: d) = false) : [45, 45, 33, 62].isPrefixOf (b :: (d ++ 45 :: 45 :: 62 :: m)) = false := by
  match d, h with
  | [], _ => simp [List.isPrefixOf]
  | [x], _ => simp [List.isPrefixOf]
  | [x, y], _ => simp [List.isPrefixOf]
  | x :: y :: z :: d, h => simpa [List.isPrefixOf] using h
theorem comS_back (m : List UInt8) : ∀ d : List UInt8, (∀ x ∈ d, x ≠ 0) → noEnd d = true → comS (d ++ 45 :: 45 :: 62 :: m) = (d, d.length + 3)
  | [], _, _ => by
    show comS (45 :: 45 :: 62 :: m) = _
    rw [comS, if_pos (by simp [List.isPrefixOf])]
    rfl
  | b :: d, hz, hn => by
    rw [noEnd, Bool.and_eq_true, Bool.and_eq_true] at hn
    obtain ⟨⟨h1, h2⟩, h3⟩ := hn
    have e1 := no_end1 b d m (by rw [Bool.not_eq_true'] at h1; exact h1)
    have e2 := no_end2 b d m (by rw [Bool.not_eq_true'] at h2; exact h2)
    have hl : 4 ≤ (b :: (d ++ 45 :: 45 :: 62 :: m)).length := by simp; omega
    have ih := comS_back m d (fun x hx => hz x (by simp [hx])) h3
    rw [List.cons_append, comS, e1, e2, if_neg Bool.false_ne_true, if_neg Bool.false_ne_true, if_neg (fun e => by rw [e] at hl; simp at hl), if_neg (fun e => by rw [e] at hl; simp at hl), if_neg (fun e => by rw [e] at hl; simp at hl), ih]
    have hb : nul1 b = [b] := by unfold nul1; exact if_neg (hz b (by simp))
    rw [hb]
    show ([b] ++ d, 1 + (d.length + 3)) = _
    rw [List.length_cons]
    congr 1
    omega
/-- Such data is read back. -/
theorem com_back (d m : List UInt8) (hz : ∀ x ∈ d, x ≠ 0) (hf : fitL d = true) : comL (d ++ 45 :: 45 :: 62 :: m) = (d, d.length + 3) := by
  unfold fitL at hf
  rw [Bool.and_eq_true, Bool.and_eq_true] at hf
  obtain ⟨⟨h1, h2⟩, h3⟩ := hf
  have a1 : [62].isPrefixOf (d ++ 45 :: 45 :: 62 :: m) = false := by
    match d, h1 with
    | [], _ => simp [List.isPrefixOf]
    | x :: d, h => simpa [List.isPrefixOf] using h
  have a2 : [45, 62].isPrefixOf (d ++ 45 :: 45 :: 62 :: m) = false := by
    match d, h2 with
    | [], _ => simp [List.isPrefixOf]
    | [x], _ => simp [List.isPrefixOf]
    | x :: y :: d, h => rw [Bool.not_eq_true'] at h; exact h
  unfold comL
  rw [a1, a2, if_neg Bool.false_ne_true, if_neg Bool.false_ne_true]
  exact comS_back m d hz h3
end Go.Proofs.YtofiaodpjpjedaaGreatDoor

namespace Go.Proofs.YtofiaodpjpjedaaGreatDoor
open Go.RowKit Go.Lib
set_option maxHeartbeats 1000000
set_option maxRecDepth 100000

theorem preB_cut (s p : ByteArray) : ((s.extract 0 p.size).toList == p.toList) = p.data.toList.isPrefixOf s.data.toList := by
  rw [Bool.eq_iff_iff, List.isPrefixOf_iff_prefix, List.prefix_iff_eq_take, beq_iff_eq, ByteArray.toList_eq, ByteArray.toList_eq, Lib.extract_data, List.drop_zero, Nat.sub_zero, size_list]
  exact ⟨fun h => h.symm, fun h => h.symm⟩
theorem preB_long {s p : ByteArray} (h : ¬ p.size ≤ s.size) : p.data.toList.isPrefixOf s.data.toList = false := by
  rw [Bool.eq_false_iff]
  intro e
  have := (List.isPrefixOf_iff_prefix.1 e).length_le
  rw [size_list, size_list] at this
  exact h this

theorem rBegins1 (s p : ByteArray) (w : World) :
    Calls Tryz.prog 67 #[.string s, .string p] w fun e w' => e = .returned (.bool (p.data.toList.isPrefixOf s.data.toList)) ∧ w' = w := by
  by_cases hl : p.size ≤ s.size
  · have hI : (p.size : Int) ≤ (s.size : Int) := by omega
    have HE := Lib.hid (preB_cut s p)
    go_enter Tryz.func67, Tryz.ntmps67
    go_wp2
    go_ret
    exact ⟨ret_bool HE.out, rfl⟩
  · have hI : (s.size : Int) < (p.size : Int) := by omega
    have HE := Lib.hid (preB_long hl)
    go_enter Tryz.func67, Tryz.ntmps67
    go_wp2
    go_ret
    exact ⟨ret_bool HE.out.symm, rfl⟩
end Go.Proofs.YtofiaodpjpjedaaGreatDoor

namespace Go.Proofs.YtofiaodpjpjedaaGreatDoor
open Go.RowKit Go.Shelf Go.Lib
set_option maxHeartbeats 4000000
set_option maxRecDepth 100000

theorem noEnd_drop {s : ByteArray} {k : Nat} (hk : k < s.size) : noEnd (s.data.toList.drop k) = (!([45, 45, 62].isPrefixOf (s.data.toList.drop k)) && !([45, 45, 33, 62].isPrefixOf (s.data.toList.drop k)) && noEnd (s.data.toList.drop (k + 1))) := by
  rw [drop_byte s k hk, noEnd]
theorem comS_len : ∀ t : List UInt8, (comS t).1.length ≤ 3 * t.length
  | [] => Nat.zero_le _
  | b :: t => by
    have ih := comS_len t
    rcases comS_or b t with h0 | ⟨h1, _, _⟩
    · rw [h0]; exact Nat.zero_le _
    · rw [h1]
      have e : (pre (nul1 b) 1 (comS t)).1 = nul1 b ++ (comS t).1 := rfl
      have : (nul1 b).length ≤ 3 := by unfold nul1; split <;> simp
      rw [e, List.length_append, List.length_cons]
      omega
theorem comL_len (t : List UInt8) : (comL t).1.length ≤ 3 * t.length := by
  unfold comL
  split
  · exact Nat.zero_le _
  · split
    · exact Nat.zero_le _
    · exact comS_len t
theorem tl0 (B : ByteArray) : clip B 0 = 0 ∧ tlS B 0 = B.data.toList := by
  have : clip B 0 = 0 := by unfold clip; omega
  exact ⟨this, by unfold tlS; rw [this]; rfl⟩
end Go.Proofs.YtofiaodpjpjedaaGreatDoor

namespace Go.Proofs.YtofiaodpjpjedaaGreatDoor
open Go.RowKit Go.Shelf Go.Lib

theorem app_list (a b : ByteArray) : (a ++ b).data.toList = a.data.toList ++ b.data.toList := by rw [ByteArray.data_append, Array.toList_append]
/-- A call of Reference whose answer is known. -/
theorem refIs (B V : ByteArray) (attr : Bool) (x : Int) (N : Nat) (h : refL lgL attr B.data.toList = (V.data.toList, N)) (hx : x = (N : Int)) (hB : B.size ≤ 10000000) (m : Int) (w : World) (hc : CtlW w) (hm : w.cell? ⟨1, 0, none⟩ = some (.int .i64 m)) :
    Calls Tryz.prog 16 #[.string B, .int .i64 0, .bool attr] w fun e w' => e = .returned (.tuple #[.string V, .int .i64 x]) ∧ Below w.heap.size w w' := by
  refine (referenceC lgL (Lib.hid lgOk) B 0 attr m hB w hc hm).mono ?_
  rintro e w' ⟨V1, N1, rfl, h1, h2, _, hb⟩
  rw [(tl0 B).2, h] at h1 h2
  rw [(tl0 B).1, list_bytes _ _ h1, h2, hx, Nat.zero_add]
  exact ⟨rfl, hb⟩
end Go.Proofs.YtofiaodpjpjedaaGreatDoor

namespace Go.Proofs.YtofiaodpjpjedaaGreatDoor
open Go.Lib
set_option maxRecDepth 100000

theorem encT8_encU (r : Int) (h : 0 ≤ r ∧ r ≤ 1114111 ∧ (r ≤ 55295 ∨ 57344 ≤ r)) : encT8 r = encU r := by
  obtain ⟨n, rfl⟩ : ∃ n : Nat, r = n := ⟨r.toNat, by omega⟩
  have hv : Utf8.valid (n : Int) = true := by simp [Utf8.valid]; omega
  unfold encT8 Utf8.encode encU encZ
  simp only [hv, if_true, Int.toNat_natCast]
  by_cases h1 : n < 128
  · rw [if_pos (show n < 0x80 from h1), if_pos (show (n : Int) < 128 by omega)]
    rfl
  · rw [if_neg (show ¬ n < 0x80 from h1), if_neg (show ¬ (n : Int) < 128 by omega)]
    by_cases h2 : n < 2048
    · rw [if_pos (show n < 0x800 from h2), if_pos (show (n : Int) < 2048 by omega)]
      show [_, _] = [UInt8.ofNat (Int.toNat _), UInt8.ofNat (Int.toNat _)]
      rw [show (192 + (n : Int) / 64).toNat = 0xC0 + n / 64 by omega, show (128 + (n : Int) % 64).toNat = 0x80 + n % 64 by omega]
    · rw [if_neg (show ¬ n < 0x800 from h2), if_neg (show ¬ (n : Int) < 2048 by omega)]
      by_cases h3 : n < 65536
      · rw [if_pos (show n < 0x10000 from h3), if_pos (show (n : Int) < 65536 by omega)]
        show [_, _, _] = [UInt8.ofNat (Int.toNat _), UInt8.ofNat (Int.toNat _), UInt8.ofNat (Int.toNat _)]
        rw [show (224 + (n : Int) / 4096).toNat = 0xE0 + n / 4096 by omega, show (128 + (n : Int) / 64 % 64).toNat = 0x80 + n / 64 % 64 by omega, show (128 + (n : Int) % 64).toNat = 0x80 + n % 64 by omega]
      · rw [if_neg (show ¬ n < 0x10000 from h3), if_neg (show ¬ (n : Int) < 65536 by omega)]
        show [_, _, _, _] = [UInt8.ofNat (Int.toNat _), UInt8.ofNat (Int.toNat _), UInt8.ofNat (Int.toNat _), UInt8.ofNat (Int.toNat _)]
        rw [show (240 + (n : Int) / 262144).toNat = 0xF0 + n / 262144 by omega, show (128 + (n : Int) / 4096 % 64).toNat = 0x80 + n / 4096 % 64 by omega, show (128 + (n : Int) / 64 % 64).toNat = 0x80 + n / 64 % 64 by omega, show (128 + (n : Int) % 64).toNat = 0x80 + n % 64 by omega]

/-- The digits t in front of anything take a number from k to n. -/
def Digs (p : Int → Bool) (B : Int) (t : List UInt8) (k n : Int) : Prop := ∀ (r : List UInt8) (j : Nat), digRun p B (t ++ r) (min k 1114112) j = digRun p B r (min n 1114112) (j + t.length)
theorem Digs.nil (p : Int → Bool) (B n : Int) : Digs p B [] n n := fun _ _ => rfl
theorem Digs.cons {p : Int → Bool} {B : Int} {t : List UInt8} {k n : Int} (h : Digs p B t k n) (hk : 0 ≤ k) (hB : B = 10 ∨ B = 16) (d : UInt8) (hp : p d.toNat = true) (hd : dvZ d.toNat = k % B) : Digs p B (d :: t) (k / B) n := by
  intro r j
  have e : min (min (k / B) 1114112 * B + k % B) 1114112 = min k 1114112 := by
    rcases hB with rfl | rfl
    · omega
    · omega
  rw [List.cons_append, digRun, hp, if_pos rfl, hd, e, h r (j + 1), List.length_cons, Nat.add_assoc, Nat.add_comm 1]
/-- The digit that stands at an index. -/
def digC (x : Int) : UInt8 := UInt8.ofNat (if x < 10 then 48 + x else 87 + x).toNat
theorem digC_hex (x : Int) (h0 : 0 ≤ x) (h1 : x < 16) : hexB (digC x).toNat = true ∧ dvZ (digC x).toNat = x := by
  obtain ⟨k, rfl⟩ : ∃ k : Fin 16, x = (k.val : Int) := ⟨⟨x.toNat, by omega⟩, by simp; omega⟩
  have key : ∀ k : Fin 16, hexB (digC (k.val : Int)).toNat = true ∧ dvZ (digC (k.val : Int)).toNat = (k.val : Int) := by decide +kernel
  exact key k
theorem digC_ten (x : Int) (h0 : 0 ≤ x) (h1 : x < 10) : digB (digC x).toNat = true ∧ dvZ (digC x).toNat = x := by
  obtain ⟨k, rfl⟩ : ∃ k : Fin 10, x = (k.val : Int) := ⟨⟨x.toNat, by omega⟩, by simp; omega⟩
  have key : ∀ k : Fin 10, digB (digC (k.val : Int)).toNat = true ∧ dvZ (digC (k.val : Int)).toNat = (k.val : Int) := by decide +kernel
  exact key k
/-- "0123456789abcdef" -/
def allD : ByteArray := ⟨#[48, 49, 50, 51, 52, 53, 54, 55, 56, 57, 97, 98, 99, 100, 101, 102]⟩
theorem allD_at (x : Int) (h0 : 0 ≤ x) (h1 : x < 16) : (allD.extract x.toNat (x + 1).toNat).data.toList = [digC x] := by
  obtain ⟨k, rfl⟩ : ∃ k : Fin 16, x = (k.val : Int) := ⟨⟨x.toNat, by omega⟩, by simp; omega⟩
  have key : ∀ k : Fin 16, (allD.extract (k.val : Int).toNat ((k.val : Int) + 1).toNat).data.toList = [digC (k.val : Int)] := by decide +kernel
  exact key k
/-- How long: z digits of a number of which k is left. -/
def DigZ (z : Nat) (k : Int) : Prop := 0 ≤ k ∧ k.toNat * 2 ^ z ≤ 2 ^ 40
theorem DigZ.start {n : Int} (h0 : 0 ≤ n) (h1 : n ≤ 1099511627776) : DigZ 0 n := ⟨h0, by omega⟩
theorem DigZ.le {z : Nat} {k : Int} (h : DigZ z k) (hk : 0 < k) : z ≤ 40 := by
  have h1 : 1 * 2 ^ z ≤ k.toNat * 2 ^ z := Nat.mul_le_mul_right _ (by omega)
  have h2 : 2 ^ z ≤ 2 ^ 40 := by have := h.2; omega
  exact (Nat.pow_le_pow_iff_right (by decide)).1 h2
theorem DigZ.next {z : Nat} {k : Int} (h : DigZ z k) (B : Int) (hB : B = 10 ∨ B = 16) : DigZ (z + 1) (k / B) := by
  have hk := h.1
  refine ⟨by rcases hB with rfl | rfl <;> omega, ?_⟩
  have e : (k / B).toNat * 2 ≤ k.toNat := by rcases hB with rfl | rfl <;> omega
  have h1 : (k / B).toNat * 2 * 2 ^ z ≤ k.toNat * 2 ^ z := Nat.mul_le_mul_right _ e
  rw [Nat.pow_succ, Nat.mul_comm (2 ^ z) 2, ← Nat.mul_assoc]
  exact Nat.le_trans h1 h.2

theorem digRun_semi (p : Int → Bool) (B : Int) (hp : p 59 = false) (r : List UInt8) (c : Int) (j : Nat) : digRun p B (59 :: r) c j = (c, j) := by
  rw [digRun]
  have : p ((59 : UInt8).toNat : Int) = false := hp
  rw [this, if_neg (by simp)]
theorem num_ten {c : UInt8} (r : List UInt8) (h : hexMark c = false) : numericL (c :: r) = digitsL [38, 35] 0 (digRun digB 10 (c :: r) 0 0) (c :: r) := by
  unfold numericL
  simp only
  rw [h, if_neg (by simp)]
theorem num_hex {c : UInt8} (r : List UInt8) (h : hexMark c = true) : numericL (c :: r) = digitsL [38, 35, c] 1 (digRun hexB 16 r 0 0) r := by
  unfold numericL
  simp only
  rw [h, if_pos rfl]
theorem ref_35 (lg : List UInt8 → Nat × List UInt8) (attr : Bool) (r : List UInt8) : refL lg attr (35 :: r) = ((numericL r).1, (numericL r).2 + 1) := by
  unfold refL
  simp only
  rw [if_neg (by decide), if_pos trivial]
theorem digits_semi (o : List UInt8) (k : Nat) (v : Int) (u more : List UInt8) (hu : 0 < u.length) : digitsL o k (v, u.length) (u ++ 59 :: more) = (encT8 (cpZ v), k + u.length + 1) := by
  unfold digitsL
  simp only
  rw [if_neg (by omega), List.drop_left, List.head?_cons, if_pos rfl]
/-- A decimal number that begins with a zero. -/
theorem ref_ten (lg : List UInt8 → Nat × List UInt8) (attr : Bool) (u more : List UInt8) (n : Int) (hu : ∃ t, u = 48 :: t) (h : Digs digB 10 u 0 n) :
    refL lg attr (35 :: (u ++ 59 :: more)) = (encT8 (cpZ (min n 1114112)), u.length + 2) := by
  have h1 := h (59 :: more) 0
  rw [show min (0 : Int) 1114112 = 0 by decide, digRun_semi _ _ (by decide), Nat.zero_add] at h1
  obtain ⟨t, rfl⟩ := hu
  rw [ref_35, List.cons_append, num_ten _ (by decide), ← List.cons_append, h1, digits_semi _ _ _ _ _ (by simp), Nat.zero_add]
theorem ref_hex (lg : List UInt8 → Nat × List UInt8) (attr : Bool) (u more : List UInt8) (n : Int) (hu : ∃ t, u = 48 :: t) (h : Digs hexB 16 u 0 n) :
    refL lg attr (35 :: 88 :: (u ++ 59 :: more)) = (encT8 (cpZ (min n 1114112)), u.length + 3) := by
  have h1 := h (59 :: more) 0
  rw [show min (0 : Int) 1114112 = 0 by decide, digRun_semi _ _ (by decide), Nat.zero_add] at h1
  have hl : 0 < u.length := by
    obtain ⟨t, rfl⟩ := hu
    simp
  rw [ref_35, num_hex _ (by decide), h1, digits_semi _ _ _ _ _ hl, show 1 + u.length + 1 + 1 = u.length + 3 by omega]
/-- One zero more ahead. -/
theorem Digs.zero {p : Int → Bool} {B : Int} {t : List UInt8} {n : Int} (h : Digs p B t 0 n) (hp : p 48 = true) : Digs p B (48 :: t) 0 n := by
  intro r j
  have h1 := h r (j + 1)
  rw [show min (0 : Int) 1114112 = 0 by decide] at h1 ⊢
  have hp' : p ((48 : UInt8).toNat : Int) = true := hp
  rw [List.cons_append, digRun, hp', if_pos rfl, show dvZ ((48 : UInt8).toNat : Int) = 0 by decide, Int.zero_mul, show min ((0 : Int) + 0) 1114112 = 0 by decide, h1, List.length_cons, Nat.add_assoc, Nat.add_comm 1]
end Go.Proofs.YtofiaodpjpjedaaGreatDoor

namespace Go.Proofs.YtofiaodpjpjedaaGreatDoor
open Go.RowKit Go.Shelf Go.Lib
set_option maxHeartbeats 4000000
set_option maxRecDepth 100000

theorem tdiv_in {K B : Int} (h0 : 0 ≤ K) (h1 : K ≤ 1099511627776) (hB : B = 10 ∨ B = 16) : wrap64 (K.tdiv B) = K / B := by
  rw [Int.tdiv_eq_ediv_of_nonneg h0]
  exact IntWalk.wrap64_in _ (by rcases hB with rfl | rfl <;> omega)
theorem digZ_le {z : Nat} {K : Int} (h : DigZ z K) : K ≤ 1099511627776 := by
  have h1 : K.toNat * 1 ≤ K.toNat * 2 ^ z := Nat.mul_le_mul_left _ (Nat.one_le_two_pow)
  have := h.2
  have := h.1
  omega
/-- One digit more ahead. -/
theorem digs_step {p : Int → Bool} {B : Int} {T : ByteArray} {K n : Int} (h : Digs p B T.data.toList K n) (hz : DigZ T.size K) (hK : 0 < K) (hB : B = 10 ∨ B = 16) (hp : p (digC (K % B)).toNat = true) (hd : dvZ (digC (K % B)).toNat = K % B) :
    Digs p B (allD.extract (K % B).toNat (K % B + 1).toNat ++ T).data.toList (K / B) n ∧ DigZ (allD.extract (K % B).toNat (K % B + 1).toNat ++ T).size (K / B) ∧ (allD.extract (K % B).toNat (K % B + 1).toNat ++ T).size ≤ 41 := by
  have e : (allD.extract (K % B).toNat (K % B + 1).toNat ++ T).data.toList = digC (K % B) :: T.data.toList := by
    rw [app_list, allD_at (K % B) (by rcases hB with rfl | rfl <;> omega) (by rcases hB with rfl | rfl <;> omega)]
    rfl
  have z : (allD.extract (K % B).toNat (K % B + 1).toNat ++ T).size = T.size + 1 := by
    have h := congrArg List.length e
    rw [size_list, List.length_cons, size_list] at h
    exact h
  have hle := hz.le hK
  refine ⟨?_, ?_, by omega⟩
  · rw [e]; exact h.cons (by omega) hB _ hp hd
  · rw [z]; exact hz.next B hB

theorem lawNumbers (n zeros : Int) (more : ByteArray) (attr : Bool) (m : Int) (w : World) (hm : w.cell? ⟨1, 0, none⟩ = some (.int .i64 m)) (hc : CtlW w) :
    Calls Tryz.prog 11 #[.int .i64 n, .int .i64 zeros, .string more, .bool attr] w fun e w' => e = .returned (.bool true) ∧ Below w.heap.size w w' := by
  have HM := Lib.hid hm
  have HC := Lib.hid hc
  have HS := Lib.hid (small02 more)
  have HK := Lib.hid (known02 m w hc hm)
  clear hm hc
  have early : ∀ (d0 : decide (n < 0) = true ∨ (decide (n < 0) = false ∧ decide (1099511627776 < n) = true) ∨ (decide (n < 0) = false ∧ decide (1099511627776 < n) = false ∧ decide (zeros < 0) = true) ∨ (decide (n < 0) = false ∧ decide (1099511627776 < n) = false ∧ decide (zeros < 0) = false ∧ decide (100 < zeros) = true)),
      Calls Tryz.prog 11 #[.int .i64 n, .int .i64 zeros, .string more, .bool attr] w fun e w' => e = .returned (.bool true) ∧ Below w.heap.size w w' := by
    intro d0
    rcases d0 with d0 | ⟨d0, d1⟩ | ⟨d0, d1, d2⟩ | ⟨d0, d1, d2, d3⟩
    all_goals
      go_enter Tryz.func11, Tryz.ntmps11
      go_wp2_with fail
      refine HK.out.mono ?_
      rintro e w4 ⟨rfl, hb⟩
      go_wp2_with fail
      go_ret
      exact ⟨rfl, hb⟩
  by_cases c0 : n < 0
  · exact early (.inl (decide_eq_true c0))
  by_cases c1 : 1099511627776 < n
  · exact early (.inr (.inl ⟨decide_eq_false c0, decide_eq_true c1⟩))
  by_cases c2 : zeros < 0
  · exact early (.inr (.inr (.inl ⟨decide_eq_false c0, decide_eq_false c1, decide_eq_true c2⟩)))
  by_cases c3 : 100 < zeros
  · exact early (.inr (.inr (.inr ⟨decide_eq_false c0, decide_eq_false c1, decide_eq_false c2, decide_eq_true c3⟩)))
  clear early
  have d0 := decide_eq_false c0
  have d1 := decide_eq_false c1
  have d2 := decide_eq_false c2
  have d3 := decide_eq_false c3
  by_cases hsm : more.size ≤ 4096
  · rw [decide_eq_true hsm] at HS
    have HSM := Lib.hid hsm
    have g0 : 0 ≤ n := by omega
    have g1 : n ≤ 1099511627776 := by omega
    have G0 := Lib.hid g0
    have G1 := Lib.hid g1
    have G2 := Lib.hid (show 0 ≤ zeros by omega)
    have G3 := Lib.hid (show zeros ≤ 100 by omega)
    clear c0 c1 c2 c3 hsm g0 g1
    go_enter Tryz.func11, Tryz.ntmps11
    go_wp2_with fail
    refine (HS.out w).mono ?_
    rintro e w1 ⟨rfl, rfl⟩
    clear HS
    go_wp2_with fail
    clear d0 d1 d2 d3
    rw [show (ByteArray.mk #[48, 49, 50, 51, 52, 53, 54, 55, 56, 57, 97, 98, 99, 100, 101, 102]) = allD from rfl]
    have hA : allD.size = 16 := rfl
    have HAS := Lib.hid hA
    clear hA
    generalize hD : allD = AD
    rw [hD] at HAS
    have HAD := Lib.hid hD
    clear hD
    go_loopw [10, 12] (fun t k wr => ∃ (T : ByteArray) (K : Int), t = .string T ∧ k = .int .i64 K ∧ Digs digB 10 T.data.toList K n ∧ DigZ T.size K ∧ T.size ≤ 41 ∧ Below w1.heap.size w1 wr) (fun _ k _ => (intOf k).toNat)
    case atStart => exact ⟨⟨#[]⟩, n, rfl, rfl, Digs.nil _ _ _, DigZ.start G0.out G1.out, by decide, Below.refl _ _⟩
    case round =>
      obtain ⟨T, K, rfl, rfl, hd, hz, h41, hB⟩ := hrel
      have HDI := Lib.hid hd
      have HDZ := Lib.hid hz
      have hK0 := hz.1
      clear hd hz
      by_cases hK : 0 < K
      · have st := digs_step HDI.out HDZ.out hK (.inl rfl) (digC_ten (K % 10) (by omega) (by omega)).1 (digC_ten (K % 10) (by omega) (by omega)).2
        have ST := Lib.hid st
        have z16 : (AD.size : Int) = 16 := by rw [HAS.out]; rfl
        have r0 : 0 ≤ K % 10 := by omega
        have r1 : K % 10 ≤ 9 := by omega
        have dK : decide (0 < K) = true := decide_eq_true hK
        clear st
        go_wp2_with fail
        go_roundw
        case rel =>
          rw [tdiv_in (by omega) (digZ_le HDZ.out) (.inl rfl), ← HAD.out]
          exact ⟨_, _, rfl, rfl, ST.out.1, ST.out.2.1, ST.out.2.2, hB⟩
        case measure =>
          simp only [intOf]
          rw [tdiv_in (by omega) (digZ_le HDZ.out) (.inl rfl)]
          omega
      · have dK : decide (0 < K) = false := decide_eq_false hK
        obtain rfl : K = 0 := by omega
        have HD10 := HDI
        have HT41 := Lib.hid h41
        have HB1 := Lib.hid hB
        clear hK hK0 HDI HDZ h41 hB
        go_wp2_with fail
        clear dK
        go_loopw [11, 13] (fun t k wx => ∃ (U : ByteArray) (K : Int), t = .string U ∧ k = .int .i64 K ∧ Digs hexB 16 U.data.toList K n ∧ DigZ U.size K ∧ U.size ≤ 41 ∧ Below w1.heap.size w1 wx) (fun _ k _ => (intOf k).toNat)
        case atStart => exact ⟨⟨#[]⟩, n, rfl, rfl, Digs.nil _ _ _, DigZ.start G0.out G1.out, by decide, HB1.out⟩
        case round =>
          obtain ⟨U, K, rfl, rfl, hd, hz, h41, hB⟩ := hrel
          have HDI := Lib.hid hd
          have HDZ := Lib.hid hz
          have hK0 := hz.1
          clear hd hz
          by_cases hK : 0 < K
          · have st := digs_step HDI.out HDZ.out hK (.inr rfl) (digC_hex (K % 16) (by omega) (by omega)).1 (digC_hex (K % 16) (by omega) (by omega)).2
            have ST := Lib.hid st
            have z16 : (AD.size : Int) = 16 := by rw [HAS.out]; rfl
            have r0 : 0 ≤ K % 16 := by omega
            have r1 : K % 16 ≤ 15 := by omega
            have dK : decide (0 < K) = true := decide_eq_true hK
            clear st
            go_wp2_with fail
            go_roundw
            case rel =>
              rw [tdiv_in (by omega) (digZ_le HDZ.out) (.inr rfl), ← HAD.out]
              exact ⟨_, _, rfl, rfl, ST.out.1, ST.out.2.1, ST.out.2.2, hB⟩
            case measure =>
              simp only [intOf]
              rw [tdiv_in (by omega) (digZ_le HDZ.out) (.inr rfl)]
              omega
          · have dK : decide (0 < K) = false := decide_eq_false hK
            obtain rfl : K = 0 := by omega
            have HD16 := HDI
            have HU41 := Lib.hid h41
            have HB2 := Lib.hid hB
            clear hK hK0 HDI HDZ h41 hB
            go_wp2_with fail
            clear dK
            go_loopw [10, 11, 14] (fun t h i wy => ∃ (T U : ByteArray) (I : Int), t = .string T ∧ h = .string U ∧ i = .int .i64 I ∧ 0 ≤ I ∧ I ≤ zeros + 1 ∧ Digs digB 10 T.data.toList 0 n ∧ Digs hexB 16 U.data.toList 0 n ∧ (T.size : Int) ≤ 41 + I ∧ (U.size : Int) ≤ 41 + I ∧ (0 < I → (∃ r, T.data.toList = 48 :: r) ∧ ∃ r, U.data.toList = 48 :: r) ∧ Below w1.heap.size w1 wy) (fun _ _ i _ => (zeros + 1 - intOf i).toNat)
            case atStart => exact ⟨T, U, 0, rfl, rfl, rfl, by omega, by have := G2.out; omega, HD10.out, HD16.out, by have := HT41.out; omega, by have := HU41.out; omega, fun h => absurd h (by decide), HB2.out⟩
            case round =>
              obtain ⟨T', U', I, rfl, rfl, rfl, i0, i1, hd1, hd2, hz1, hz2, hh, hB⟩ := hrel
              have HI1 := Lib.hid hd1
              have HI2 := Lib.hid hd2
              have HH := Lib.hid hh
              have hzz : zeros ≤ 100 := G3.out
              clear hd1 hd2 hh
              by_cases hI : I ≤ zeros
              · have dI : decide (I ≤ zeros) = true := decide_eq_true hI
                go_wp2_with fail
                go_roundw
                case rel =>
                  have e1 : ((⟨#[48]⟩ : ByteArray) ++ T').data.toList = 48 :: T'.data.toList := app_list _ _
                  have e2 : ((⟨#[48]⟩ : ByteArray) ++ U').data.toList = 48 :: U'.data.toList := app_list _ _
                  have n1 : ((⟨#[48]⟩ : ByteArray) ++ T').size = T'.size + 1 := by rw [ByteArray.size_append, Nat.add_comm]; rfl
                  have n2 : ((⟨#[48]⟩ : ByteArray) ++ U').size = U'.size + 1 := by rw [ByteArray.size_append, Nat.add_comm]; rfl
                  exact ⟨_, _, _, rfl, rfl, rfl, by omega, by omega, by rw [e1]; exact HI1.out.zero (by decide), by rw [e2]; exact HI2.out.zero (by decide), by rw [n1]; omega, by rw [n2]; omega, fun _ => ⟨⟨_, e1⟩, ⟨_, e2⟩⟩, hB⟩
                case measure =>
                  simp only [intOf]
                  omega
              · have dI : decide (I ≤ zeros) = false := decide_eq_false hI
                have hh2 := HH.out (by have := G2.out; omega)
                have HHT := Lib.hid hh2
                have zT : (T'.size : Int) ≤ 142 := by omega
                have zU : (U'.size : Int) ≤ 142 := by omega
                have zM : (more.size : Int) ≤ 4096 := by have := HSM.out; omega
                obtain ⟨cp, hcp⟩ : ∃ cp, cp = cpZ (min n 1114112) := ⟨_, rfl⟩
                have hbd : 0 ≤ cp ∧ cp ≤ 1114111 ∧ (cp ≤ 55295 ∨ 57344 ≤ cp) := by
                  have := cpZ_bd (min n 1114112)
                  omega
                have HCP := Lib.hid (codePoint (min n 1114112) wr (HC.out.below hB))
                rw [← hcp] at HCP
                obtain ⟨W1, hW1⟩ : ∃ W1, W1 = bl (encU cp) := ⟨_, rfl⟩
                have hwl : W1.data.toList = encT8 cp := by rw [hW1, bl_list, encT8_encU cp hbd]
                have r10 : refL lgL attr ((⟨#[35]⟩ : ByteArray) ++ T' ++ ⟨#[59]⟩ ++ more).data.toList = (W1.data.toList, T'.size + 2) := by
                  rw [app_list, app_list, app_list, hwl, hcp, List.append_assoc, List.append_assoc]
                  have h := ref_ten lgL attr T'.data.toList more.data.toList n HHT.out.1 HI1.out
                  rw [size_list] at h
                  exact h
                have r16 : refL lgL attr ((⟨#[35, 88]⟩ : ByteArray) ++ U' ++ ⟨#[59]⟩ ++ more).data.toList = (W1.data.toList, U'.size + 3) := by
                  rw [app_list, app_list, app_list, hwl, hcp, List.append_assoc, List.append_assoc]
                  have h := ref_hex lgL attr U'.data.toList more.data.toList n HHT.out.2 HI2.out
                  rw [size_list] at h
                  exact h
                have HR10 := Lib.hid (fun W hc hm => refIs ((⟨#[35]⟩ : ByteArray) ++ T' ++ ⟨#[59]⟩ ++ more) W1 attr ((T'.size : Int) + 2) (T'.size + 2) r10 (by omega) (by
                  rw [ByteArray.size_append, ByteArray.size_append, ByteArray.size_append]
                  show 1 + T'.size + 1 + more.size ≤ _
                  omega) m W hc hm)
                have HR16 := Lib.hid (fun W hc hm => refIs ((⟨#[35, 88]⟩ : ByteArray) ++ U' ++ ⟨#[59]⟩ ++ more) W1 attr ((U'.size : Int) + 3) (U'.size + 3) r16 (by omega) (by
                  rw [ByteArray.size_append, ByteArray.size_append, ByteArray.size_append]
                  show 2 + U'.size + 1 + more.size ≤ _
                  omega) m W hc hm)
                have HBD := Lib.hid hbd
                have HW1 := Lib.hid hW1
                clear hh2 hcp hbd hwl r10 r16 hW1
                go_wp2_with fail
                refine HCP.out.mono ?_
                rintro e w2 ⟨rfl, hs2⟩
                have hb2 := below_next hB hs2
                clear hs2
                go_wp2_with fail
                refine (rBytes cp HBD.out.1 HBD.out.2.1 w2).mono ?_
                rintro e w3 ⟨v, rfl, hown, _, hs3⟩
                have hb3 := below_next hb2 hs3
                have hbk : (convert 54 9 v).run Tryz.prog w3 = .ok (.string W1) w3 := by
                  have h := hown
                  rw [← encU_cells cp HBD.out.1 HBD.out.2.1, show (encZ cp).length = (encU cp).length by unfold encU; rw [List.length_map]] at h
                  have h2 := bytes_back h
                  rw [HW1.out]
                  exact h2
                clear hs3 hown
                go_wp2_with fail
                clear hbk
                refine (HR10.out w3 (HC.out.below hb3) (carry HM.out hb3)).mono ?_
                rintro e w4 ⟨rfl, hs4⟩
                have hb4 := below_next hb3 hs4
                clear hs4
                go_wp2_with fail
                refine (kof _ _ w4).mono ?_
                rintro e w5 ⟨rfl, hs5⟩
                have hb5 := below_next hb4 hs5
                clear hs5
                go_wp2_with fail
                refine (kof _ _ w5).mono ?_
                rintro e w6 ⟨rfl, hs6⟩
                have hb6 := below_next hb5 hs6
                clear hs6
                go_wp2_with fail
                refine (HR16.out w6 (HC.out.below hb6) (carry HM.out hb6)).mono ?_
                rintro e w7 ⟨rfl, hs7⟩
                have hb7 := below_next hb6 hs7
                clear hs7
                go_wp2_with fail
                refine (kof _ _ w7).mono ?_
                rintro e w8 ⟨rfl, hs8⟩
                have hb8 := below_next hb7 hs8
                clear hs8
                go_wp2_with fail
                refine (kof _ _ w8).mono ?_
                rintro e w9 ⟨rfl, hs9⟩
                have hb9 := below_next hb8 hs9
                clear hs9
                have HKn := Lib.hid (known02 m w9 (HC.out.below hb9) (carry HM.out hb9))
                go_wp2_with fail
                refine HKn.out.mono ?_
                rintro e w10 ⟨rfl, hs10⟩
                go_wp2_with fail
                go_ret
                exact ⟨rfl, below_next hb9 hs10⟩
  · rw [decide_eq_false hsm] at HS
    clear c0 c1 c2 c3 hsm
    go_enter Tryz.func11, Tryz.ntmps11
    go_wp2_with fail
    refine (HS.out w).mono ?_
    rintro e w1 ⟨rfl, rfl⟩
    go_wp2_with fail
    refine HK.out.mono ?_
    rintro e w4 ⟨rfl, hb⟩
    go_wp2_with fail
    go_ret
    exact ⟨rfl, hb⟩
end Go.Proofs.YtofiaodpjpjedaaGreatDoor

namespace Go.Proofs.YtofiaodpjpjedaaGreatDoor
open Go.ChangeShapes Go.WideShapes Go.ChangeAt Go.RowKit
set_option maxRecDepth 100000

def laidC : List (String × DataW Unit) := [("unicode/utf8.acceptRanges", Rows.laid_unicode_utf8_acceptRanges), ("thicket/text.controls", Rows.laid_thicket_text_controls), ("unicode/utf8.first", Rows.laid_unicode_utf8_first)]
theorem doorC_os (os : Os) : (World.laidAll Tryz.prog os laidC).os = os := World.laidAll_os _ _ _
theorem doorC_met (os : Os) (args : Array Value) : laidMetH Tryz.prog laidC ((World.laidAll Tryz.prog os laidC).forCall (fun _ _ => 0) ⟨#[], args, []⟩).memory := by
  rw [MakeChecks.laidMetH_plain _ _ _ (by kernel_rfl)]
  exact laidMet_laidAll _ (by kernel_rfl) (by kernel_rfl)

theorem gCtl : Tryz.prog.globalNamed "thicket/text.controls" = some 0 := by kernel_rfl
theorem tCtl : (Tryz.prog.globals[0]?).map (·.type) = some 99 := by kernel_rfl
theorem cCtl : Tryz.prog.cellsOf 21 = 1 := by kernel_rfl
theorem ctlD : (Rows.laid_thicket_text_controls : DataW Unit) = .agg (ctlT.map fun z => .lit (.int .i32 z)) := rfl

theorem ctl_of_laid {W : World} (h : laidMetH Tryz.prog laidC W) : CtlW W := by
  rw [MakeChecks.laidMetH_plain _ _ _ (by kernel_rfl)] at h
  obtain ⟨ps, ⟨g0, t0, cs0, f0, p0, q0, hg0, ht0, hv0, hd0, ⟨g1, t1, cs1, f1, p1, q1, hg1, ht1, hv1, hd1, _, _⟩, _⟩, _⟩ := h
  obtain rfl := Option.some.inj (gCtl.symm.trans hg1)
  obtain rfl := Option.some.inj (tCtl.symm.trans ht1)
  obtain ⟨xs, m1, rfl, hx1, hlen, hn, hel⟩ := DataW.trod_array Tryz.underlying99 hd1
  intro k hk
  have h1 := hel k hk
  rw [cCtl, Nat.mul_one] at h1
  have hxk : xs[k]? = some (xs[k]'(by omega)) := List.getElem?_eq_getElem (by omega)
  rw [hxk] at h1
  obtain ⟨z, e1, e2, _⟩ := DataW.trod_int Tryz.underlying21 h1
  have hz : z = ctlT.getD k 0 := by
    have hx2 := congrArg Prod.fst hx1
    rw [ctlD] at hx2
    simp only [DataW.agg.injEq] at hx2
    have h3 : (ctlT.map fun z => (DataW.lit (.int .i32 z) : DataW Unit))[k]? = (xs.map (·.1))[k]? := by rw [hx2]
    rw [List.getElem?_map, List.getElem?_map, hxk, e2] at h3
    have hk2 : k < ctlT.length := hk
    rw [List.getElem?_eq_getElem hk2] at h3
    simp at h3
    rw [List.getD_eq_getElem?_getD, List.getElem?_eq_getElem hk2]
    simpa using h3.symm
  rw [World.var?_cell hg1 hv1 k, ← hz]
  have h4 : (cs1.toList.drop k)[0]? = some (.int .i32 z) := by
    have := congrArg (fun l => l[0]?) e1
    simp only [List.getElem?_take] at this
    simpa using this
  rw [List.getElem?_drop, Nat.add_zero, Array.getElem?_toList] at h4
  exact h4

/-- A row whose start is said to hold more, with the shapes and the listed variables at hand. -/
theorem handedC {H : Type} {enc : TypeId × Value → H} {a : Assume} {os : Os} {f : FuncId} {fn : Func} {s : ChangeSpec} {conds : List PathCond} {apart fresh handsOn again : Bool}
    (own : ownKnob Tryz.prog.godebug = none) (started : os.Started) (noInit : Tryz.prog.inits.idxOf? f = none) (hfn : Tryz.prog.funcs[f]? = some fn)
    (witness : ∃ (w : World) (tape : Tape) (i : Input), w.os = os ∧ (w.forCall tape i).Shaped Tryz.prog ∧ i.vars = [] ∧ Input.okWide Tryz.prog (w.forCall tape i) .any w.heap.size f i ∧
      ((s.pre enc Tryz.prog fn conds apart (w.forCall tape i).memory i.args ∧ laidMetH Tryz.prog laidC (w.forCall tape i).memory) ∧ sizedMet enc Tryz.prog fn (OpenSpec.ofChange s) apart (w.forCall tape i).memory i.args) ∧ a.holds Tryz.prog (lone (Frame.enter Tryz.prog f i.args .normal) [] (w.forCall tape i)))
    (walk : ∀ (W : World) (base : Nat) (args : Array Value) (ds gs : List (DataW H)) (before : List MemPlace),
      (∀ (j : Nat) t v, fn.params[j]? = some t → args[j]? = some v → Value.okWide Tryz.prog W .any base t v) →
      DataW.Whole enc Tryz.prog fn.params.toList s.vars apart W args.toList ds gs before → W.ShapedOpen Tryz.prog → CtlW W →
      Calls Tryz.prog f args W fun e W' => ∃ v, e = .returned v ∧ s.post enc Tryz.prog fn apart fresh handsOn again W args v W') :
    ReturnsInHanded a Tryz.checked os f .any (fun w args => (s.pre enc Tryz.prog fn conds apart w args ∧ laidMetH Tryz.prog laidC w) ∧ sizedMet enc Tryz.prog fn (OpenSpec.ofChange s) apart w args) (s.post enc Tryz.prog fn apart fresh handsOn again) := by
  refine returnsInHanded_of_calls (C := Tryz.checked) own started (by exact noInit) witness ?_
  intro w tape i _ hsh _ hok hpre _
  obtain ⟨_, _, _, fn', hfn', _, _, _, _, hval⟩ := hok
  obtain rfl : fn' = fn := Option.some.inj (hfn'.symm.trans hfn)
  obtain ⟨⟨⟨ds, gs, before, hw, _⟩, hX⟩, _⟩ := hpre
  refine (walk (w.forCall tape i) w.heap.size i.args ds gs before hval (DataW.Whole.of_heap (w' := w.forCall tape i) (by rfl) hw) hsh (ctl_of_laid (laidMetH.of_heap (w' := w.forCall tape i) (by rfl) hX))).mono fun e W' ⟨v, he, hp⟩ => ?_
  subst he
  exact ChangeSpec.post_blind hp
end Go.Proofs.YtofiaodpjpjedaaGreatDoor
