/-
  strings.IndexFunc over a class that takes all runes beyond ASCII or none of them: byte by byte. No program in sight.
-/
import Derived.Shelf.GgClosure.StringsIndexFunc
import Derived.Lib.TrimU
import Derived.Test.YtnfccckodgknjaaGreatDoorY01
namespace Go.Proofs.YtnfccckodgknjaaGreatDoor
open Go.Lib

theorem decodeN_hi (n b0 b1 b2 b3 : Nat) (h : 128 ≤ b0) : 128 ≤ (decodeN n b0 b1 b2 b3).1 ∧ ((decodeN n b0 b1 b2 b3).2 = 1 ∨ ((decodeN n b0 b1 b2 b3).2 = 2 ∧ 1 < n ∧ 128 ≤ b1) ∨
    ((decodeN n b0 b1 b2 b3).2 = 3 ∧ 2 < n ∧ 128 ≤ b1 ∧ 128 ≤ b2) ∨ ((decodeN n b0 b1 b2 b3).2 = 4 ∧ 3 < n ∧ 128 ≤ b1 ∧ 128 ≤ b2 ∧ 128 ≤ b3)) := by
  unfold decodeN
  repeat' split
  all_goals (refine ⟨by simp only; omega, ?_⟩; first | exact .inl rfl | exact .inr (.inl ⟨rfl, by omega, by omega⟩) | exact .inr (.inr (.inl ⟨rfl, by omega, by omega, by omega⟩)) | exact .inr (.inr (.inr ⟨rfl, by omega, by omega, by omega, by omega⟩)))

/-- How many bytes stand ahead of the first one that q has. -/
def runN (q : UInt8 → Bool) (l : List UInt8) : Nat := (l.takeWhile fun b => !q b).length
theorem runN_nil (q : UInt8 → Bool) : runN q [] = 0 := rfl
theorem runN_yes {q : UInt8 → Bool} {b : UInt8} (t : List UInt8) (h : q b = true) : runN q (b :: t) = 0 := by simp [runN, h]
theorem runN_no {q : UInt8 → Bool} {b : UInt8} (t : List UInt8) (h : q b = false) : runN q (b :: t) = runN q t + 1 := by simp [runN, h]
theorem runN_le (q : UInt8 → Bool) : ∀ l : List UInt8, runN q l ≤ l.length
  | [] => Nat.le_refl _
  | b :: t => by
    cases h : q b
    · rw [runN_no t h, List.length_cons]; have := runN_le q t; omega
    · rw [runN_yes t h]; omega
theorem runN_take (q : UInt8 → Bool) : ∀ l : List UInt8, ∀ x ∈ l.take (runN q l), q x = false
  | [] => by simp
  | b :: t => by
    cases h : q b
    · rw [runN_no t h, List.take_succ_cons]
      intro x hx
      rcases List.mem_cons.1 hx with rfl | hx
      · exact h
      · exact runN_take q t x hx
    · rw [runN_yes t h]; simp
theorem runN_drop (q : UInt8 → Bool) : ∀ l : List UInt8, l.drop (runN q l) = [] ∨ ∃ b t, l.drop (runN q l) = b :: t ∧ q b = true
  | [] => .inl rfl
  | b :: t => by
    cases h : q b
    · rw [runN_no t h, List.drop_succ_cons]; exact runN_drop q t
    · rw [runN_yes t h]; exact .inr ⟨b, t, rfl, h⟩
def qOf (p : Nat → Bool) (b : UInt8) : Bool := p b.toNat

theorem get_drop (s : ByteArray) (i : Nat) (h : i < s.size) : s.get! i = s[i] := by
  have : s.data[i]! = s.data[i]'h := getElem!_pos s.data i h
  exact this

theorem idx_bytes (p : Nat → Bool) (H : Bool) (hH : ∀ r, 128 ≤ r → r ≤ 1114111 → p r = H) (s : ByteArray) : ∀ (f pos : Nat), pos ≤ s.size → s.size ≤ pos + f →
    idxFuncFrom p true s f pos = if pos + runN (qOf p) (s.data.toList.drop pos) < s.size then ((pos + runN (qOf p) (s.data.toList.drop pos) : Nat) : Int) else -1
  | 0, pos, h1, h2 => by
    have : s.data.toList.drop pos = [] := drop_end s pos (by omega)
    rw [this, runN_nil, if_neg (by omega)]
    rfl
  | f + 1, pos, h1, h2 => by
    unfold idxFuncFrom
    by_cases hp : pos < s.size
    · rw [if_pos hp]
      have hd := drop_byte s pos hp
      have hb := (s[pos]'hp).toNat_lt
      by_cases ha : (s[pos]'hp).toNat < 128
      · rw [decode_ascii s pos hp ha]
        cases hq : p (s[pos]'hp).toNat
        · rw [if_neg (by simp), idx_bytes p H hH s f (pos + 1) (by omega) (by omega), hd, runN_no _ (show qOf p _ = false from hq)]
          have e : pos + 1 + runN (qOf p) (s.data.toList.drop (pos + 1)) = pos + (runN (qOf p) (s.data.toList.drop (pos + 1)) + 1) := by omega
          rw [e]
        · rw [if_pos rfl, hd, runN_yes _ (show qOf p _ = true from hq), if_pos (by omega)]; rfl
      · have hr := rune_le s pos
        rw [decode_at] at hr ⊢
        have e0 : (s.get! pos).toNat = (s[pos]'hp).toNat := by rw [get_drop s pos hp]
        obtain ⟨k1, k2⟩ := decodeN_hi (s.size - pos) (s.get! pos).toNat (s.get! (pos + 1)).toNat (s.get! (pos + 2)).toNat (s.get! (pos + 3)).toNat (by omega)
        generalize decodeN (s.size - pos) (s.get! pos).toNat (s.get! (pos + 1)).toNat (s.get! (pos + 2)).toNat (s.get! (pos + 3)).toNat = d at hr k1 k2 ⊢
        obtain ⟨R, K⟩ := d
        simp only at hr k1 k2 ⊢
        have hqR := hH R k1 hr
        have hq0 : qOf p (s[pos]'hp) = H := hH _ (by omega) (by omega)
        cases H with
        | true => rw [if_pos hqR, hd, runN_yes _ hq0, if_pos (by omega)]; rfl
        | false =>
          rw [if_neg (by simp [hqR])]
          have hno : ∀ i (h : i < s.size), 128 ≤ (s.get! i).toNat → qOf p (s[i]'h) = false := by
            intro i h h128
            rw [get_drop s i h] at h128
            exact hH _ h128 (by have := (s[i]'h).toNat_lt; omega)
          have key : pos + K ≤ s.size ∧ runN (qOf p) (s.data.toList.drop pos) = K + runN (qOf p) (s.data.toList.drop (pos + K)) := by
            rcases k2 with rfl | ⟨rfl, h, a1⟩ | ⟨rfl, h, a1, a2⟩ | ⟨rfl, h, a1, a2, a3⟩
            · exact ⟨by omega, by rw [hd, runN_no _ hq0]; omega⟩
            · refine ⟨by omega, ?_⟩
              rw [hd, runN_no _ hq0, drop_byte s (pos + 1) (by omega), runN_no _ (hno (pos + 1) (by omega) a1)]; rw [Nat.add_comm 2]
            · refine ⟨by omega, ?_⟩
              rw [hd, runN_no _ hq0, drop_byte s (pos + 1) (by omega), runN_no _ (hno (pos + 1) (by omega) a1), drop_byte s (pos + 1 + 1) (by omega), runN_no _ (hno (pos + 2) (by omega) a2)]; rw [Nat.add_comm 3]
            · refine ⟨by omega, ?_⟩
              rw [hd, runN_no _ hq0, drop_byte s (pos + 1) (by omega), runN_no _ (hno (pos + 1) (by omega) a1), drop_byte s (pos + 1 + 1) (by omega), runN_no _ (hno (pos + 2) (by omega) a2), drop_byte s (pos + 1 + 1 + 1) (by omega), runN_no _ (hno (pos + 3) (by omega) a3)]; rw [Nat.add_comm 4]
          have hK : 1 ≤ K := by rcases k2 with rfl | ⟨rfl, _⟩ | ⟨rfl, _⟩ | ⟨rfl, _⟩ <;> omega
          rw [idx_bytes p false hH s f (pos + K) key.1 (by omega), key.2, Nat.add_assoc]
    · rw [if_neg hp, if_neg (by omega)]

theorem idxFunc_bytes (p : Nat → Bool) (H : Bool) (hH : ∀ r, 128 ≤ r → r ≤ 1114111 → p r = H) (s : ByteArray) :
    idxFunc p true s = if runN (qOf p) s.data.toList < s.size then (runN (qOf p) s.data.toList : Int) else -1 := by
  unfold idxFunc
  rw [idx_bytes p H hH s s.size 0 (Nat.zero_le _) (by omega)]
  simp
end Go.Proofs.YtnfccckodgknjaaGreatDoor
