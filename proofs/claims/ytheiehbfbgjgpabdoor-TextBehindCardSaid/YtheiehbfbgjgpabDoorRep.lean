/-
  ReplaceAll, step by step from the left. No program in sight.
-/
import Derived.Lib.Replace
import Derived.Lib.ReplaceLaws
namespace Go.Proofs.YtheiehbfbgjgpabDoor
open Go.Lib

theorem ra_eq {old new : List UInt8} (hne : old ≠ new) (s : List UInt8) : replaceAll s old new = replaceK old new (count s old) s := by
  unfold replaceAll replace
  rw [if_neg (by simpa using hne)]
  unfold replaceNum
  rw [if_pos (Or.inl (by decide))]

theorem ra_nil {old new : List UInt8} (h0 : old ≠ []) (hne : old ≠ new) : replaceAll [] old new = [] := by
  rw [ra_eq hne]
  have h : index ([] : List UInt8) old = -1 := by
    unfold index
    rw [if_neg (by simpa using h0)]
  rw [count_miss h]
  rfl

theorem ra_hit {old new : List UInt8} (h0 : old ≠ []) (hne : old ≠ new) (s : List UInt8) (hp : old.isPrefixOf s = true) : replaceAll s old new = new ++ replaceAll (s.drop old.length) old new := by
  have h : index s old = (0 : Nat) := by
    cases s with
    | nil =>
      cases old with
      | nil => exact absurd rfl h0
      | cons a l => simp at hp
    | cons b t =>
      show (if old.isPrefixOf (b :: t) then (0 : Int) else _) = _
      rw [if_pos hp]
      rfl
  rw [ra_eq hne, ra_eq hne, count_hit h0 h, Nat.add_comm 1, replaceK_hit old new _ s 0 h]
  simp

theorem ra_miss {old new : List UInt8} (h0 : old ≠ []) (hne : old ≠ new) (b : UInt8) (t : List UInt8) (hp : old.isPrefixOf (b :: t) = false) : replaceAll (b :: t) old new = b :: replaceAll t old new := by
  have hi : index (b :: t) old = if index t old == -1 then -1 else index t old + 1 := by
    show (if old.isPrefixOf (b :: t) then (0 : Int) else _) = _
    rw [if_neg (by simp [hp])]
  have hg := index_ge t old
  rw [ra_eq hne, ra_eq hne]
  by_cases hm : index t old = -1
  · have hm' : index (b :: t) old = -1 := by rw [hi, hm]; rfl
    rw [count_miss hm, count_miss hm']
    rfl
  · obtain ⟨i, hx⟩ : ∃ i : Nat, index t old = i := ⟨(index t old).toNat, by omega⟩
    have hx' : index (b :: t) old = (i + 1 : Nat) := by
      rw [hi, if_neg (by simpa using hm), hx]
      omega
    rw [count_hit h0 hx, count_hit h0 hx', Nat.add_comm 1, Nat.add_comm 1, replaceK_hit old new _ t i hx, replaceK_hit old new _ (b :: t) (i + 1) hx', show i + 1 + old.length = (i + old.length) + 1 by omega]
    simp

/-- At one byte: byte by byte. -/
def rep1 (c : UInt8) (new : List UInt8) (s : List UInt8) : List UInt8 := s.flatMap fun b => if b = c then new else [b]

theorem ra_one (c : UInt8) (new : List UInt8) (hne : [c] ≠ new) : ∀ s : List UInt8, replaceAll s [c] new = rep1 c new s
  | [] => by rw [ra_nil (by simp) hne]; rfl
  | b :: t => by
    have ih := ra_one c new hne t
    by_cases h : b = c
    · subst h
      rw [ra_hit (by simp) hne _ (by simp [List.isPrefixOf])]
      simp [rep1, ih]
    · rw [ra_miss (by simp) hne _ _ (by simp [List.isPrefixOf]; exact fun e => h e.symm)]
      simp [rep1, ih, h]

/-- At two bytes, which are not the same. -/
def rep2 (c d : UInt8) (new : List UInt8) : List UInt8 → List UInt8
  | [] => []
  | [b] => [b]
  | b :: x :: t => if b = c ∧ x = d then new ++ rep2 c d new t else b :: rep2 c d new (x :: t)

theorem ra_two (c d : UInt8) (new : List UInt8) (hne : [c, d] ≠ new) : ∀ (n : Nat) (s : List UInt8), s.length ≤ n → replaceAll s [c, d] new = rep2 c d new s
  | n, [], _ => by rw [ra_nil (by simp) hne]; rfl
  | n, [b], _ => by
    rw [ra_miss (by simp) hne _ _ (by simp [List.isPrefixOf]), ra_nil (by simp) hne]
    rfl
  | 0, b :: x :: t, h => by simp at h
  | n + 1, b :: x :: t, h => by
    have h' : t.length + 1 ≤ n := by simpa using h
    unfold rep2
    by_cases e : b = c ∧ x = d
    · rw [if_pos e, ra_hit (by simp) hne _ (by obtain ⟨rfl, rfl⟩ := e; simp [List.isPrefixOf])]
      congr 1
      exact ra_two c d new hne n t (by omega)
    · rw [if_neg e, ra_miss (by simp) hne _ _ (by
        rw [Bool.eq_false_iff]
        intro hh
        simp [List.isPrefixOf] at hh
        exact e ⟨hh.1.symm, hh.2.symm⟩), ra_two c d new hne n (x :: t) (by simpa using h')]

theorem rep1_len (c : UInt8) (new : List UInt8) (k : Nat) (hk : new.length ≤ k) (h1 : 1 ≤ k) : ∀ s : List UInt8, (rep1 c new s).length ≤ k * s.length
  | [] => by simp [rep1]
  | b :: t => by
    have ih := rep1_len c new k hk h1 t
    have e : rep1 c new (b :: t) = (if b = c then new else [b]) ++ rep1 c new t := by simp [rep1]
    rw [e, List.length_append, List.length_cons, Nat.mul_add, Nat.mul_one]
    have : (if b = c then new else [b]).length ≤ k := by split; exact hk; exact h1
    omega

theorem rep2_len (c d : UInt8) (new : List UInt8) (k : Nat) (hk : new.length ≤ k) (h1 : 1 ≤ k) : ∀ (n : Nat) (s : List UInt8), s.length ≤ n → (rep2 c d new s).length ≤ k * s.length
  | _, [], _ => by simp [rep2]
  | _, [b], _ => by simp [rep2]; omega
  | 0, b :: x :: t, h => by simp at h
  | n + 1, b :: x :: t, h => by
    have h' : t.length + 1 ≤ n := by simpa using h
    unfold rep2
    split
    · have ih := rep2_len c d new k hk h1 n t (by omega)
      rw [List.length_append, List.length_cons, List.length_cons, Nat.mul_add, Nat.mul_add]
      omega
    · have ih := rep2_len c d new k hk h1 n (x :: t) (by simpa using h')
      rw [List.length_cons, List.length_cons (a := b), Nat.mul_add]
      omega
end Go.Proofs.YtheiehbfbgjgpabDoor
