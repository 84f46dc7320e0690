/-
  strings.Cut at one byte. No program in sight.
-/
import Derived.Test.YtnfccckodgknjaaGreatDoorY26
import Derived.Test.YtnfccckodgknjaaGreatDoorY02
import Derived.Lib.IndexMore
namespace Go.Proofs.YtnfccckodgknjaaGreatDoor
open Go.Lib

theorem idx1 (c : UInt8) : ∀ l : List UInt8, index l [c] = if runN (fun b => b == c) l < l.length then ((runN (fun b => b == c) l : Nat) : Int) else -1
  | [] => by
    rw [runN_nil]
    unfold index
    rw [if_neg (by simp), if_neg (by simp)]
  | b :: t => by
    have ih := idx1 c t
    have hi : index (b :: t) [c] = if [c].isPrefixOf (b :: t) then 0 else if index t [c] == -1 then -1 else index t [c] + 1 := rfl
    have hp : [c].isPrefixOf (b :: t) = (c == b) := by simp [List.isPrefixOf]
    rw [hi, hp]
    by_cases h : b = c
    · subst h
      rw [if_pos (by simp), runN_yes (q := fun x => x == b) t (by simp), if_pos (by simp)]
      rfl
    · have h2 : (c == b) = false := by rw [beq_eq_false_iff_ne]; exact fun e => h e.symm
      have h3 : (b == c) = false := by rw [beq_eq_false_iff_ne]; exact h
      rw [h2, if_neg Bool.false_ne_true, runN_no (q := fun x => x == c) t h3, List.length_cons]
      by_cases hl : runN (fun b => b == c) t < t.length
      · rw [if_pos hl] at ih
        have e : (index t [c] == -1) = false := by rw [ih, beq_eq_false_iff_ne]; omega
        rw [e, if_neg Bool.false_ne_true, if_pos (by omega), ih]
        omega
      · rw [if_neg hl] at ih
        have e : (index t [c] == -1) = true := by rw [ih]; rfl
        rw [e, if_pos rfl, if_neg (by omega)]
theorem cut1 (c : UInt8) (l : List UInt8) : cut l [c] = if runN (fun b => b == c) l < l.length then (l.take (runN (fun b => b == c) l), l.drop (runN (fun b => b == c) l + 1), true) else (l, [], false) := by
  unfold cut
  rw [idx1]
  by_cases hl : runN (fun b => b == c) l < l.length
  · rw [if_pos hl, if_pos hl, if_pos (by omega)]
    simp
  · rw [if_neg hl, if_neg hl, if_neg (by omega)]
theorem runN_ne (c : UInt8) (l : List UInt8) : ∀ x ∈ l.take (runN (fun b => b == c) l), x ≠ c := by
  intro x hx
  have := runN_take (fun b => b == c) l x hx
  simpa using this
theorem runN_split (c : UInt8) (l : List UInt8) (h : runN (fun b => b == c) l < l.length) : l = l.take (runN (fun b => b == c) l) ++ c :: l.drop (runN (fun b => b == c) l + 1) := by
  have hg : (l[runN (fun b => b == c) l]'h) = c := by
    rcases runN_drop (fun b => b == c) l with hd | ⟨b, t, hd, hb⟩
    · have := List.drop_eq_nil_iff.1 hd; omega
    · rw [List.drop_eq_getElem_cons h] at hd
      have := (List.cons.inj hd).1
      rw [this]
      simpa using hb
  conv => lhs; rw [← List.take_append_drop (runN (fun b => b == c) l) l, List.drop_eq_getElem_cons h, hg]
theorem runN_all (c : UInt8) (l : List UInt8) (h : ¬ runN (fun b => b == c) l < l.length) : ∀ x ∈ l, x ≠ c := by
  have := runN_ne c l
  rwa [List.take_of_length_le (by omega)] at this
/-- What Cut finds. -/
theorem cut_cases (c : UInt8) (l : List UInt8) : ((cut l [c]).2.2 = true ∧ l = (cut l [c]).1 ++ c :: (cut l [c]).2.1 ∧ ∀ x ∈ (cut l [c]).1, x ≠ c) ∨ ((cut l [c]).2.2 = false ∧ (cut l [c]).1 = l ∧ ∀ x ∈ l, x ≠ c) := by
  rw [cut1]
  by_cases hl : runN (fun b => b == c) l < l.length
  · rw [if_pos hl]
    exact .inl ⟨rfl, runN_split c l hl, runN_ne c l⟩
  · rw [if_neg hl]
    exact .inr ⟨rfl, rfl, runN_all c l hl⟩
end Go.Proofs.YtnfccckodgknjaaGreatDoor
