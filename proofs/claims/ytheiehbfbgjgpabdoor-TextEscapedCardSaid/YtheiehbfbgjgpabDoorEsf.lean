/-
  Escaping byte by byte, and what brings it back. No program in sight.
-/
import Derived.Test.YtheiehbfbgjgpabDoorEsc
namespace Go.Proofs.YtheiehbfbgjgpabDoor
open Go.Lib

def sNbsp : List UInt8 := [38, 110, 98, 115, 112, 59]
def escF (f : UInt8 → List UInt8) : List UInt8 → List UInt8
  | [] => []
  | [b] => f b
  | b :: x :: t => if b = 194 ∧ x = 160 then sNbsp ++ escF f t else f b ++ escF f (x :: t)
def fS (b : UInt8) : List UInt8 := if b = 38 then [38, 97, 109, 112, 59] else [b]
def fT (b : UInt8) : List UInt8 := if b = 38 then [38, 97, 109, 112, 59] else if b = 60 then [38, 108, 116, 59] else if b = 62 then [38, 103, 116, 59] else [b]
def fV (b : UInt8) : List UInt8 := if b = 38 then [38, 97, 109, 112, 59] else if b = 34 then [38, 113, 117, 111, 116, 59] else [b]

theorem escF_b (f : UInt8 → List UInt8) (b : UInt8) (t : List UInt8) (h : ¬ (b = 194 ∧ t.head? = some 160)) : escF f (b :: t) = f b ++ escF f t := by
  cases t with
  | nil => simp [escF]
  | cons x t => rw [escF, if_neg (by simpa using h)]
theorem escF_n (f : UInt8 → List UInt8) (t : List UInt8) : escF f (194 :: 160 :: t) = sNbsp ++ escF f t := by rw [escF, if_pos ⟨rfl, rfl⟩]

theorem rep2_b (N : List UInt8) (b : UInt8) (t : List UInt8) (h : ¬ (b = 194 ∧ t.head? = some 160)) : rep2 194 160 N (b :: t) = b :: rep2 194 160 N t := by
  cases t with
  | nil => simp [rep2]
  | cons x t => rw [rep2, if_neg (by simpa using h)]
theorem rep1_cons (c : UInt8) (N : List UInt8) (b : UInt8) (t : List UInt8) : rep1 c N (b :: t) = (if b = c then N else [b]) ++ rep1 c N t := by simp [rep1]
theorem rep1_app (c : UInt8) (N : List UInt8) (a b : List UInt8) : rep1 c N (a ++ b) = rep1 c N a ++ rep1 c N b := by simp [rep1]

theorem shrL_escF : ∀ (n : Nat) (l : List UInt8), l.length ≤ n → shrL l = escF fS l
  | _, [], _ => rfl
  | 0, b :: t, h => by simp at h
  | n + 1, b :: t, h => by
    have ih := shrL_escF n t (by simp at h; omega)
    unfold shrL at ih ⊢
    rw [rep1_cons]
    by_cases hb : b = 38
    · subst hb
      rw [escF_b _ _ _ (by simp), ← ih, if_pos rfl]
      show rep2 194 160 _ (38 :: 97 :: 109 :: 112 :: 59 :: rep1 38 [38, 97, 109, 112, 59] t) = _
      rw [rep2_b _ _ _ (by simp), rep2_b _ _ _ (by simp), rep2_b _ _ _ (by simp), rep2_b _ _ _ (by simp), rep2_b _ _ _ (by simp)]
      rfl
    · rw [if_neg hb]
      have hf : fS b = [b] := by unfold fS; rw [if_neg hb]
      by_cases hn : b = 194 ∧ t.head? = some 160
      · obtain ⟨rfl, ht⟩ := hn
        cases t with
        | nil => simp at ht
        | cons x t =>
          simp at ht
          subst ht
          have ih2 := shrL_escF n t (by simp at h; omega)
          unfold shrL at ih2
          rw [escF_n, ← ih2, rep1_cons, if_neg (by decide)]
          show rep2 194 160 _ (194 :: 160 :: rep1 38 [38, 97, 109, 112, 59] t) = _
          rw [rep2, if_pos ⟨rfl, rfl⟩]
          rfl
      · rw [escF_b _ _ _ hn, ← ih, hf]
        show rep2 194 160 _ (b :: rep1 38 [38, 97, 109, 112, 59] t) = _
        rw [rep2_b _ _ _ ?_]
        · rfl
        · rintro ⟨rfl, h2⟩
          refine hn ⟨rfl, ?_⟩
          cases t with
          | nil => simp [rep1] at h2
          | cons x t =>
            rw [rep1_cons] at h2
            by_cases hx : x = 38
            · rw [if_pos hx] at h2; simp at h2
            · rw [if_neg hx] at h2; simpa using h2

theorem rep1_escF (c : UInt8) (N : List UInt8) (f : UInt8 → List UInt8) (hN : rep1 c N sNbsp = sNbsp) : ∀ (n : Nat) (l : List UInt8), l.length ≤ n → rep1 c N (escF f l) = escF (fun b => rep1 c N (f b)) l
  | _, [], _ => rfl
  | 0, b :: t, h => by simp at h
  | n + 1, b :: t, h => by
    have ih := rep1_escF c N f hN n t (by simp at h; omega)
    by_cases hn : b = 194 ∧ t.head? = some 160
    · obtain ⟨rfl, ht⟩ := hn
      cases t with
      | nil => simp at ht
      | cons x t =>
        simp at ht
        subst ht
        have ih2 := rep1_escF c N f hN n t (by simp at h; omega)
        rw [escF_n, escF_n, rep1_app, hN, ih2]
    · rw [escF_b _ _ _ hn, escF_b _ _ _ hn, rep1_app, ih]

theorem escTL_eq (l : List UInt8) : escTL l = escF fT l := by
  unfold escTL
  rw [shrL_escF _ l (Nat.le_refl _), rep1_escF _ _ _ (by decide) _ l (Nat.le_refl _), rep1_escF _ _ _ (by decide) _ l (Nat.le_refl _)]
  congr 1
  funext b
  unfold fS fT
  by_cases h1 : b = 38
  · subst h1; decide
  · rw [if_neg h1, if_neg h1]
    by_cases h2 : b = 60
    · subst h2; decide
    · rw [if_neg h2]
      by_cases h3 : b = 62
      · subst h3; decide
      · rw [if_neg h3]; simp [rep1, h2, h3]
theorem escVL_eq (l : List UInt8) : escVL l = escF fV l := by
  unfold escVL
  rw [shrL_escF _ l (Nat.le_refl _), rep1_escF _ _ _ (by decide) _ l (Nat.le_refl _)]
  congr 1
  funext b
  unfold fS fV
  by_cases h1 : b = 38
  · subst h1; decide
  · rw [if_neg h1, if_neg h1]
    by_cases h2 : b = 34
    · subst h2; decide
    · rw [if_neg h2]; simp [rep1, h2]

theorem escF_app (f : UInt8 → List UInt8) (r : List UInt8) : ∀ (n : Nat) (l : List UInt8), l.length ≤ n → ¬ l.getLast? = some 194 → escF f (l ++ r) = escF f l ++ escF f r
  | _, [], _, _ => rfl
  | 0, b :: t, h, _ => by simp at h
  | n + 1, b :: t, h, hl => by
    by_cases hn : b = 194 ∧ t.head? = some 160
    · obtain ⟨rfl, ht⟩ := hn
      cases t with
      | nil => simp at ht
      | cons x t =>
        simp at ht
        subst ht
        have hl2 : ¬ t.getLast? = some 194 := by
          intro e
          apply hl
          cases t with
          | nil => simp at e
          | cons y t => simpa using e
        have ih2 := escF_app f r n t (by simp at h; omega) hl2
        rw [List.cons_append, List.cons_append, escF_n, escF_n, ih2, List.append_assoc]
    · have hl2 : ¬ t.getLast? = some 194 := by
        intro e
        apply hl
        cases t with
        | nil => simp at e
        | cons y t => simpa using e
      have ih := escF_app f r n t (by simp at h; omega) hl2
      rw [escF_b _ _ _ hn, List.cons_append, escF_b, ih, List.append_assoc]
      rintro ⟨rfl, h2⟩
      cases t with
      | nil => exact hl (by simp)
      | cons y t => exact hn ⟨rfl, by simpa using h2⟩

theorem escF_mem (f : UInt8 → List UInt8) (P : UInt8 → Prop) (hf : ∀ b, ∀ x ∈ f b, P x) (hs : ∀ x ∈ sNbsp, P x) : ∀ (n : Nat) (l : List UInt8), l.length ≤ n → ∀ x ∈ escF f l, P x
  | _, [], _ => by simp [escF]
  | 0, b :: t, h => by simp at h
  | n + 1, b :: t, h => by
    by_cases hn : b = 194 ∧ t.head? = some 160
    · obtain ⟨rfl, ht⟩ := hn
      cases t with
      | nil => simp at ht
      | cons x t =>
        simp at ht
        subst ht
        have ih2 := escF_mem f P hf hs n t (by simp at h; omega)
        rw [escF_n]
        intro x hx
        rcases List.mem_append.1 hx with hx | hx
        · exact hs x hx
        · exact ih2 x hx
    · have ih := escF_mem f P hf hs n t (by simp at h; omega)
      rw [escF_b _ _ _ hn]
      intro x hx
      rcases List.mem_append.1 hx with hx | hx
      · exact hf b x hx
      · exact ih x hx

theorem fT_no (b : UInt8) : ∀ x ∈ fT b, x ≠ 60 ∧ x ≠ 62 := by
  unfold fT
  intro x hx
  by_cases h1 : b = 38
  · rw [if_pos h1] at hx; revert x; decide
  · rw [if_neg h1] at hx
    by_cases h2 : b = 60
    · rw [if_pos h2] at hx; revert x; decide
    · rw [if_neg h2] at hx
      by_cases h3 : b = 62
      · rw [if_pos h3] at hx; revert x; decide
      · rw [if_neg h3, List.mem_singleton] at hx
        subst hx
        exact ⟨h2, h3⟩
theorem fV_no (b : UInt8) : ∀ x ∈ fV b, x ≠ 34 := by
  unfold fV
  intro x hx
  by_cases h1 : b = 38
  · rw [if_pos h1] at hx; revert x; decide
  · rw [if_neg h1] at hx
    by_cases h2 : b = 34
    · rw [if_pos h2] at hx; revert x; decide
    · rw [if_neg h2, List.mem_singleton] at hx
      subst hx
      exact h2
theorem escTL_no (l : List UInt8) : ∀ x ∈ escTL l, x ≠ 60 ∧ x ≠ 62 := by
  rw [escTL_eq]
  exact escF_mem fT (fun x => x ≠ 60 ∧ x ≠ 62) fT_no (by decide) _ l (Nat.le_refl _)
theorem escVL_no (l : List UInt8) : ∀ x ∈ escVL l, x ≠ 34 := by
  rw [escVL_eq]
  exact escF_mem fV (fun x => x ≠ 34) fV_no (by decide) _ l (Nat.le_refl _)

/-- The references in the order of the law, and what they stand for. -/
def bkT : List (List UInt8 × List UInt8) := [([38, 97, 109, 112, 59], [38]), ([38, 110, 98, 115, 112, 59], [194, 160]), ([38, 108, 116, 59], [60]), ([38, 103, 116, 59], [62]), ([38, 113, 117, 111, 116, 59], [34])]
/-- The last one that stands in front. -/
def bkF (t : List UInt8) : List (List UInt8 × List UInt8) → Nat × List UInt8 → Nat × List UInt8
  | [], a => a
  | (f, x) :: r, a => bkF t r (if f.isPrefixOf t then (f.length, x) else a)
/-- One step: how many bytes are consumed, and what they become. -/
def bk (t : List UInt8) : Nat × List UInt8 := bkF t bkT (1, t.take 1)
def bkN (t : List UInt8) : Nat := (bk t).1
def bkX (t : List UInt8) : List UInt8 := (bk t).2
def backF : Nat → List UInt8 → List UInt8
  | 0, _ => []
  | n + 1, l => if l.isEmpty then [] else bkX l ++ backF n (l.drop (bkN l))
def backL (l : List UInt8) : List UInt8 := backF l.length l
theorem bkF_bd (t : List UInt8) : ∀ (T : List (List UInt8 × List UInt8)) (a : Nat × List UInt8), (∀ p ∈ T, 1 ≤ p.1.length ∧ p.1.length ≤ 6 ∧ p.2.length ≤ 2) → 1 ≤ a.1 → a.1 ≤ 6 → a.2.length ≤ 2 → 1 ≤ (bkF t T a).1 ∧ (bkF t T a).1 ≤ 6 ∧ (bkF t T a).2.length ≤ 2
  | [], a, _, h1, h2, h3 => ⟨h1, h2, h3⟩
  | (f, x) :: r, a, h, h1, h2, h3 => by
    unfold bkF
    obtain ⟨g1, g2, g3⟩ := h (f, x) (by simp)
    refine bkF_bd t r _ (fun p hp => h p (by simp [hp])) ?_ ?_ ?_ <;> split <;> assumption
theorem bk_bd (t : List UInt8) : 1 ≤ (bk t).1 ∧ (bk t).1 ≤ 6 ∧ (bk t).2.length ≤ 2 :=
  bkF_bd t bkT (1, t.take 1) (by decide) (Nat.le_refl _) (by simp) (by simp; omega)
theorem bkF_le (t : List UInt8) : ∀ (T : List (List UInt8 × List UInt8)) (a : Nat × List UInt8), a.1 ≤ t.length → (bkF t T a).1 ≤ t.length
  | [], a, h => h
  | (f, x) :: r, a, h => by
    unfold bkF
    refine bkF_le t r _ ?_
    split
    · rename_i hp
      exact (List.isPrefixOf_iff_prefix.1 hp).length_le
    · exact h
theorem bkN_le (t : List UInt8) (h : t ≠ []) : bkN t ≤ t.length := bkF_le t bkT _ (List.length_pos_iff.2 h)
theorem bkN_pos (l : List UInt8) : 1 ≤ bkN l := (bk_bd l).1
theorem backF_more : ∀ (n m : Nat) (l : List UInt8), l.length ≤ n → l.length ≤ m → backF n l = backF m l
  | 0, m, l, h, _ => by
    have : l = [] := List.length_eq_zero_iff.1 (by omega)
    subst this
    cases m <;> rfl
  | n + 1, 0, l, _, h => by
    have : l = [] := List.length_eq_zero_iff.1 (by omega)
    subst this
    rfl
  | n + 1, m + 1, l, h1, h2 => by
    unfold backF
    have hp := bkN_pos l
    by_cases he : l.isEmpty = true
    · rw [if_pos he, if_pos he]
    · rw [if_neg he, if_neg he, backF_more n m (l.drop (bkN l)) (by simp; omega) (by simp; omega)]
theorem backL_nil : backL [] = [] := rfl
theorem backL_step (l : List UInt8) (h : l ≠ []) : backL l = bkX l ++ backL (l.drop (bkN l)) := by
  have hp := bkN_pos l
  obtain ⟨n, hn⟩ : ∃ n, l.length = n + 1 := ⟨l.length - 1, by have := List.length_pos_iff.2 h; omega⟩
  unfold backL
  rw [hn, backF, if_neg (by simpa using h), backF_more n _ (l.drop (bkN l)) (by simp; omega) (Nat.le_refl _)]
theorem backL_plain (b : UInt8) (r : List UInt8) (h : b ≠ 38) : backL (b :: r) = b :: backL r := by
  have hp : ∀ p : List UInt8, (38 :: p).isPrefixOf (b :: r) = false := by
    intro p
    rw [Bool.eq_false_iff]
    intro e
    simp [List.isPrefixOf] at e
    exact h e.1.symm
  rw [backL_step _ (by simp)]
  have e : bk (b :: r) = (1, [b]) := by simp [bk, bkT, bkF, hp]
  unfold bkN bkX
  rw [e]
  rfl
theorem backL_amp (r : List UInt8) : backL ([38, 97, 109, 112, 59] ++ r) = 38 :: backL r := by rw [backL_step _ (by simp)]; simp [bkN, bkX, bk, bkT, bkF, List.isPrefixOf]
theorem backL_nbsp (r : List UInt8) : backL (sNbsp ++ r) = 194 :: 160 :: backL r := by rw [backL_step _ (by simp [sNbsp])]; simp [sNbsp, bkN, bkX, bk, bkT, bkF, List.isPrefixOf]
theorem backL_lt (r : List UInt8) : backL ([38, 108, 116, 59] ++ r) = 60 :: backL r := by rw [backL_step _ (by simp)]; simp [bkN, bkX, bk, bkT, bkF, List.isPrefixOf]
theorem backL_gt (r : List UInt8) : backL ([38, 103, 116, 59] ++ r) = 62 :: backL r := by rw [backL_step _ (by simp)]; simp [bkN, bkX, bk, bkT, bkF, List.isPrefixOf]
theorem backL_quot (r : List UInt8) : backL ([38, 113, 117, 111, 116, 59] ++ r) = 34 :: backL r := by rw [backL_step _ (by simp)]; simp [bkN, bkX, bk, bkT, bkF, List.isPrefixOf]
theorem back_fT (b : UInt8) (r : List UInt8) : backL (fT b ++ r) = b :: backL r := by
  unfold fT
  by_cases h1 : b = 38
  · subst h1; rw [if_pos rfl]; exact backL_amp r
  · rw [if_neg h1]
    by_cases h2 : b = 60
    · subst h2; rw [if_pos rfl]; exact backL_lt r
    · rw [if_neg h2]
      by_cases h3 : b = 62
      · subst h3; rw [if_pos rfl]; exact backL_gt r
      · rw [if_neg h3]; exact backL_plain b r h1
theorem back_fV (b : UInt8) (r : List UInt8) : backL (fV b ++ r) = b :: backL r := by
  unfold fV
  by_cases h1 : b = 38
  · subst h1; rw [if_pos rfl]; exact backL_amp r
  · rw [if_neg h1]
    by_cases h2 : b = 34
    · subst h2; rw [if_pos rfl]; exact backL_quot r
    · rw [if_neg h2]; exact backL_plain b r h1
theorem back_escF (f : UInt8 → List UInt8) (hf : ∀ b r, backL (f b ++ r) = b :: backL r) : ∀ (n : Nat) (l : List UInt8), l.length ≤ n → backL (escF f l) = l
  | _, [], _ => rfl
  | 0, b :: t, h => by simp at h
  | n + 1, b :: t, h => by
    by_cases hn : b = 194 ∧ t.head? = some 160
    · obtain ⟨rfl, ht⟩ := hn
      cases t with
      | nil => simp at ht
      | cons x t =>
        simp at ht
        subst ht
        rw [escF_n, backL_nbsp, back_escF f hf n t (by simp at h; omega)]
    · rw [escF_b _ _ _ hn, hf, back_escF f hf n t (by simp at h; omega)]
theorem back_escT (l : List UInt8) : backL (escTL l) = l := by rw [escTL_eq]; exact back_escF fT back_fT _ l (Nat.le_refl _)
theorem back_escV (l : List UInt8) : backL (escVL l) = l := by rw [escVL_eq]; exact back_escF fV back_fV _ l (Nat.le_refl _)
end Go.Proofs.YtheiehbfbgjgpabDoor
