/-
  ReplaceAll, step by step from the left. No program in sight.
  Comments, as lists of bytes: the states, and the first end. No program in sight.
  Data of comments is read back; what any comment is read as is such data. No program in sight.
-/
import Derived.Lib.Replace
import Derived.Lib.ReplaceLaws
namespace Go.Proofs.YtnfccckodgknjaaGreatDoor
open Go.Lib

theorem ra_eq {old new : List UInt8} (hne : old ≠ new) (s : List UInt8) : replaceAll s old new = replaceK old new (count s old) s := by
  unfold replaceAll replace
  rw [if_neg (by simpa using hne)]
  unfold replaceNum
  rw [if_pos (Or.inl (by decide))]

theorem ra_nil {old new : List UInt8} (h0 : old ≠ []) (hne : old ≠ new) : replaceAll [] old new = [] := by
  rw [ra_eq hne]
  have h : index ([] : List UInt8) old = -1 := by
    unfold index
    rw [if_neg (by simpa using h0)]
  rw [count_miss h]
  rfl

theorem ra_hit {old new : List UInt8} (h0 : old ≠ []) (hne : old ≠ new) (s : List UInt8) (hp : old.isPrefixOf s = true) : replaceAll s old new = new ++ replaceAll (s.drop old.length) old new := by
  have h : index s old = (0 : Nat) := by
    cases s with
    | nil =>
      cases old with
      | nil => exact absurd rfl h0
      | cons a l => simp at hp
    | cons b t =>
      show (if old.isPrefixOf (b :: t) then (0 : Int) else _) = _
      rw [if_pos hp]
      rfl
  rw [ra_eq hne, ra_eq hne, count_hit h0 h, Nat.add_comm 1, replaceK_hit old new _ s 0 h]
  simp

theorem ra_miss {old new : List UInt8} (h0 : old ≠ []) (hne : old ≠ new) (b : UInt8) (t : List UInt8) (hp : old.isPrefixOf (b :: t) = false) : replaceAll (b :: t) old new = b :: replaceAll t old new := by
  have hi : index (b :: t) old = if index t old == -1 then -1 else index t old + 1 := by
    show (if old.isPrefixOf (b :: t) then (0 : Int) else _) = _
    rw [if_neg (by simp [hp])]
  have hg := index_ge t old
  rw [ra_eq hne, ra_eq hne]
  by_cases hm : index t old = -1
  · have hm' : index (b :: t) old = -1 := by rw [hi, hm]; rfl
    rw [count_miss hm, count_miss hm']
    rfl
  · obtain ⟨i, hx⟩ : ∃ i : Nat, index t old = i := ⟨(index t old).toNat, by omega⟩
    have hx' : index (b :: t) old = (i + 1 : Nat) := by
      rw [hi, if_neg (by simpa using hm), hx]
      omega
    rw [count_hit h0 hx, count_hit h0 hx', Nat.add_comm 1, Nat.add_comm 1, replaceK_hit old new _ t i hx, replaceK_hit old new _ (b :: t) (i + 1) hx', show i + 1 + old.length = (i + old.length) + 1 by omega]
    simp

/-- At one byte: byte by byte. -/
def rep1 (c : UInt8) (new : List UInt8) (s : List UInt8) : List UInt8 := s.flatMap fun b => if b = c then new else [b]

theorem ra_one (c : UInt8) (new : List UInt8) (hne : [c] ≠ new) : ∀ s : List UInt8, replaceAll s [c] new = rep1 c new s
  | [] => by rw [ra_nil (by simp) hne]; rfl
  | b :: t => by
    have ih := ra_one c new hne t
    by_cases h : b = c
    · subst h
      rw [ra_hit (by simp) hne _ (by simp [List.isPrefixOf])]
      simp [rep1, ih]
    · rw [ra_miss (by simp) hne _ _ (by simp [List.isPrefixOf]; exact fun e => h e.symm)]
      simp [rep1, ih, h]

/-- At two bytes, which are not the same. -/
def rep2 (c d : UInt8) (new : List UInt8) : List UInt8 → List UInt8
  | [] => []
  | [b] => [b]
  | b :: x :: t => if b = c ∧ x = d then new ++ rep2 c d new t else b :: rep2 c d new (x :: t)

theorem ra_two (c d : UInt8) (new : List UInt8) (hne : [c, d] ≠ new) : ∀ (n : Nat) (s : List UInt8), s.length ≤ n → replaceAll s [c, d] new = rep2 c d new s
  | n, [], _ => by rw [ra_nil (by simp) hne]; rfl
  | n, [b], _ => by
    rw [ra_miss (by simp) hne _ _ (by simp [List.isPrefixOf]), ra_nil (by simp) hne]
    rfl
  | 0, b :: x :: t, h => by simp at h
  | n + 1, b :: x :: t, h => by
    have h' : t.length + 1 ≤ n := by simpa using h
    unfold rep2
    by_cases e : b = c ∧ x = d
    · rw [if_pos e, ra_hit (by simp) hne _ (by obtain ⟨rfl, rfl⟩ := e; simp [List.isPrefixOf])]
      congr 1
      exact ra_two c d new hne n t (by omega)
    · rw [if_neg e, ra_miss (by simp) hne _ _ (by
        rw [Bool.eq_false_iff]
        intro hh
        simp [List.isPrefixOf] at hh
        exact e ⟨hh.1.symm, hh.2.symm⟩), ra_two c d new hne n (x :: t) (by simpa using h')]

theorem rep1_len (c : UInt8) (new : List UInt8) (k : Nat) (hk : new.length ≤ k) (h1 : 1 ≤ k) : ∀ s : List UInt8, (rep1 c new s).length ≤ k * s.length
  | [] => by simp [rep1]
  | b :: t => by
    have ih := rep1_len c new k hk h1 t
    have e : rep1 c new (b :: t) = (if b = c then new else [b]) ++ rep1 c new t := by simp [rep1]
    rw [e, List.length_append, List.length_cons, Nat.mul_add, Nat.mul_one]
    have : (if b = c then new else [b]).length ≤ k := by split; exact hk; exact h1
    omega

theorem rep2_len (c d : UInt8) (new : List UInt8) (k : Nat) (hk : new.length ≤ k) (h1 : 1 ≤ k) : ∀ (n : Nat) (s : List UInt8), s.length ≤ n → (rep2 c d new s).length ≤ k * s.length
  | _, [], _ => by simp [rep2]
  | _, [b], _ => by simp [rep2]; omega
  | 0, b :: x :: t, h => by simp at h
  | n + 1, b :: x :: t, h => by
    have h' : t.length + 1 ≤ n := by simpa using h
    unfold rep2
    split
    · have ih := rep2_len c d new k hk h1 n t (by omega)
      rw [List.length_append, List.length_cons, List.length_cons, Nat.mul_add, Nat.mul_add]
      omega
    · have ih := rep2_len c d new k hk h1 n (x :: t) (by simpa using h')
      rw [List.length_cons, List.length_cons (a := b), Nat.mul_add]
      omega
end Go.Proofs.YtnfccckodgknjaaGreatDoor

namespace Go.Proofs.YtnfccckodgknjaaGreatDoor
open Go.Lib

/-- The NUL rule. -/
def nul1 (b : UInt8) : List UInt8 := if b = 0 then [239, 191, 189] else [b]
def nulL (l : List UInt8) : List UInt8 := rep1 0 [239, 191, 189] l
theorem nulL_cons (b : UInt8) (t : List UInt8) : nulL (b :: t) = nul1 b ++ nulL t := by simp [nulL, rep1, nul1]
theorem nulL_app (a b : List UInt8) : nulL (a ++ b) = nulL a ++ nulL b := by simp [nulL, rep1]
theorem nulL_nil : nulL [] = [] := rfl
theorem nulL_len (l : List UInt8) : (nulL l).length ≤ 3 * l.length := rep1_len 0 [239, 191, 189] 3 (by decide) (by decide) l
theorem nul1_b {b : UInt8} (h : b ≠ 0) : nul1 b = [b] := by unfold nul1; rw [if_neg h]

/-- What was read and how many bytes were consumed, behind p and n bytes. -/
def pre (p : List UInt8) (n : Nat) (r : List UInt8 × Nat) : List UInt8 × Nat := (p ++ r.1, n + r.2)
theorem pre_pre (p q : List UInt8) (n k : Nat) (r : List UInt8 × Nat) : pre p n (pre q k r) = pre (p ++ q) (n + k) r := by simp [pre, Nat.add_assoc]
theorem pre_nil (r : List UInt8 × Nat) : pre [] 0 r = r := by simp [pre]

/-- The states comment (0), end dash (1), end (2), end bang (3). -/
def comM : Nat → List UInt8 → List UInt8 × Nat
  | _, [] => ([], 0)
  | 0, b :: t => if b = 45 then pre [] 1 (comM 1 t) else pre (nul1 b) 1 (comM 0 t)
  | 1, b :: t => if b = 45 then pre [] 1 (comM 2 t) else pre (45 :: nul1 b) 1 (comM 0 t)
  | 2, b :: t => if b = 62 then ([], 1) else if b = 33 then pre [] 1 (comM 3 t) else if b = 45 then pre [45] 1 (comM 2 t) else pre (45 :: 45 :: nul1 b) 1 (comM 0 t)
  | _, b :: t => if b = 62 then ([], 1) else if b = 45 then pre [45, 45, 33] 1 (comM 1 t) else pre (45 :: 45 :: 33 :: nul1 b) 1 (comM 0 t)

theorem comM_3 (b : UInt8) (t : List UInt8) : comM 3 (b :: t) = if b = 62 then ([], 1) else if b = 45 then pre [45, 45, 33] 1 (comM 1 t) else pre (45 :: 45 :: 33 :: nul1 b) 1 (comM 0 t) := by
  rw [comM] <;> simp

/-- The first end that stands anywhere. -/
def comS : List UInt8 → List UInt8 × Nat
  | [] => ([], 0)
  | b :: t => if [45, 45, 62].isPrefixOf (b :: t) then ([], 3) else if [45, 45, 33, 62].isPrefixOf (b :: t) then ([], 4) else if b :: t = [45, 45, 33] then ([], 3) else if b :: t = [45, 45] then ([], 2) else if b :: t = [45] then ([], 1) else pre (nul1 b) 1 (comS t)

theorem comS_b (b : UInt8) (t : List UInt8) (h : b ≠ 45) : comS (b :: t) = pre (nul1 b) 1 (comS t) := by
  rw [comS, if_neg (by simp [List.isPrefixOf]; exact fun e => absurd e.symm h), if_neg (by simp [List.isPrefixOf]; exact fun e => absurd e.symm h), if_neg (by simp [h]), if_neg (by simp [h]), if_neg (by simp [h])]
theorem comS_1 (b : UInt8) (t : List UInt8) (h : b ≠ 45) : comS (45 :: b :: t) = pre [45] 1 (comS (b :: t)) := by
  rw [comS, if_neg (by simp [List.isPrefixOf]; exact fun e => absurd e.symm h), if_neg (by simp [List.isPrefixOf]; exact fun e => absurd e.symm h), if_neg (by simp [h]), if_neg (by simp [h]), if_neg (by simp)]
  rfl
theorem comS_2 (b : UInt8) (t : List UInt8) (h1 : b ≠ 62) (h2 : b ≠ 33) : comS (45 :: 45 :: b :: t) = pre [45] 1 (comS (45 :: b :: t)) := by
  rw [comS, if_neg (by simp [List.isPrefixOf]; exact fun e => absurd e.symm h1), if_neg (by simp [List.isPrefixOf]; exact fun e => absurd e.symm h2), if_neg (by simp [h2]), if_neg (by simp), if_neg (by simp)]
  rfl
theorem comS_3 (b : UInt8) (t : List UInt8) (h1 : b ≠ 62) : comS (45 :: 45 :: 33 :: b :: t) = pre [45] 1 (comS (45 :: 33 :: b :: t)) := by
  rw [comS, if_neg (by simp [List.isPrefixOf]), if_neg (by simp [List.isPrefixOf]; exact fun e => absurd e.symm h1), if_neg (by simp), if_neg (by simp), if_neg (by simp)]
  rfl

theorem com_all : ∀ t : List UInt8, comM 0 t = comS t ∧ pre [] 1 (comM 1 t) = comS (45 :: t) ∧ pre [] 2 (comM 2 t) = comS (45 :: 45 :: t) ∧ pre [] 3 (comM 3 t) = comS (45 :: 45 :: 33 :: t)
  | [] => by decide
  | b :: t => by
    obtain ⟨i0, i1, i2, i3⟩ := com_all t
    have hS : b ≠ 45 → comS (b :: t) = pre (nul1 b) 1 (comS t) := comS_b b t
    refine ⟨?_, ?_, ?_, ?_⟩
    · by_cases h : b = 45
      · subst h; rw [comM, if_pos rfl, i1]
      · rw [comM, if_neg h, hS h, i0]
    · by_cases h : b = 45
      · subst h; rw [comM, if_pos rfl, pre_pre, ← i2]; rfl
      · rw [comM, if_neg h, comS_1 b t h, hS h, i0, pre_pre, pre_pre]; rfl
    · by_cases h1 : b = 62
      · subst h1; rw [comM, if_pos rfl, comS, if_pos (by simp [List.isPrefixOf])]; rfl
      · by_cases h2 : b = 33
        · subst h2; rw [comM, if_neg h1, if_pos rfl, pre_pre, ← i3]; rfl
        · by_cases h3 : b = 45
          · subst h3
            rw [comM, if_neg h1, if_neg h2, if_pos rfl, comS_2 _ _ h1 h2, pre_pre, ← i2, pre_pre]; rfl
          · rw [comM, if_neg h1, if_neg h2, if_neg h3, comS_2 b t h1 h2, comS_1 b t h3, hS h3, i0, pre_pre, pre_pre, pre_pre]; rfl
    · by_cases h1 : b = 62
      · subst h1; rw [comM_3, if_pos rfl, comS, if_neg (by simp [List.isPrefixOf]), if_pos (by simp [List.isPrefixOf])]; rfl
      · rw [comS_3 b t h1, comS_1 33 (b :: t) (by decide), comS_b 33 (b :: t) (by decide), pre_pre, pre_pre]
        by_cases h3 : b = 45
        · subst h3
          rw [comM_3, if_neg h1, if_pos rfl, ← i1, pre_pre, pre_pre]; rfl
        · rw [comM_3, if_neg h1, if_neg h3, hS h3, i0, pre_pre, pre_pre]; rfl
  termination_by t => t.length

/-- A comment from its start on. -/
def comL (t : List UInt8) : List UInt8 × Nat := if [62].isPrefixOf t then ([], 1) else if [45, 62].isPrefixOf t then ([], 2) else comS t

/-- A run without hyphens. -/
theorem comM_run : ∀ (n : Nat) (t : List UInt8), (∀ x ∈ t.take n, x ≠ 45) → n ≤ t.length → comM 0 t = pre (nulL (t.take n)) n (comM 0 (t.drop n))
  | 0, t, _, _ => by simp [pre_nil, nulL_nil]
  | n + 1, [], _, h => by simp at h
  | n + 1, b :: t, hx, h => by
    have hb : b ≠ 45 := hx b (by simp)
    have ih := comM_run n t (fun x h => hx x (by simp [h])) (by simp at h; omega)
    rw [comM, if_neg hb, ih, List.take_succ_cons, List.drop_succ_cons, nulL_cons, pre_pre, Nat.add_comm 1]
theorem comM_len : ∀ (k : Nat) (t : List UInt8), (comM k t).2 ≤ t.length ∧ (comM k t).1.length ≤ 3 * t.length + k
  | k, [] => by cases k <;> simp [comM]
  | 0, b :: t => by
    have h0 := comM_len 0 t
    have h1 := comM_len 1 t
    have hn : (nul1 b).length ≤ 3 := by unfold nul1; split <;> simp
    rw [comM]
    split <;> (simp [pre]; omega)
  | 1, b :: t => by
    have h0 := comM_len 0 t
    have h1 := comM_len 2 t
    have hn : (nul1 b).length ≤ 3 := by unfold nul1; split <;> simp
    rw [comM]
    split <;> (simp [pre]; omega)
  | 2, b :: t => by
    have h0 := comM_len 0 t
    have h1 := comM_len 3 t
    have h2 := comM_len 2 t
    have hn : (nul1 b).length ≤ 3 := by unfold nul1; split <;> simp
    rw [comM]
    (repeat' split) <;> (simp [pre]; try omega)
  | k + 3, b :: t => by
    have h0 := comM_len 0 t
    have h1 := comM_len 1 t
    have hn : (nul1 b).length ≤ 3 := by unfold nul1; split <;> simp
    rw [comM]
    (repeat' split) <;> (simp [pre]; try omega)
    all_goals simp
end Go.Proofs.YtnfccckodgknjaaGreatDoor

namespace Go.Proofs.YtnfccckodgknjaaGreatDoor
open Go.Lib
set_option maxRecDepth 100000

def noEnd : List UInt8 → Bool
  | [] => true
  | b :: t => !([45, 45, 62].isPrefixOf (b :: t)) && !([45, 45, 33, 62].isPrefixOf (b :: t)) && noEnd t
def fitL (l : List UInt8) : Bool := !([62].isPrefixOf l) && !([45, 62].isPrefixOf l) && noEnd l

/-- Where no comment ends, a byte is data. -/
theorem comS_or (b : UInt8) (t : List UInt8) : (comS (b :: t)).1 = [] ∨ (comS (b :: t) = pre (nul1 b) 1 (comS t) ∧ [45, 45, 62].isPrefixOf (b :: t) = false ∧ [45, 45, 33, 62].isPrefixOf (b :: t) = false) := by
  rw [comS]
  by_cases h1 : [45, 45, 62].isPrefixOf (b :: t) = true
  · rw [if_pos h1]; exact .inl rfl
  · rw [if_neg h1]
    by_cases h2 : [45, 45, 33, 62].isPrefixOf (b :: t) = true
    · rw [if_pos h2]; exact .inl rfl
    · rw [if_neg h2]
      split
      · exact .inl rfl
      · split
        · exact .inl rfl
        · split
          · exact .inl rfl
          · exact .inr ⟨rfl, Bool.eq_false_iff.2 h1, Bool.eq_false_iff.2 h2⟩
theorem comS_hd {c : UInt8} (hc : c ≠ 239) : ∀ {t x : List UInt8}, (comS t).1 = c :: x → ∃ t', t = c :: t' ∧ (comS t').1 = x ∧ [45, 45, 62].isPrefixOf t = false ∧ [45, 45, 33, 62].isPrefixOf t = false
  | [], _, h => by cases h
  | b :: t, x, h => by
    rcases comS_or b t with h0 | ⟨h1, h2, h3⟩
    · rw [h0] at h; cases h
    · rw [h1] at h
      have h' : nul1 b ++ (comS t).1 = c :: x := h
      unfold nul1 at h'
      by_cases hb : b = 0
      · rw [if_pos hb] at h'
        injection h' with h4 _
        exact absurd h4.symm hc
      · rw [if_neg hb] at h'
        injection h' with h4 h5
        subst h4
        exact ⟨t, rfl, h5, h2, h3⟩
theorem pre_of {p l : List UInt8} (h : p.isPrefixOf l = true) : ∃ r, l = p ++ r := by
  obtain ⟨r, hr⟩ := List.isPrefixOf_iff_prefix.1 h
  exact ⟨r, hr.symm⟩
theorem comS_no1 (t : List UInt8) : [45, 45, 62].isPrefixOf (comS t).1 = false := by
  rw [Bool.eq_false_iff]
  intro h
  obtain ⟨r, hr⟩ := pre_of h
  obtain ⟨t1, rfl, h1, hn, _⟩ := comS_hd (by decide) hr
  obtain ⟨t2, rfl, h2, _, _⟩ := comS_hd (by decide) h1
  obtain ⟨t3, rfl, h3, _, _⟩ := comS_hd (by decide) h2
  simp [List.isPrefixOf] at hn
theorem comS_no2 (t : List UInt8) : [45, 45, 33, 62].isPrefixOf (comS t).1 = false := by
  rw [Bool.eq_false_iff]
  intro h
  obtain ⟨r, hr⟩ := pre_of h
  obtain ⟨t1, rfl, h1, _, hn⟩ := comS_hd (by decide) hr
  obtain ⟨t2, rfl, h2, _, _⟩ := comS_hd (by decide) h1
  obtain ⟨t3, rfl, h3, _, _⟩ := comS_hd (by decide) h2
  obtain ⟨t4, rfl, h4, _, _⟩ := comS_hd (by decide) h3
  simp [List.isPrefixOf] at hn
theorem comS_noEnd : ∀ t : List UInt8, noEnd (comS t).1 = true
  | [] => rfl
  | b :: t => by
    have ih := comS_noEnd t
    have n1 := comS_no1 (b :: t)
    have n2 := comS_no2 (b :: t)
    rcases comS_or b t with h0 | ⟨h1, _, _⟩
    · rw [h0]; rfl
    · rw [h1] at n1 n2 ⊢
      have e : (pre (nul1 b) 1 (comS t)).1 = nul1 b ++ (comS t).1 := rfl
      rw [e] at n1 n2 ⊢
      unfold nul1 at n1 n2 ⊢
      by_cases hb : b = 0
      · rw [if_pos hb]
        show noEnd (239 :: 191 :: 189 :: (comS t).1) = true
        simp [noEnd, List.isPrefixOf, ih]
      · rw [if_neg hb] at n1 n2 ⊢
        have n1' : [45, 45, 62].isPrefixOf (b :: (comS t).1) = false := n1
        have n2' : [45, 45, 33, 62].isPrefixOf (b :: (comS t).1) = false := n2
        show noEnd (b :: (comS t).1) = true
        rw [noEnd, n1', n2', ih]
        rfl
/-- What any comment is read as is data that is read back. -/
theorem com_fit (u : List UInt8) : fitL (comL u).1 = true := by
  unfold comL
  by_cases h1 : [62].isPrefixOf u = true
  · rw [if_pos h1]; rfl
  · rw [if_neg h1]
    by_cases h2 : [45, 62].isPrefixOf u = true
    · rw [if_pos h2]; rfl
    · rw [if_neg h2]
      unfold fitL
      have a1 : [62].isPrefixOf (comS u).1 = false := by
        rw [Bool.eq_false_iff]
        intro h
        obtain ⟨r, hr⟩ := pre_of h
        obtain ⟨t1, rfl, _, _, _⟩ := comS_hd (by decide) hr
        simp [List.isPrefixOf] at h1
      have a2 : [45, 62].isPrefixOf (comS u).1 = false := by
        rw [Bool.eq_false_iff]
        intro h
        obtain ⟨r, hr⟩ := pre_of h
        obtain ⟨t1, rfl, h3, _, _⟩ := comS_hd (by decide) hr
        obtain ⟨t2, rfl, _, _, _⟩ := comS_hd (by decide) h3
        simp [List.isPrefixOf] at h2
      rw [a1, a2, comS_noEnd]
      rfl

theorem no_end1 (b : UInt8) (d m : List UInt8) (h : [45, 45, 62].isPrefixOf (b :: d) = false) : [45, 45, 62].isPrefixOf (b :: (d ++ 45 :: 45 :: 62 :: m)) = false := by
  match d, h with
  | [], _ => simp [List.isPrefixOf]
  | [x], _ => simp [List.isPrefixOf]
  | x :: y :: d, h => simpa [List.isPrefixOf] using h
theorem no_end2 (b : UInt8) (d m : List UInt8) (h : [45, 45, 33, 62].isPrefixOf (b :: d) = false) : [45, 45, 33, 62].isPrefixOf (b :: (d ++ 45 :: 45 :: 62 :: m)) = false := by
  match d, h with
  | [], _ => simp [List.isPrefixOf]
  | [x], _ => simp [List.isPrefixOf]
  | [x, y], _ => simp [List.isPrefixOf]
  | x :: y :: z :: d, h => simpa [List.isPrefixOf] using h
theorem comS_back (m : List UInt8) : ∀ d : List UInt8, (∀ x ∈ d, x ≠ 0) → noEnd d = true → comS (d ++ 45 :: 45 :: 62 :: m) = (d, d.length + 3)
  | [], _, _ => by
    show comS (45 :: 45 :: 62 :: m) = _
    rw [comS, if_pos (by simp [List.isPrefixOf])]
    rfl
  | b :: d, hz, hn => by
    rw [noEnd, Bool.and_eq_true, Bool.and_eq_true] at hn
    obtain ⟨⟨h1, h2⟩, h3⟩ := hn
    have e1 := no_end1 b d m (by rw [Bool.not_eq_true'] at h1; exact h1)
    have e2 := no_end2 b d m (by rw [Bool.not_eq_true'] at h2; exact h2)
    have hl : 4 ≤ (b :: (d ++ 45 :: 45 :: 62 :: m)).length := by simp; omega
    have ih := comS_back m d (fun x hx => hz x (by simp [hx])) h3
    rw [List.cons_append, comS, e1, e2, if_neg Bool.false_ne_true, if_neg Bool.false_ne_true, if_neg (fun e => by rw [e] at hl; simp at hl), if_neg (fun e => by rw [e] at hl; simp at hl), if_neg (fun e => by rw [e] at hl; simp at hl), ih]
    have hb : nul1 b = [b] := by unfold nul1; exact if_neg (hz b (by simp))
    rw [hb]
    show ([b] ++ d, 1 + (d.length + 3)) = _
    rw [List.length_cons]
    congr 1
    omega
/-- Such data is read back. -/
theorem com_back (d m : List UInt8) (hz : ∀ x ∈ d, x ≠ 0) (hf : fitL d = true) : comL (d ++ 45 :: 45 :: 62 :: m) = (d, d.length + 3) := by
  unfold fitL at hf
  rw [Bool.and_eq_true, Bool.and_eq_true] at hf
  obtain ⟨⟨h1, h2⟩, h3⟩ := hf
  have a1 : [62].isPrefixOf (d ++ 45 :: 45 :: 62 :: m) = false := by
    match d, h1 with
    | [], _ => simp [List.isPrefixOf]
    | x :: d, h => simpa [List.isPrefixOf] using h
  have a2 : [45, 62].isPrefixOf (d ++ 45 :: 45 :: 62 :: m) = false := by
    match d, h2 with
    | [], _ => simp [List.isPrefixOf]
    | [x], _ => simp [List.isPrefixOf]
    | x :: y :: d, h => rw [Bool.not_eq_true'] at h; exact h
  unfold comL
  rw [a1, a2, if_neg Bool.false_ne_true, if_neg Bool.false_ne_true]
  exact comS_back m d hz h3
end Go.Proofs.YtnfccckodgknjaaGreatDoor
