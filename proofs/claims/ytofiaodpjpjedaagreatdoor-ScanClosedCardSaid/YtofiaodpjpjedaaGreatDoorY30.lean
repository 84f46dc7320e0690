/-
  The longest name of the table that a string begins with: what its readers need to know of it. No program in sight.
  The constants of the scanner's examples: what the readers' descriptions say of them. No program in sight.
-/
import Derived.Test.YtofiaodpjpjedaaGreatDoorY29
import Derived.Test.YtofiaodpjpjedaaGreatDoorY15
import Derived.Test.YtofiaodpjpjedaaGreatDoorY13
namespace Go.Proofs.YtofiaodpjpjedaaGreatDoor
open Go.Lib
set_option maxRecDepth 100000

/-- lg tells the longest name and its value. -/
structure LgOk (lg : List UInt8 → Nat × List UInt8) : Prop where
  ok : ∀ (s : List UInt8) (n : Int) (V : ByteArray), LgP s n V → n = ((lg s).1 : Nat) ∧ V.data.toList = (lg s).2
  le : ∀ s : List UInt8, (lg s).1 ≤ s.length
  len : ∀ s : List UInt8, (lg s).2.length ≤ 404
  al : ∀ s : List UInt8, ∀ x ∈ s.take (lg s).1, alU x = true ∨ x = 59
  cut : ∀ u c r, alU c = false → c ≠ 59 → lg (u ++ c :: r) = lg u

theorem valL_len (l : List UInt8) : (valL l).length ≤ 4 * (l.length + 1) := by
  have h1 : ∀ (c : UInt8) (l : List UInt8), (parts c l).length ≤ l.length + 1 := by
    intro c l
    induction l with
    | nil => simp [parts]
    | cons b t ih =>
      unfold parts
      split
      · simp only [List.length_cons]; omega
      · split
        · simp
        · rename_i h
          rw [h] at ih
          simp only [List.length_cons] at ih ⊢
          omega
  have h2 : ∀ ps : List (List UInt8), (ps.flatMap fun p => encodeRune (codeOf p)).length ≤ 4 * ps.length := by
    intro ps
    induction ps with
    | nil => simp
    | cons p ps ih =>
      have := encode_le (codeOf p)
      simp only [List.flatMap_cons, List.length_append, List.length_cons]
      omega
  have := h2 (parts 44 l)
  have := h1 44 l
  unfold valL
  omega
theorem lgL_cases (s : List UInt8) : lgL s = (0, []) ∨ ∃ e ∈ ENT, nameOf e <+: s ∧ lgL s = ((nameOf e).length, valL (codesOf e)) := by
  unfold lgL lgT
  rcases lgStep_spec s ENT (0, []) with ⟨h1, h2⟩ | ⟨e1, he1, h1, h2, h3, h4⟩
  · exact .inl h1
  · exact .inr ⟨e1, he1, h1, h2⟩
theorem name_al {e : List UInt8} (he : e ∈ ENT) : ∀ x ∈ nameOf e, alU x = true ∨ x = 59 := by
  intro x hx
  have := List.all_eq_true.1 (ent_parts5 he).2.1 x hx
  simpa [alU] using this
theorem pre_cut {n u r : List UInt8} {c : UInt8} (hn : ∀ x ∈ n, x ≠ c) : n.isPrefixOf (u ++ c :: r) = n.isPrefixOf u := by
  induction n generalizing u with
  | nil => cases u <;> simp [List.isPrefixOf]
  | cons a n ih =>
    cases u with
    | nil =>
      have : a ≠ c := hn a (by simp)
      simp [List.isPrefixOf, this]
    | cons b u =>
      simp only [List.cons_append, List.isPrefixOf]
      rw [ih fun x hx => hn x (by simp [hx])]
theorem fold_same {s s' : List UInt8} : ∀ (T : List (List UInt8)) (a : Nat × List UInt8), (∀ e ∈ T, (nameOf e).isPrefixOf s = (nameOf e).isPrefixOf s') → T.foldl (lgStep s) a = T.foldl (lgStep s') a
  | [], _, _ => rfl
  | e :: T, a, h => by
    rw [List.foldl_cons, List.foldl_cons, fold_same T _ fun x hx => h x (by simp [hx])]
    congr 1
    unfold lgStep
    rw [h e (by simp)]
theorem lgOk : LgOk lgL := by
  refine ⟨fun _ _ _ h => lgP_lgL h, fun s => ?_, fun s => ?_, fun s => ?_, fun u c r hc h59 => ?_⟩
  · rcases lgL_cases s with h | ⟨e, he, hp, h⟩
    · rw [h]; exact Nat.zero_le _
    · rw [h]; exact hp.length_le
  · rcases lgL_cases s with h | ⟨e, he, hp, h⟩
    · rw [h]; exact Nat.zero_le _
    · rw [h]
      have h1 := valL_len (codesOf e)
      have h2 := (ent_parts5 he).2.2.2.2.1
      show (valL (codesOf e)).length ≤ _
      omega
  · rcases lgL_cases s with h | ⟨e, he, hp, h⟩
    · rw [h]; simp
    · rw [h]
      show ∀ x ∈ s.take (nameOf e).length, _
      rw [← List.prefix_iff_eq_take.1 hp]
      exact name_al he
  · unfold lgL lgT
    refine fold_same ENT _ fun e he => pre_cut fun x hx => ?_
    rintro rfl
    rcases name_al he x hx with h | h
    · rw [h] at hc; cases hc
    · exact h59 h

/-- The reader of references keeps to what there is. -/
theorem digitsL_le (o : List UInt8) (k : Nat) (r : Int × Nat) (t : List UInt8) (h : r.2 ≤ t.length) : (digitsL o k r t).2 ≤ k + t.length := by
  unfold digitsL
  split
  · show k ≤ _; omega
  · show k + r.2 + _ ≤ _
    split
    · rename_i h59
      rcases Nat.lt_or_ge r.2 t.length with hl | hl
      · omega
      · rw [List.drop_eq_nil_of_le hl] at h59; simp at h59
    · omega
theorem digitsL_len (o : List UInt8) (k : Nat) (r : Int × Nat) (t : List UInt8) (ho : o.length ≤ 3) : (digitsL o k r t).1.length ≤ 4 := by
  unfold digitsL
  split
  · show o.length ≤ _; omega
  · exact encT8_len _
theorem numericL_le (t : List UInt8) : (numericL t).2 ≤ t.length ∧ (numericL t).1.length ≤ 4 := by
  unfold numericL
  cases t with
  | nil => exact ⟨by decide, by decide⟩
  | cons c r =>
    simp only
    split
    · have h := digRun_ge hexB 16 r 0 0
      have h1 := digitsL_le [38, 35, c] 1 (digRun hexB 16 r 0 0) r (by omega)
      exact ⟨by rw [List.length_cons]; omega, digitsL_len _ _ _ _ (by simp)⟩
    · have h := digRun_ge digB 10 (c :: r) 0 0
      have h1 := digitsL_le [38, 35] 0 (digRun digB 10 (c :: r) 0 0) (c :: r) (by omega)
      exact ⟨by omega, digitsL_len _ _ _ _ (by simp)⟩
theorem namedL_le {lg : List UInt8 → Nat × List UInt8} (L : LgOk lg) (attr : Bool) (t : List UInt8) : (namedL lg attr t).2 ≤ t.length ∧ (namedL lg attr t).1.length ≤ 404 + (namedL lg attr t).2 := by
  have h1 := L.le t
  have h2 := L.len t
  unfold namedL
  split
  · exact ⟨Nat.zero_le _, by simp⟩
  · split
    · refine ⟨h1, ?_⟩
      show (38 :: t.take (lg t).1).length ≤ 404 + (lg t).1
      rw [List.length_cons, List.length_take]
      omega
    · exact ⟨h1, by show (lg t).2.length ≤ 404 + (lg t).1; omega⟩
theorem refL_le {lg : List UInt8 → Nat × List UInt8} (L : LgOk lg) (attr : Bool) (t : List UInt8) : (refL lg attr t).2 ≤ t.length ∧ (refL lg attr t).1.length ≤ 404 + (refL lg attr t).2 := by
  unfold refL
  cases t with
  | nil => exact ⟨Nat.le_refl 0, by simp⟩
  | cons c r =>
    simp only
    split
    · exact namedL_le L attr (c :: r)
    · split
      · have := numericL_le r
        exact ⟨by show (numericL r).2 + 1 ≤ _; rw [List.length_cons]; omega, by show (numericL r).1.length ≤ 404 + ((numericL r).2 + 1); omega⟩
      · exact ⟨Nat.zero_le _, by simp⟩
theorem refL_res {lg : List UInt8 → Nat × List UInt8} (L : LgOk lg) (attr : Bool) (l : List UInt8) : (res (refL lg attr) l).length ≤ 404 * l.length :=
  res_len (refL lg attr) 404 (by decide) (fun t => by have := (refL_le L attr t).2; omega) (fun t => (refL_le L attr t).1) _ l (Nat.le_refl _)
end Go.Proofs.YtofiaodpjpjedaaGreatDoor

namespace Go.Proofs.YtofiaodpjpjedaaGreatDoor
open Go.Lib
set_option maxRecDepth 100000

theorem refL_al (lg : List UInt8 → Nat × List UInt8) (attr : Bool) {c : UInt8} (r : List UInt8) (h : alU c = true) : refL lg attr (c :: r) = namedL lg attr (c :: r) := by
  unfold refL
  simp only
  rw [if_pos h]
theorem refL_35 (lg : List UInt8 → Nat × List UInt8) (attr : Bool) (r : List UInt8) : refL lg attr (35 :: r) = ((numericL r).1, (numericL r).2 + 1) := by
  unfold refL
  simp only
  rw [if_neg (by decide), if_pos trivial]
theorem ref_notF_of (lg : List UInt8 → Nat × List UInt8) (h : lg sNotit = (3, [194, 172])) : refL lg false sNotit = ([194, 172], 3) := by
  have e : refL lg false sNotit = namedL lg false sNotit := refL_al lg false _ (by decide)
  rw [e]
  unfold namedL
  rw [h]
  rfl
theorem ref_notT_of (lg : List UInt8 → Nat × List UInt8) (h : lg sNotit = (3, [194, 172])) : refL lg true sNotit = ([38, 110, 111, 116], 3) := by
  have e : refL lg true sNotit = namedL lg true sNotit := refL_al lg true _ (by decide)
  rw [e]
  unfold namedL
  rw [h]
  decide +kernel
theorem ref_ltb_of (lg : List UInt8 → Nat × List UInt8) (h : lg sLtb = (3, [60])) : refL lg false sLtb = ([60], 3) := by
  have e : refL lg false sLtb = namedL lg false sLtb := refL_al lg false _ (by decide)
  rw [e]
  unfold namedL
  rw [h]
  rfl
theorem ref_notF : refL lgL false sNotit = ([194, 172], 3) := ref_notF_of lgL two_p.1
theorem ref_notT : refL lgL true sNotit = ([38, 110, 111, 116], 3) := ref_notT_of lgL two_p.1
theorem ref_ltb : refL lgL false sLtb = ([60], 3) := ref_ltb_of lgL two_p.2
theorem ref_xg (lg : List UInt8 → Nat × List UInt8) : refL lg false [35, 120, 103] = ([38, 35, 120], 2) := by
  have h : numericL [120, 103] = ([38, 35, 120], 1) := by decide +kernel
  rw [refL_35, h]
theorem ref_x80 (lg : List UInt8 → Nat × List UInt8) : refL lg true [35, 120, 56, 48] = ([226, 130, 172], 4) := by
  have h : numericL [120, 56, 48] = ([226, 130, 172], 3) := by decide +kernel
  rw [refL_35, h]
theorem res_ltb (R : RefF) (h : R sLtb = ([60], 3)) : res R (97 :: 38 :: sLtb) = [97, 60, 60, 47, 98, 62] := by
  show nul1 97 ++ ((R sLtb).1 ++ resF R 7 (sLtb.drop (R sLtb).2)) = _
  rw [h]
  rfl
theorem com_k1 : comL [97, 45, 45, 98, 45, 45, 62, 99] = ([97, 45, 45, 98], 7) := by decide +kernel
theorem com_k2 : comL [45, 62, 97] = ([], 2) := by decide +kernel
theorem tag_k (R : RefF) : atL R [47, 32, 62, 120] = some ([], false, [120]) := rfl
theorem clo_k1 : closesL [104, 49] [60, 47, 104, 49, 62] = false := by decide +kernel
theorem clo_k2 : closesL [116, 105, 116, 108, 101] [60, 47, 84, 105, 116, 108, 101, 47] = true := by decide +kernel
theorem doc_k : (docL [32, 97, 32, 83, 89, 83, 84, 69, 77, 39, 121, 39, 32, 122, 62]).1.name = [97] ∧ (docL [32, 97, 32, 83, 89, 83, 84, 69, 77, 39, 121, 39, 32, 122, 62]).1.hasPub = false ∧ (docL [32, 97, 32, 83, 89, 83, 84, 69, 77, 39, 121, 39, 32, 122, 62]).1.sys = [121] ∧ (docL [32, 97, 32, 83, 89, 83, 84, 69, 77, 39, 121, 39, 32, 122, 62]).1.hasSys = true ∧ (docL [32, 97, 32, 83, 89, 83, 84, 69, 77, 39, 121, 39, 32, 122, 62]).1.quirks = false ∧ (docL [32, 97, 32, 83, 89, 83, 84, 69, 77, 39, 121, 39, 32, 122, 62]).2 = [] := by decide +kernel
theorem scr_k : scL [115, 99, 114, 105, 112, 116] 0 0 [60, 33, 45, 45, 60, 115, 99, 114, 105, 112, 116, 62, 60, 47, 115, 99, 114, 105, 112, 116, 62, 60, 47, 115, 99, 114, 105, 112, 116, 62] = [60, 47, 115, 99, 114, 105, 112, 116, 62] := by decide +kernel
theorem stop_k : stopL [97] [97, 38, 108, 116, 59, 60, 47, 98, 62, 60, 47, 97, 62] = [60, 47, 97, 62] := by decide +kernel
end Go.Proofs.YtofiaodpjpjedaaGreatDoor
