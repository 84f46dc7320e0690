/-
  parse: an entry's name and its codes.
  The table's entries as a list, and their order.
  lastUpTo: the last entry whose name is not greater than s.
-/
import Derived.Test.YtnfccckodgknjaaGreatDoorY08
import Derived.Test.YtnfccckodgknjaaGreatDoorY09
namespace Go.Proofs.YtnfccckodgknjaaGreatDoor
open Go.RowKit
set_option maxHeartbeats 1000000
set_option maxRecDepth 100000

def nameOf (l : List UInt8) : List UInt8 := l.takeWhile fun b => b != 61
def codesOf (l : List UInt8) : List UInt8 := (l.dropWhile fun b => b != 61).drop 1

theorem cut_eq (l : List UInt8) : (Lib.cut l [61]).1 = nameOf l ∧ (Lib.cut l [61]).2.1 = codesOf l := by
  have key : ∀ l : List UInt8, (Lib.index l [61] = -1 ∧ nameOf l = l ∧ codesOf l = []) ∨ ∃ i : Nat, Lib.index l [61] = i ∧ l.take i = nameOf l ∧ l.drop (i + 1) = codesOf l := by
    intro l
    induction l with
    | nil => exact .inl ⟨rfl, rfl, rfl⟩
    | cons b t ih =>
      by_cases hb : b = 61
      · subst hb
        exact .inr ⟨0, rfl, rfl, rfl⟩
      · have e : Lib.index (b :: t) [61] = if Lib.index t [61] == -1 then -1 else Lib.index t [61] + 1 := by
          show (if ([61] : List UInt8).isPrefixOf (b :: t) then (0 : Int) else _) = _
          rw [if_neg (by simp [List.isPrefixOf]; exact fun h => hb h.symm)]
        have hb' : (b != 61) = true := by simpa using hb
        have e1 : nameOf (b :: t) = b :: nameOf t := by simp [nameOf, hb']
        have e2 : codesOf (b :: t) = codesOf t := by simp [codesOf, hb']
        rcases ih with ⟨h1, h2, h3⟩ | ⟨i, h1, h2, h3⟩
        · exact .inl ⟨by rw [e, h1]; rfl, by rw [e1, h2], by rw [e2, h3]⟩
        · exact .inr ⟨i + 1, by rw [e, h1, if_neg (by simp)]; rfl, by rw [e1, ← h2]; rfl, by rw [e2, ← h3]; rfl⟩
  unfold Lib.cut
  rcases key l with ⟨h1, h2, h3⟩ | ⟨i, h1, h2, h3⟩
  · rw [h1, if_neg (by decide)]
    exact ⟨h2.symm, h3.symm⟩
  · rw [h1, if_pos (by omega)]
    exact ⟨h2, h3⟩

theorem cutCall (s : ByteArray) (hs : s.size ≤ 100000) (m : Int) (w : World) (hm : w.cell? ⟨1, 0, none⟩ = some (.int .i64 m)) :
    Calls Tryz.prog 178 #[.string s, .string ⟨#[61]⟩] w fun e w' => ∃ (A B : ByteArray) (f : Bool) (n : Nat), e = .returned (.tuple #[.string A, .string B, .bool f]) ∧ A.data.toList = nameOf s.data.toList ∧ B.data.toList = codesOf s.data.toList ∧ w' = w.drewN n := by
  refine (Tryz.strings_Cut s ⟨#[61]⟩ m w (by omega) hm).mono ?_
  rintro e w' ⟨rfl, n, rfl⟩
  obtain ⟨c1, c2⟩ := cut_eq s.data.toList
  exact ⟨_, _, _, n, rfl, c1, c2, rfl⟩

theorem parse (s : ByteArray) (hs : s.size ≤ 100000) (m : Int) (w : World) (hm : w.cell? ⟨1, 0, none⟩ = some (.int .i64 m)) :
    Calls Tryz.prog 243 #[.string s] w fun e w' => ∃ A B : ByteArray, e = .returned (.agg #[.string A, .string B]) ∧ A.data.toList = nameOf s.data.toList ∧ B.data.toList = codesOf s.data.toList ∧ Below w.heap.size w w' := by
  have HC := Lib.hid (cutCall s hs m (w.alloc (.cells #[.string ⟨#[]⟩, .string ⟨#[]⟩] 187)) (carry hm (below_alloc (Below.refl _ _) _)))
  go_enter Tryz.func243, Tryz.ntmps243
  go_wp2_with fail
  refine HC.out.mono ?_
  rintro e w' ⟨A, B, f, n, rfl, hA, hB, rfl⟩
  have HA := Lib.hid hA
  have HB := Lib.hid hB
  clear hA hB
  go_wp2
  go_outline
  refine bodyPost_ret (v := .agg #[.string A, .string B]) (by simp [results, Tryz.results243, go_sem]) rfl ⟨A, B, rfl, HA.out, HB.out, by (repeat' (first | (with_reducible exact Below.refl _ _) | (with_reducible assumption) | (with_reducible refine below_alloc ?_ _) | (with_reducible refine Below.drew ?_) | (with_reducible refine _root_.Go.below_drewN ?_ _) | (with_reducible refine Below.setCell ?_ ?_ _) | go_size | (refine below_next ?_ (by assumption))))⟩

end Go.Proofs.YtnfccckodgknjaaGreatDoor

namespace Go.Proofs.YtnfccckodgknjaaGreatDoor
open Go.RowKit

/-- The parts of a list between the bytes c. -/
def parts (c : UInt8) : List UInt8 → List (List UInt8)
  | [] => [[]]
  | b :: t => if b == c then [] :: parts c t else match parts c t with
    | [] => [[b]]
    | h :: r => (b :: h) :: r

theorem parts_ne (c : UInt8) (l : List UInt8) : parts c l ≠ [] := by
  cases l with
  | nil => simp [parts]
  | cons b t =>
    unfold parts
    split
    · simp
    · split <;> simp

theorem parts_mid (c : UInt8) : ∀ (m : List UInt8), (∀ x ∈ m, x ≠ c) → parts c m = [m]
  | [], _ => rfl
  | b :: t, h => by
    have hb : (b == c) = false := by simpa using h b (by simp)
    rw [parts, hb, parts_mid c t (fun x hx => h x (by simp [hx]))]
    rfl

theorem parts_sep (c : UInt8) (r : List UInt8) : ∀ m : List UInt8, parts c (m ++ c :: r) = parts c m ++ parts c r
  | [] => by simp [parts]
  | b :: t => by
    rw [List.cons_append, parts, parts, parts_sep c r t]
    by_cases hb : (b == c) = true
    · simp [hb]
    · simp only [Bool.not_eq_true] at hb
      simp only [hb, Bool.false_eq_true, if_false]
      rcases hp : parts c t with _ | ⟨h, q⟩
      · exact absurd hp (parts_ne c t)
      · rfl

def ltB (x y : List UInt8) : Bool := Op.bytesLess x y
def leB (x y : List UInt8) : Bool := Op.bytesLess x y || x == y

theorem ltB_irrefl : ∀ x, ltB x x = false
  | [] => rfl
  | a :: x => by
    have := ltB_irrefl x
    simp only [ltB] at this
    simp [ltB, Op.bytesLess, this]

theorem ltB_trans : ∀ x y z, ltB x y = true → ltB y z = true → ltB x z = true
  | [], [], _, h, _ => by simp [ltB, Op.bytesLess] at h
  | [], _ :: _, [], _, h => by simp [ltB, Op.bytesLess] at h
  | [], _ :: _, _ :: _, _, _ => by simp [ltB, Op.bytesLess]
  | _ :: _, [], _, h, _ => by simp [ltB, Op.bytesLess] at h
  | _ :: _, _ :: _, [], _, h => by simp [ltB, Op.bytesLess] at h
  | a :: x, b :: y, c :: z, h, h2 => by
    have ih := ltB_trans x y z
    simp only [ltB, Op.bytesLess, Bool.or_eq_true, Bool.and_eq_true, decide_eq_true_eq, beq_iff_eq] at h h2 ih ⊢
    rcases h with h | ⟨h, h'⟩ <;> rcases h2 with h2 | ⟨h2, h2'⟩
    · exact .inl (UInt8.lt_trans h h2)
    · subst h2; exact .inl h
    · subst h; exact .inl h2
    · subst h; exact .inr ⟨h2, ih h' h2'⟩

theorem ltB_total : ∀ x y, ltB x y = false → x ≠ y → ltB y x = true
  | [], [], _, h => absurd rfl h
  | [], _ :: _, h, _ => by simp [ltB, Op.bytesLess] at h
  | _ :: _, [], _, _ => by simp [ltB, Op.bytesLess]
  | a :: x, b :: y, h, h2 => by
    have ih := ltB_total x y
    simp only [ltB, Op.bytesLess, Bool.or_eq_false_iff, Bool.and_eq_false_iff, decide_eq_false_iff_not, beq_eq_false_iff_ne] at h ih
    simp only [ltB, Op.bytesLess, Bool.or_eq_true, Bool.and_eq_true, decide_eq_true_eq, beq_iff_eq]
    by_cases hab : a = b
    · subst hab
      refine .inr ⟨rfl, ih ?_ fun e => h2 (by rw [e])⟩
      rcases h.2 with h' | h'
      · exact absurd rfl h'
      · exact h'
    · refine .inl ?_
      have h1 := h.1
      rw [UInt8.lt_iff_toNat_lt] at h1 ⊢
      have : a.toNat ≠ b.toNat := fun e => hab (UInt8.toNat_inj.mp e)
      omega

theorem ltB_asymm (x y) (h : ltB x y = true) : ltB y x = false := by
  cases h2 : ltB y x
  · rfl
  · exact absurd (ltB_trans x y x h h2) (by simp [ltB_irrefl])

theorem leB_lt (x y z) (h : leB x y = true) (h2 : ltB y z = true) : ltB x z = true := by
  simp only [leB, Bool.or_eq_true, beq_iff_eq] at h
  rcases h with h | rfl
  · exact ltB_trans x y z h h2
  · exact h2
theorem lt_leB (x y z) (h : ltB x y = true) (h2 : leB y z = true) : leB x z = true := by
  simp only [leB, Bool.or_eq_true, beq_iff_eq] at h2 ⊢
  rcases h2 with h2 | rfl
  · exact .inl (ltB_trans x y z h h2)
  · exact .inl h
theorem leB_not (x y) : leB x y = false ↔ ltB y x = true := by
  constructor
  · intro h
    simp only [leB, Bool.or_eq_false_iff, beq_eq_false_iff_ne] at h
    exact ltB_total x y h.1 h.2
  · intro h
    cases h2 : leB x y
    · rfl
    · exact absurd (leB_lt x y x h2 h) (by simp [ltB_irrefl])

def sortedB : List (List UInt8) → Bool
  | a :: b :: r => ltB (nameOf a) (nameOf b) && sortedB (b :: r)
  | _ => true
theorem sortedB_all : ∀ (l : List (List UInt8)), sortedB l = true → l.Pairwise fun a b => ltB (nameOf a) (nameOf b) = true
  | [], _ => .nil
  | [a], _ => by simp
  | a :: b :: r, h => by
    rw [sortedB, Bool.and_eq_true] at h
    have ih := sortedB_all (b :: r) h.2
    refine .cons ?_ ih
    intro c hc
    rw [List.mem_cons] at hc
    rcases hc with rfl | hc
    · exact h.1
    · exact ltB_trans _ _ _ h.1 (List.rel_of_pairwise_cons ih hc)

/-- The entries of the table. -/
noncomputable def ENT : List (List UInt8) := parts 32 NM.data.toList
theorem ent_sorted_b : sortedB (parts 32 NM.data.toList) = true := by decide +kernel
theorem ent_sorted : ENT.Pairwise fun a b => ltB (nameOf a) (nameOf b) = true := sortedB_all _ ent_sorted_b

/-- What stands from S to E. -/
def cutAt (l : List UInt8) (S E : Nat) : List UInt8 := (l.take E).drop S

theorem cut_len {l : List UInt8} {S E : Nat} (h : IsEnt l S E) : (cutAt l S E).length = E - S := by
  have := h.len
  simp [cutAt]; omega

theorem cut_ne {l : List UInt8} {S E : Nat} (h : IsEnt l S E) : ∀ x ∈ cutAt l S E, x ≠ 32 := by
  intro x hx e
  subst e
  obtain ⟨j, hj⟩ := List.getElem?_of_mem hx
  have hl := cut_len h
  have hj2 : j < E - S := by
    rw [← hl]
    exact (List.getElem?_eq_some_iff.mp hj).1
  refine h.mid (S + j) (by omega) (by omega) ?_
  rw [cutAt, List.getElem?_drop, List.getElem?_take_of_lt (by omega)] at hj
  exact hj

theorem ent_parts {l : List UInt8} {S E : Nat} (h : IsEnt l S E) : ∃ p : List (List UInt8), parts 32 l = p ++ cutAt l S E :: (if E = l.length then [] else parts 32 (l.drop (E + 1))) := by
  have hle := h.le
  have hlen := h.len
  have e1 : l.drop S = cutAt l S E ++ l.drop E := by
    have : l = l.take E ++ l.drop E := (List.take_append_drop E l).symm
    conv => lhs; rw [this]
    rw [List.drop_append, List.length_take, show S - min E l.length = 0 by omega]
    rfl
  have e2 : parts 32 (l.drop S) = cutAt l S E :: (if E = l.length then [] else parts 32 (l.drop (E + 1))) := by
    rw [e1]
    by_cases he : E = l.length
    · rw [if_pos he, he, List.drop_length, List.append_nil, ← he, parts_mid 32 _ (cut_ne h)]
    · rw [if_neg he]
      have h3 : l[E]? = some 32 := h.right.resolve_left he
      obtain ⟨hlt, h4⟩ := List.getElem?_eq_some_iff.mp h3
      rw [List.drop_eq_getElem_cons hlt, h4, parts_sep, parts_mid 32 _ (cut_ne h)]
      rfl
  rcases h.left with h0 | h0
  · subst h0
    exact ⟨[], by simpa using e2⟩
  · by_cases hS : S = 0
    · subst hS
      exact ⟨[], by simpa using e2⟩
    obtain ⟨hlt, h4⟩ := List.getElem?_eq_some_iff.mp h0
    refine ⟨parts 32 (l.take (S - 1)), ?_⟩
    rw [← e2, ← parts_sep]
    have : l = l.take (S - 1) ++ l.drop (S - 1) := (List.take_append_drop _ l).symm
    conv => lhs; rw [this]
    rw [List.drop_eq_getElem_cons hlt, h4, show S - 1 + 1 = S by omega]

theorem ent_mem {l : List UInt8} {S E : Nat} (h : IsEnt l S E) : cutAt l S E ∈ parts 32 l := by
  obtain ⟨p, hp⟩ := ent_parts h
  rw [hp]
  simp

theorem ent_next {l : List UInt8} {S E S' E' : Nat} (h : IsEnt l S E) (h' : IsEnt l S' E') (hlt : S < S') : E < S' := by
  have h0 := h'.left.resolve_left (by omega)
  by_cases hc : S' - 1 < E
  · exact absurd h0 (h.mid _ (by omega) hc)
  · omega

theorem ent_drop {l : List UInt8} {k S E : Nat} (h : IsEnt l S E) (hk : k < S) : IsEnt (l.drop (k + 1)) (S - (k + 1)) (E - (k + 1)) := by
  have hle := h.le
  have hlen := h.len
  refine ⟨by omega, by simp; omega, ?_, ?_, ?_⟩
  · by_cases hS : S = k + 1
    · exact .inl (by omega)
    · refine .inr ?_
      rw [List.getElem?_drop, show k + 1 + (S - (k + 1) - 1) = S - 1 by omega]
      exact h.left.resolve_left (by omega)
  · rcases h.right with h3 | h3
    · exact .inl (by simp; omega)
    · refine .inr ?_
      rw [List.getElem?_drop, show k + 1 + (E - (k + 1)) = E by omega]
      exact h3
  · intro j h1 h2
    rw [List.getElem?_drop]
    exact h.mid _ (by omega) (by omega)

theorem cut_drop (l : List UInt8) (k S E : Nat) (hk : k < S) (hE : k + 1 ≤ E) : cutAt (l.drop (k + 1)) (S - (k + 1)) (E - (k + 1)) = cutAt l S E := by
  rw [cutAt, cutAt, List.take_drop, List.drop_drop, show k + 1 + (E - (k + 1)) = E by omega, show k + 1 + (S - (k + 1)) = S by omega]

theorem ent_order {l : List UInt8} {S E S' E' : Nat} {R : List UInt8 → List UInt8 → Prop} (hp : (parts 32 l).Pairwise R) (h : IsEnt l S E) (h' : IsEnt l S' E') (hlt : S < S') : R (cutAt l S E) (cutAt l S' E') := by
  have hn := ent_next h h' hlt
  obtain ⟨p, e⟩ := ent_parts h
  have hE : ¬ E = l.length := by have := h'.len; have := h'.le; omega
  rw [e, if_neg hE, List.pairwise_append] at hp
  refine List.rel_of_pairwise_cons hp.2.1 ?_
  have := ent_mem (ent_drop h' hn)
  have hl := h'.le
  rwa [cut_drop l E S' E' hn (by omega)] at this

theorem ent_of : ∀ (n : Nat) (l : List UInt8), l.length ≤ n → ∀ e ∈ parts 32 l, ∃ S E, IsEnt l S E ∧ e = cutAt l S E := by
  intro n
  induction n with
  | zero =>
    intro l hl e he
    have : l = [] := List.eq_nil_of_length_eq_zero (by omega)
    subst this
    simp [parts] at he
    exact ⟨0, 0, ⟨by omega, by simp, .inl rfl, .inl rfl, fun j _ h => by omega⟩, by simp [cutAt, he]⟩
  | succ n ih =>
    intro l hl e he
    by_cases h32 : ∀ x ∈ l, x ≠ 32
    · rw [parts_mid 32 l h32, List.mem_singleton] at he
      refine ⟨0, l.length, ⟨by omega, by omega, .inl rfl, .inl rfl, ?_⟩, by simp [cutAt, he]⟩
      intro j _ h hj
      exact h32 32 (List.mem_of_getElem? hj) rfl
    · have hm : ∃ m r, l = m ++ 32 :: r ∧ ∀ x ∈ m, x ≠ 32 := by
        have : (32 : UInt8) ∈ l := by
          refine Decidable.byContradiction fun h => h32 fun x hx e => h (e ▸ hx)
        clear he hl h32
        induction l with
        | nil => simp at this
        | cons b t ih2 =>
          by_cases hb : b = 32
          · subst hb; exact ⟨[], t, rfl, by simp⟩
          · rw [List.mem_cons] at this
            obtain ⟨m, r, e, h⟩ := ih2 (this.resolve_left fun h => hb h.symm)
            refine ⟨b :: m, r, by rw [e]; rfl, ?_⟩
            intro x hx
            rw [List.mem_cons] at hx
            rcases hx with rfl | hx
            · exact hb
            · exact h x hx
      obtain ⟨m, r, rfl, hm⟩ := hm
      rw [parts_sep, parts_mid 32 m hm, List.mem_append, List.mem_singleton] at he
      rcases he with rfl | he
      · refine ⟨0, e.length, ⟨by omega, by simp, .inl rfl, .inr (by simp), ?_⟩, by simp [cutAt]⟩
        intro j _ h hj
        rw [List.getElem?_append_left h] at hj
        exact hm 32 (List.mem_of_getElem? hj) rfl
      · obtain ⟨S, E, h, rfl⟩ := ih r (by simp at hl; omega) e he
        have a1 := h.le
        have a2 := h.len
        have g : ∀ j, (m ++ 32 :: r)[m.length + 1 + j]? = r[j]? := by
          intro j
          rw [List.getElem?_append_right (by omega), show m.length + 1 + j - m.length = j + 1 by omega, List.getElem?_cons_succ]
        refine ⟨m.length + 1 + S, m.length + 1 + E, ⟨by omega, by simp; omega, ?_, ?_, ?_⟩, ?_⟩
        · refine .inr ?_
          rcases Nat.eq_zero_or_pos S with hS | hS
          · subst hS
            simp
          · rw [show m.length + 1 + S - 1 = m.length + 1 + (S - 1) by omega, g]
            exact h.left.resolve_left (by omega)
        · rcases h.right with h3 | h3
          · exact .inl (by simp; omega)
          · exact .inr (by rw [g]; exact h3)
        · intro j h1 h2
          rw [show j = m.length + 1 + (j - (m.length + 1)) by omega, g]
          exact h.mid _ (by omega) (by omega)
        · have := cut_drop (m ++ 32 :: r) m.length (m.length + 1 + S) (m.length + 1 + E) (by omega) (by omega)
          rw [← this]
          simp [cutAt]

theorem ent_uniq {l : List UInt8} {S E E' : Nat} (h : IsEnt l S E) (h' : IsEnt l S E') : E = E' := by
  have key : ∀ {A B : Nat}, IsEnt l S A → IsEnt l S B → ¬ A < B := by
    intro A B a b hlt
    have := a.le
    have hb := b.len
    exact b.mid A this hlt (a.right.resolve_left (by omega))
  have h1 := key h h'
  have h2 := key h' h
  omega

/-- What lastUpTo answers for s. -/
structure UpTo (s : List UInt8) (A B : ByteArray) (F : Bool) : Prop where
  no : F = false → ∀ e ∈ ENT, ltB s (nameOf e) = true
  yes : F = true → ∃ e ∈ ENT, A.data.toList = nameOf e ∧ B.data.toList = codesOf e ∧ leB (nameOf e) s = true ∧ ∀ e' ∈ ENT, leB (nameOf e') s = true → leB (nameOf e') (nameOf e) = true

/-- What holds between the halvings. -/
structure Halv (s : List UInt8) (lo hi : Nat) (A B : ByteArray) (F : Bool) : Prop where
  no : F = false → lo = 0
  yes : F = true → ∃ S E, IsEnt NM.data.toList S E ∧ lo = E + 1 ∧ A.data.toList = nameOf (cutAt NM.data.toList S E) ∧ B.data.toList = codesOf (cutAt NM.data.toList S E) ∧ leB (nameOf (cutAt NM.data.toList S E)) s = true
  above : ∀ S E, IsEnt NM.data.toList S E → hi ≤ S → ltB s (nameOf (cutAt NM.data.toList S E)) = true

theorem nm_last_b : (NM.data.toList.getLast? == some 32) = false := by decide +kernel
theorem nm_length : NM.data.toList.length = 29726 := by
  have := nm_len
  simpa using this
theorem halv_start (s : List UInt8) (A B : ByteArray) : Halv s 0 29726 A B false := by
  refine ⟨fun _ => rfl, fun h => by simp at h, ?_⟩
  intro S E h hS
  exfalso
  have h1 := h.le
  have h2 := h.len
  rw [nm_length] at h2
  have h3 := h.left.resolve_left (by omega)
  have h4 := nm_last_b
  rw [List.getLast?_eq_getElem?, nm_length] at h4
  rw [show S - 1 = 29726 - 1 by omega] at h3
  rw [h3] at h4
  simp at h4
theorem halv_up {s : List UInt8} {lo hi : Nat} {A B A' B' : ByteArray} {F : Bool} (h : Halv s lo hi A B F) {S E : Nat} (he : IsEnt NM.data.toList S E) (ha : A'.data.toList = nameOf (cutAt NM.data.toList S E)) (hb : B'.data.toList = codesOf (cutAt NM.data.toList S E)) (hle : leB A'.data.toList s = true) : Halv s (E + 1) hi A' B' true :=
  ⟨fun h => by simp at h, fun _ => ⟨S, E, he, rfl, ha, hb, by rw [← ha]; exact hle⟩, h.above⟩
theorem halv_down {s : List UInt8} {lo hi : Nat} {A B A' : ByteArray} {F : Bool} (h : Halv s lo hi A B F) {S E : Nat} (he : IsEnt NM.data.toList S E) (ha : A'.data.toList = nameOf (cutAt NM.data.toList S E)) (hle : leB A'.data.toList s = false) : Halv s lo S A B F := by
  rw [ha, leB_not] at hle
  refine ⟨h.no, h.yes, ?_⟩
  intro S' E' h' hS
  rcases Nat.lt_or_eq_of_le hS with hlt | rfl
  · exact ltB_trans _ _ _ hle (ent_order ent_sorted he h' hlt)
  · rw [← ent_uniq he h']
    exact hle
theorem halv_end {s : List UInt8} {lo hi : Nat} {A B : ByteArray} {F : Bool} (h : Halv s lo hi A B F) (hl : hi ≤ lo) : UpTo s A B F := by
  constructor
  · intro hF e he
    obtain ⟨S, E, hI, rfl⟩ := ent_of _ _ (Nat.le_refl _) e he
    have := h.no hF
    exact h.above S E hI (by omega)
  · intro hF
    obtain ⟨S, E, hI, hlo, h1, h2, h3⟩ := h.yes hF
    refine ⟨_, ent_mem hI, h1, h2, h3, ?_⟩
    intro e he hle
    obtain ⟨S', E', hI', rfl⟩ := ent_of _ _ (Nat.le_refl _) e he
    rcases Nat.lt_trichotomy S S' with hlt | rfl | hlt
    · have := ent_next hI hI' hlt
      have := h.above S' E' hI' (by omega)
      rw [← leB_not, hle] at this
      simp at this
    · rw [← ent_uniq hI hI']
      simp [leB]
    · have := ent_order ent_sorted hI' hI hlt
      simp only [ltB] at this
      simp [leB, this]
theorem nm_slice (S E : Nat) : (NM.extract S E).data.toList = cutAt NM.data.toList S E := by
  rw [Lib.extract_data, cutAt, List.drop_take]
end Go.Proofs.YtnfccckodgknjaaGreatDoor

namespace Go.Proofs.YtnfccckodgknjaaGreatDoor
open Go.RowKit
set_option maxHeartbeats 1000000
set_option maxRecDepth 100000

theorem lup (s : ByteArray) (m : Int) (w : World) (hm : w.cell? ⟨1, 0, none⟩ = some (.int .i64 m)) :
    Calls Tryz.prog 214 #[.string s] w fun e w' => ∃ A B F, e = .returned (.tuple #[.agg #[.string A, .string B], .bool F]) ∧ UpTo s.data.toList A B F ∧ Below w.heap.size w w' := by
  have hsz := nm_size
  go_enter Tryz.func214, Tryz.ntmps214
  generalize hN : (ByteArray.mk (List.toArray (List.append _ _))) = N
  have HN : NM = N := by rw [← hN]; rfl
  clear hN
  rw [HN] at hsz
  have HQ := Lib.hid HN
  clear HN
  have HSZ := Lib.hid hsz
  clear hsz
  go_wp2_with fail
  have hB0 : Below w.heap.size w (w.alloc (.cells #[.string ⟨#[]⟩, .string ⟨#[]⟩] 187)) := below_alloc (Below.refl _ _) _
  have HM := Lib.hid hm
  clear hm
  go_loopw [3, 4, 5] (fun f l h wr => ∃ (lo hi : Nat) (F : Bool) (A B : ByteArray), f = .bool F ∧ l = .int .i64 lo ∧ h = .int .i64 hi ∧ lo ≤ 29727 ∧ hi ≤ 29726 ∧ Halv s.data.toList lo hi A B F ∧ wr.cell? ⟨w.heap.size, 0, none⟩ = some (.string A) ∧ wr.cell? ⟨w.heap.size, 1, none⟩ = some (.string B) ∧ wr.frozen? ⟨w.heap.size, 0, none⟩ = false ∧ wr.frozen? ⟨w.heap.size, 1, none⟩ = false ∧ w.heap.size < wr.heap.size ∧ Below w.heap.size w wr) (fun _ l h _ => ((intOf h).toNat - (intOf l).toNat))
  case atStart => 
    exact ⟨0, 29726, false, ⟨#[]⟩, ⟨#[]⟩, rfl, rfl, rfl, by omega, by omega, halv_start _ _ _, World.cell?_alloc_at _ _ _ _ rfl, World.cell?_alloc_at _ _ _ _ rfl, World.frozen?_alloc_at _ _ _ _ rfl, World.frozen?_alloc_at _ _ _ _ rfl, by simp, hB0⟩
  case round =>
    obtain ⟨lo, hi, F, A, B, rfl, rfl, rfl, hlo, hhi, hH, hcA, hcB, hfr0, hfr1, hlt0, hB⟩ := hrel
    have HH := Lib.hid hH
    clear hH
    by_cases hlt : lo < hi
    · have hmid : ((lo : Int) + hi) / 2 = (((lo + hi) / 2 : Nat) : Int) := by omega
      have HMID := Lib.hid hmid
      clear hmid
      go_wp2_with fail
      rw [HMID.out]
      refine (entryAround _ (by rw [nm_size]; omega) _).mono ?_
      rintro e w' ⟨S, E, rfl, hI, hS, hE, rfl⟩
      have hlenE : E ≤ 29726 := by have := hI.len; rwa [nm_length] at this
      have hSE := hI.le
      have h1 : (S : Int) ≤ (N.size : Int) := by have := HSZ.out; omega
      have h2 : (E : Int) ≤ (N.size : Int) := by have := HSZ.out; omega
      have h3 : (S : Int) ≤ (E : Int) := by omega
      have HI := Lib.hid hI
      have hmr : wr.cell? ⟨1, 0, none⟩ = some (.int .i64 m) := carry HM.out hB
      have HC := Lib.hid (parse (N.extract S E) (by rw [ByteArray.size_extract]; omega) m wr hmr)
      clear hI hmr
      go_wp2_with fail
      refine HC.out.mono ?_
      rintro e w' ⟨A', B', rfl, hA, hB', hb⟩
      have HA := Lib.hid (hA.trans (by rw [← HQ.out, nm_slice]))
      have HB' := Lib.hid (hB'.trans (by rw [← HQ.out, nm_slice]))
      clear hA hB'
      have c0 := (hb.cell (p := ⟨w.heap.size, 0, none⟩) hlt0).trans hcA
      have c1 := (hb.cell (p := ⟨w.heap.size, 1, none⟩) hlt0).trans hcB
      have c2 := (hb.frozen (p := ⟨w.heap.size, 0, none⟩) hlt0).trans hfr0
      have c3 := (hb.frozen (p := ⟨w.heap.size, 1, none⟩) hlt0).trans hfr1
      have hBw := below_next hB hb
      have hltw := Nat.lt_of_lt_of_le hlt0 hb.size
      have HBb := Lib.hid hb
      clear hb hcA hcB hfr0 hfr1
      have nB : (w.heap.size = w'.heap.size) = False := by simp; omega
      have nB2 : (w'.heap.size = w.heap.size) = False := by simp; omega
      cases hp : Op.bytesLess A'.toList s.toList || A'.toList == s.toList with
      | true =>
        have HP := Lib.hid hp
        go_wp2_with fail
        have hle : leB A'.data.toList s.data.toList = true := by simpa [leB, Lib.toList_data] using HP.out
        refine ⟨⟨E + 1, hi, true, A', B', rfl, by go_num, rfl, by omega, hhi, halv_up HH.out HI.out HA.out HB'.out hle, ?_, ?_, ?_, ?_, ?_, by (repeat' (first | (with_reducible exact Below.refl _ _) | (with_reducible assumption) | (with_reducible refine below_alloc ?_ _) | (with_reducible refine Below.drew ?_) | (with_reducible refine _root_.Go.below_drewN ?_ _) | (with_reducible refine Below.setCell ?_ ?_ _) | go_size | (refine below_next ?_ (by assumption))))⟩, by simp [intOf]; omega⟩
        · rw [World.cell?_alloc_past _ _ _ (by simpa using hltw)]; simp [go_sem, c0]
        · rw [World.cell?_alloc_past _ _ _ (by simpa using hltw)]; simp [go_sem, c1]
        · rw [World.frozen?_alloc_past _ _ _ (by simpa using hltw)]; simpa [go_sem] using c2
        · rw [World.frozen?_alloc_past _ _ _ (by simpa using hltw)]; simpa [go_sem] using c3
        · simp; omega
      | false =>
        have HP := Lib.hid hp
        go_wp2_with fail
        have hle : leB A'.data.toList s.data.toList = false := by simpa [leB, Lib.toList_data] using HP.out
        refine ⟨⟨lo, S, F, A, B, rfl, rfl, rfl, by omega, by omega, halv_down HH.out HI.out HA.out hle, ?_, ?_, ?_, ?_, ?_, by (repeat' (first | (with_reducible exact Below.refl _ _) | (with_reducible assumption) | (with_reducible refine below_alloc ?_ _) | (with_reducible refine Below.drew ?_) | (with_reducible refine _root_.Go.below_drewN ?_ _) | (with_reducible refine Below.setCell ?_ ?_ _) | go_size | (refine below_next ?_ (by assumption))))⟩, by simp [intOf]; omega⟩
        · rw [World.cell?_alloc_past _ _ _ hltw]; exact c0
        · rw [World.cell?_alloc_past _ _ _ hltw]; exact c1
        · rw [World.frozen?_alloc_past _ _ _ hltw]; exact c2
        · rw [World.frozen?_alloc_past _ _ _ hltw]; exact c3
        · simp; omega
    · have k0 : ((wr.setCell ⟨w.heap.size, 0, none⟩ (.string A)).setCell ⟨w.heap.size, 1, none⟩ (.string B)).cell? ⟨w.heap.size, 0, none⟩ = some (.string A) := by
        simp [go_sem, hcA]
      have k1 : ((wr.setCell ⟨w.heap.size, 0, none⟩ (.string A)).setCell ⟨w.heap.size, 1, none⟩ (.string B)).cell? ⟨w.heap.size, 1, none⟩ = some (.string B) := by
        simp [go_sem, hcB]
      go_wp2_with fail
      have hB9 : Below w.heap.size w ((wr.setCell ⟨w.heap.size, 0, none⟩ (.string A)).setCell ⟨w.heap.size, 1, none⟩ (.string B)) := by (repeat' (first | (with_reducible exact Below.refl _ _) | (with_reducible assumption) | (with_reducible refine below_alloc ?_ _) | (with_reducible refine Below.drew ?_) | (with_reducible refine _root_.Go.below_drewN ?_ _) | (with_reducible refine Below.setCell ?_ ?_ _) | go_size | (refine below_next ?_ (by assumption))))
      generalize (wr.setCell ⟨w.heap.size, 0, none⟩ (.string A)).setCell ⟨w.heap.size, 1, none⟩ (.string B) = w9 at k0 k1 hB9 ⊢
      refine bodyPost_ret (v := .tuple #[.agg #[.string A, .string B], .bool F]) (by simp [results, Tryz.results214, go_sem, k0, k1]) rfl ⟨A, B, F, rfl, halv_end HH.out (by omega), hB9⟩
end Go.Proofs.YtnfccckodgknjaaGreatDoor
