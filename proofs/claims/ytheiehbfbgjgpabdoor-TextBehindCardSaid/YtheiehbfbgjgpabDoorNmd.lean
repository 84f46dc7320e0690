/-
  Named.
-/
import Derived.Test.YtheiehbfbgjgpabDoorVal
namespace Go.Proofs.YtheiehbfbgjgpabDoor
open Go.RowKit
set_option maxHeartbeats 1000000
set_option maxRecDepth 100000

/-- The value of a name, if the table has it. -/
noncomputable def namedR (s : List UInt8) : Option (List UInt8) := (ENT.find? fun e => nameOf e == s).map fun e => valL (codesOf e)

theorem leB_antisymm (x y : List UInt8) (h : leB x y = true) (h2 : leB y x = true) : x = y := by
  simp only [leB, Bool.or_eq_true, beq_iff_eq] at h h2
  rcases h with h | h
  · rcases h2 with h2 | h2
    · exact absurd (ltB_trans x y x h h2) (by simp [ltB_irrefl])
    · exact h2.symm
  · exact h

theorem pairwise_uniq {l : List (List UInt8)} (hp : l.Pairwise fun a b => ltB (nameOf a) (nameOf b) = true) : ∀ a ∈ l, ∀ b ∈ l, nameOf a = nameOf b → a = b := by
  induction hp with
  | nil => intro a ha; simp at ha
  | cons h1 _ ih =>
    rename_i x l
    intro a ha b hb hab
    rw [List.mem_cons] at ha hb
    rcases ha with rfl | ha <;> rcases hb with rfl | hb
    · rfl
    · have := h1 b hb; rw [hab, ltB_irrefl] at this; simp at this
    · have := h1 a ha; rw [hab, ltB_irrefl] at this; simp at this
    · exact ih a ha b hb hab

theorem named_some (e : List UInt8) (he : e ∈ ENT) : namedR (nameOf e) = some (valL (codesOf e)) := by
  unfold namedR
  cases hf : ENT.find? fun e' => nameOf e' == nameOf e with
  | none =>
    have := List.find?_eq_none.mp hf e he
    simp at this
  | some e' =>
    have h1 := List.find?_some hf
    have h2 := List.mem_of_find?_eq_some hf
    have := pairwise_uniq ent_sorted e' h2 e he (by simpa using h1)
    rw [this]; rfl

theorem named_none (s : List UInt8) (h : ∀ e ∈ ENT, nameOf e ≠ s) : namedR s = none := by
  unfold namedR
  rw [List.find?_eq_none.mpr (by intro e he; simpa using h e he)]
  rfl

theorem named_of {s : List UInt8} {A B : ByteArray} {F : Bool} (h : UpTo s A B F) : namedR s = if F && A.data.toList == s then some (valL B.data.toList) else none := by
  cases F with
  | false =>
    rw [if_neg (by simp)]
    refine named_none s fun e he hs => ?_
    have := h.no rfl e he
    rw [hs, ltB_irrefl] at this
    simp at this
  | true =>
    obtain ⟨e, he, h1, h2, h3, h4⟩ := h.yes rfl
    by_cases hA : A.data.toList = s
    · rw [if_pos (by simpa using hA), h2, ← hA, h1]
      exact named_some e he
    · rw [if_neg (by simpa using hA)]
      refine named_none s fun e' he' hs => hA ?_
      have h5 := h4 e' he' (by rw [hs]; simp [leB])
      rw [hs] at h5
      rw [h1]
      exact leB_antisymm _ _ h3 h5

theorem list_bytes (a b : ByteArray) (h : a.data.toList = b.data.toList) : a = b := by
  cases a; cases b; congr; exact Array.toList_inj.mp h

/-- What Named answers. -/
def NmP (r : Option (List UInt8)) (V : ByteArray) (c : Int) : Prop := (r = some V.data.toList ∧ c = 0) ∨ (r = none ∧ V = ⟨#[]⟩ ∧ c = 5)

theorem codesOf_len (e : List UInt8) : (codesOf e).length ≤ e.length := by
  unfold codesOf
  have := (List.dropWhile_suffix (l := e) fun b => b != 61).length_le
  rw [List.length_drop]; omega
theorem nameOf_len (e : List UInt8) : (nameOf e).length ≤ e.length := (List.takeWhile_prefix _).length_le
theorem ent_len (e : List UInt8) (he : e ∈ ENT) : e.length ≤ 29726 := by
  obtain ⟨S, E, hI, rfl⟩ := ent_of _ _ (Nat.le_refl _) e he
  have := hI.len
  rw [nm_length] at this
  rw [cut_len hI]; omega
theorem upTo_size {s : List UInt8} {A B : ByteArray} (h : UpTo s A B true) : A.size ≤ 29726 ∧ B.size ≤ 29726 := by
  obtain ⟨e, he, h1, h2, _⟩ := h.yes rfl
  have := ent_len e he
  have h3 := codesOf_len e
  have h4 := nameOf_len e
  rw [← h2] at h3
  rw [← h1] at h4
  rw [size_list] at h3 h4
  omega

theorem named (s : ByteArray) (m : Int) (w : World) (hm : w.cell? ⟨1, 0, none⟩ = some (.int .i64 m)) :
    Calls Tryd.prog 16 #[.string s] w fun e w' => ∃ (V : ByteArray) (c : Int), e = .returned (.tuple #[.string V, .int .i64 c]) ∧ NmP (namedR s.data.toList) V c ∧ Below w.heap.size w w' := by
  go_enter Tryd.func16, Tryd.ntmps16
  go_wp2_with fail
  refine (lup s m w hm).mono ?_
  rintro e w1 ⟨A, B, F, rfl, hU, hb⟩
  have hN := named_of hU
  have HU := Lib.hid hU
  cases F with
  | false =>
    rw [if_neg (by simp)] at hN
    have HN := Lib.hid hN
    clear hN hU
    go_wp2_with fail
    refine bodyPost_ret (v := .tuple #[.string ⟨#[]⟩, .int .i64 5]) (by simp [results, Tryd.results16, go_sem]) rfl ⟨_, _, rfl, .inr ⟨HN.out, rfl, rfl⟩, by (repeat' (first | (with_reducible exact Below.refl _ _) | (with_reducible assumption) | (with_reducible refine below_alloc ?_ _) | (with_reducible refine Below.drew ?_) | (with_reducible refine below_drewN ?_ _) | (with_reducible refine Below.setCell ?_ ?_ _) | go_size | (refine below_next ?_ (by assumption))))⟩
  | true =>
    obtain ⟨z1, z2⟩ := upTo_size HU.out
    by_cases hA : A = s
    · subst hA
      rw [if_pos (by simp)] at hN
      have HN := Lib.hid hN
      have hA2 : (A.toList == A.toList) = true := by simp
      clear hN hU
      go_wp2_with fail
      refine (value A B (by omega) _).mono ?_
      rintro e w2 ⟨V, rfl, hV, hb2⟩
      have HV := Lib.hid hV
      clear hV
      go_wp2_with fail
      refine bodyPost_ret (v := .tuple #[.string V, .int .i64 0]) (by simp [results, Tryd.results16, go_sem]) rfl ⟨_, _, rfl, .inl ⟨by rw [HN.out, HV.out], rfl⟩, ?_⟩
      exact below_next (below_alloc hb _) hb2
    · rw [if_neg (by simp; exact fun h => hA (list_bytes _ _ (by simpa using h)))] at hN
      have HN := Lib.hid hN
      clear hN hU
      have hA2 : (A.toList == s.toList) = false := by simp [Lib.toList_data]; exact fun h => hA (list_bytes _ _ (by simpa using h))
      go_wp2_with fail
      refine bodyPost_ret (v := .tuple #[.string ⟨#[]⟩, .int .i64 5]) (by simp [results, Tryd.results16, go_sem]) rfl ⟨_, _, rfl, .inr ⟨HN.out, rfl, rfl⟩, by (repeat' (first | (with_reducible exact Below.refl _ _) | (with_reducible assumption) | (with_reducible refine below_alloc ?_ _) | (with_reducible refine Below.drew ?_) | (with_reducible refine below_drewN ?_ _) | (with_reducible refine Below.setCell ?_ ?_ _) | go_size | (refine below_next ?_ (by assumption))))⟩
end Go.Proofs.YtheiehbfbgjgpabDoor
