/-
  When the first piece is whole.
-/
import Derived.Test.YtheiehbfbgjgpabDoorRva
namespace Go.Proofs.YtheiehbfbgjgpabDoor
open Go.RowKit
set_option maxHeartbeats 2000000

theorem tab_skip (lo hi : Int) (rs : List (Int × Int)) (es : List (Int × Int × List (Int × Int))) (b : UInt8) (t : List UInt8) (h : (b.toNat : Int) < lo ∨ hi < (b.toNat : Int)) : measTab ((lo, hi, rs) :: es) b t = measTab es b t := by
  conv => lhs; unfold measTab
  rw [if_neg (by simp [inB]; omega)]
theorem tab_hit (lo hi : Int) (rs : List (Int × Int)) (es : List (Int × Int × List (Int × Int))) (b : UInt8) (t : List UInt8) (h : lo ≤ (b.toNat : Int)) (h2 : (b.toNat : Int) ≤ hi) : measTab ((lo, hi, rs) :: es) b t = measRest rs t 1 := by
  conv => lhs; unfold measTab
  rw [if_pos (by simp [inB]; omega)]

theorem sec_more (a x lo hi : Int) (hs : secB a x = (decide (lo ≤ x) && decide (x ≤ hi))) (h1 : 128 ≤ lo) (h2 : hi ≤ 191) : (secB a x && moreB x) = inB lo hi x := by
  rw [hs, Bool.eq_iff_iff]
  simp [moreB, inB]
  omega
theorem mr_cons (lo hi : Int) (rs : List (Int × Int)) (x : UInt8) (t : List UInt8) (n : Nat) : measRest ((lo, hi) :: rs) (x :: t) n = if inB lo hi x.toNat then measRest rs t (n + 1) else (n, false) := rfl
theorem cb_one (a : Int) (x : UInt8) (t : List UInt8) : contB a (x :: t) 1 = (secB a x.toNat && moreB x.toNat && contB a t 2) := by rw [contB, if_pos rfl]
theorem cb_more (a : Int) (x : UInt8) (t : List UInt8) (i : Nat) (h : 1 < i) : contB a (x :: t) i = (moreB x.toNat && contB a t (i + 1)) := by rw [contB, if_neg (by omega), Bool.true_and]
theorem more_in (x : Int) : moreB x = inB 128 191 x := rfl

/-- What the first piece's wholeness is, for a first byte that wants n bytes, the second of them from lo to hi. -/
theorem row_whole (a : Int) (lo hi : Int) (hs : ∀ x, (secB a x && moreB x) = inB lo hi x) (k : Nat) (t : List UInt8) :
    (measRest ((lo, hi) :: List.replicate k (128, 191)) t 1).2 = (decide (k + 1 ≤ t.length) && contB a (t.take (k + 1)) 1) ∧ ((measRest ((lo, hi) :: List.replicate k (128, 191)) t 1).2 = true → (measRest ((lo, hi) :: List.replicate k (128, 191)) t 1).1 = k + 2) := by
  have tail : ∀ (k : Nat) (t : List UInt8) (n i : Nat), 1 < i → (measRest (List.replicate k (128, 191)) t n).2 = (decide (k ≤ t.length) && contB a (t.take k) i) ∧ ((measRest (List.replicate k (128, 191)) t n).2 = true → (measRest (List.replicate k (128, 191)) t n).1 = n + k) := by
    intro k
    induction k with
    | zero => intro t n i _; cases t <;> simp [measRest, contB]
    | succ k ih =>
      intro t n i hi
      cases t with
      | nil => simp [measRest, List.replicate_succ]
      | cons x t =>
        obtain ⟨h1, h2⟩ := ih t (n + 1) (i + 1) (by omega)
        rw [List.replicate_succ, mr_cons, List.take_succ_cons, cb_more _ _ _ _ hi, more_in]
        cases hx : inB 128 191 (x.toNat : Int) with
        | true =>
          rw [if_pos rfl, h1]
          refine ⟨by simp, ?_⟩
          intro hh
          rw [← h1] at hh
          rw [h2 hh]
          omega
        | false => simp
  cases t with
  | nil => simp [measRest]
  | cons x t =>
    obtain ⟨h1, h2⟩ := tail k t 2 2 (by omega)
    rw [mr_cons, List.take_succ_cons, cb_one, hs]
    cases hx : inB lo hi (x.toNat : Int) with
    | true =>
      rw [if_pos rfl, h1]
      refine ⟨by simp, ?_⟩
      intro hh
      rw [← h1] at hh
      rw [h2 hh]
      omega
    | false => simp

theorem first_whole (b : UInt8) (t : List UInt8) :
    (measTab encT b t).2 = (decide (¬ wantZ (b.toNat : Int) = 0) && decide (wantZ (b.toNat : Int) ≤ 1 + (t.length : Int)) && contB (b.toNat : Int) (t.take ((wantZ (b.toNat : Int)).toNat - 1)) 1) ∧ ((measTab encT b t).2 = true → ((measTab encT b t).1 : Int) = wantZ (b.toNat : Int)) := by
  have hl := b.toNat_lt
  have go : ∀ (lo hi : Int) (k : Nat), measTab encT b t = measRest ((lo, hi) :: List.replicate k (128, 191)) t 1 → wantZ (b.toNat : Int) = k + 2 → (∀ x, (secB (b.toNat : Int) x && moreB x) = inB lo hi x) →
      (measTab encT b t).2 = (decide (¬ wantZ (b.toNat : Int) = 0) && decide (wantZ (b.toNat : Int) ≤ 1 + (t.length : Int)) && contB (b.toNat : Int) (t.take ((wantZ (b.toNat : Int)).toNat - 1)) 1) ∧ ((measTab encT b t).2 = true → ((measTab encT b t).1 : Int) = wantZ (b.toNat : Int)) := by
    intro lo hi k e hw hs
    obtain ⟨h1, h2⟩ := row_whole (b.toNat : Int) lo hi hs k t
    rw [← e] at h1 h2
    rw [hw]
    have e2 : ((k : Int) + 2).toNat - 1 = k + 1 := by omega
    rw [e2]
    refine ⟨?_, fun h => by rw [h2 h]; omega⟩
    rw [h1]
    have e3 : decide (¬ (k : Int) + 2 = 0) = true := by simp; omega
    have e4 : decide ((k : Int) + 2 ≤ 1 + (t.length : Int)) = decide (k + 1 ≤ t.length) := by rw [Bool.eq_iff_iff]; simp; omega
    rw [e3, e4, Bool.true_and]
  have none : measTab encT b t = (1, false) → wantZ (b.toNat : Int) = 0 → (measTab encT b t).2 = (decide (¬ wantZ (b.toNat : Int) = 0) && decide (wantZ (b.toNat : Int) ≤ 1 + (t.length : Int)) && contB (b.toNat : Int) (t.take ((wantZ (b.toNat : Int)).toNat - 1)) 1) ∧ ((measTab encT b t).2 = true → ((measTab encT b t).1 : Int) = wantZ (b.toNat : Int)) := by
    intro e hw
    rw [e, hw]
    simp
  generalize hG : ((measTab encT b t).2 = (decide (¬ wantZ (b.toNat : Int) = 0) && decide (wantZ (b.toNat : Int) ≤ 1 + (t.length : Int)) && contB (b.toNat : Int) (t.take ((wantZ (b.toNat : Int)).toNat - 1)) 1) ∧ ((measTab encT b t).2 = true → ((measTab encT b t).1 : Int) = wantZ (b.toNat : Int))) = G at go none ⊢
  by_cases g1 : b.toNat < 128
  · rw [← hG]
    have e : measTab encT b t = (1, true) := by
      unfold encT
      rw [tab_hit _ _ _ _ _ _ (by omega) (by omega)]
      cases t <;> rfl
    have hw : wantZ (b.toNat : Int) = 1 := by unfold wantZ; rw [if_pos (by omega)]
    rw [e, hw]
    simp [contB]
    omega
  by_cases g2 : b.toNat < 194 ∨ 245 ≤ b.toNat
  · refine none ?_ (by unfold wantZ; rw [if_neg (by omega), if_neg (by omega), if_neg (by omega), if_neg (by omega)])
    unfold encT
    rw [tab_skip _ _ _ _ _ _ (by omega), tab_skip _ _ _ _ _ _ (by omega), tab_skip _ _ _ _ _ _ (by omega), tab_skip _ _ _ _ _ _ (by omega), tab_skip _ _ _ _ _ _ (by omega), tab_skip _ _ _ _ _ _ (by omega), tab_skip _ _ _ _ _ _ (by omega), tab_skip _ _ _ _ _ _ (by omega), tab_skip _ _ _ _ _ _ (by omega)]
    rfl
  have hoth : ∀ x, ¬ b.toNat = 224 → ¬ b.toNat = 237 → ¬ b.toNat = 240 → ¬ b.toNat = 244 → (secB (b.toNat : Int) x && moreB x) = inB 128 191 x := by
    intro x a1 a2 a3 a4
    rw [secB_oth _ _ (by omega) (by omega) (by omega) (by omega), Bool.and_self]
    rfl
  by_cases g3 : b.toNat ≤ 223
  · refine go 128 191 0 ?_ (by unfold wantZ; rw [if_neg (by omega), if_pos (by omega)]; rfl) (fun x => hoth x (by omega) (by omega) (by omega) (by omega))
    unfold encT
    rw [tab_skip _ _ _ _ _ _ (by omega), tab_hit _ _ _ _ _ _ (by omega) (by omega)]
    rfl
  by_cases g4 : b.toNat ≤ 239
  · have hw : wantZ (b.toNat : Int) = (1 : Nat) + 2 := by unfold wantZ; rw [if_neg (by omega), if_neg (by omega), if_pos (by omega)]; rfl
    by_cases a1 : b.toNat = 224
    · refine go 160 191 1 ?_ hw (fun x => sec_more _ x 160 191 (by rw [a1]; rfl) (by omega) (by omega))
      unfold encT
      rw [tab_skip _ _ _ _ _ _ (by omega), tab_skip _ _ _ _ _ _ (by omega), tab_hit _ _ _ _ _ _ (by omega) (by omega)]
      rfl
    by_cases a2 : b.toNat ≤ 236
    · refine go 128 191 1 ?_ hw (fun x => hoth x (by omega) (by omega) (by omega) (by omega))
      unfold encT
      rw [tab_skip _ _ _ _ _ _ (by omega), tab_skip _ _ _ _ _ _ (by omega), tab_skip _ _ _ _ _ _ (by omega), tab_hit _ _ _ _ _ _ (by omega) (by omega)]
      rfl
    by_cases a3 : b.toNat = 237
    · refine go 128 159 1 ?_ hw (fun x => sec_more _ x 128 159 (by rw [a3]; rfl) (by omega) (by omega))
      unfold encT
      rw [tab_skip _ _ _ _ _ _ (by omega), tab_skip _ _ _ _ _ _ (by omega), tab_skip _ _ _ _ _ _ (by omega), tab_skip _ _ _ _ _ _ (by omega), tab_hit _ _ _ _ _ _ (by omega) (by omega)]
      rfl
    · refine go 128 191 1 ?_ hw (fun x => hoth x (by omega) (by omega) (by omega) (by omega))
      unfold encT
      rw [tab_skip _ _ _ _ _ _ (by omega), tab_skip _ _ _ _ _ _ (by omega), tab_skip _ _ _ _ _ _ (by omega), tab_skip _ _ _ _ _ _ (by omega), tab_skip _ _ _ _ _ _ (by omega), tab_hit _ _ _ _ _ _ (by omega) (by omega)]
      rfl
  have hw : wantZ (b.toNat : Int) = (2 : Nat) + 2 := by unfold wantZ; rw [if_neg (by omega), if_neg (by omega), if_neg (by omega), if_pos (by omega)]; rfl
  by_cases a1 : b.toNat = 240
  · refine go 144 191 2 ?_ hw (fun x => sec_more _ x 144 191 (by rw [a1]; rfl) (by omega) (by omega))
    unfold encT
    rw [tab_skip _ _ _ _ _ _ (by omega), tab_skip _ _ _ _ _ _ (by omega), tab_skip _ _ _ _ _ _ (by omega), tab_skip _ _ _ _ _ _ (by omega), tab_skip _ _ _ _ _ _ (by omega), tab_skip _ _ _ _ _ _ (by omega), tab_hit _ _ _ _ _ _ (by omega) (by omega)]
    rfl
  by_cases a2 : b.toNat ≤ 243
  · refine go 128 191 2 ?_ hw (fun x => hoth x (by omega) (by omega) (by omega) (by omega))
    unfold encT
    rw [tab_skip _ _ _ _ _ _ (by omega), tab_skip _ _ _ _ _ _ (by omega), tab_skip _ _ _ _ _ _ (by omega), tab_skip _ _ _ _ _ _ (by omega), tab_skip _ _ _ _ _ _ (by omega), tab_skip _ _ _ _ _ _ (by omega), tab_skip _ _ _ _ _ _ (by omega), tab_hit _ _ _ _ _ _ (by omega) (by omega)]
    rfl
  · refine go 128 143 2 ?_ hw (fun x => sec_more _ x 128 143 (by rw [show b.toNat = 244 by omega]; rfl) (by omega) (by omega))
    unfold encT
    rw [tab_skip _ _ _ _ _ _ (by omega), tab_skip _ _ _ _ _ _ (by omega), tab_skip _ _ _ _ _ _ (by omega), tab_skip _ _ _ _ _ _ (by omega), tab_skip _ _ _ _ _ _ (by omega), tab_skip _ _ _ _ _ _ (by omega), tab_skip _ _ _ _ _ _ (by omega), tab_skip _ _ _ _ _ _ (by omega), tab_hit _ _ _ _ _ _ (by omega) (by omega)]
    rfl
end Go.Proofs.YtheiehbfbgjgpabDoor
