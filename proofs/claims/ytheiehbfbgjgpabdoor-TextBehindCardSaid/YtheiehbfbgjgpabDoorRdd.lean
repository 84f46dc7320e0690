/-
  The document's own decoder.
-/
import Derived.Test.YtheiehbfbgjgpabDoorRvw
namespace Go.Proofs.YtheiehbfbgjgpabDoor
open Go.RowKit
set_option maxHeartbeats 2000000
set_option maxRecDepth 100000

/-! ### Rvl -/

/-- The three kinds of first bytes. -/
theorem kinds (b : UInt8) (t : List UInt8) : (measTab encT b t = (1, true) ∧ wantZ (b.toNat : Int) = 1) ∨ (measTab encT b t = (1, false) ∧ wantZ (b.toNat : Int) = 0) ∨
    ∃ (lo hi : Int) (k : Nat), measTab encT b t = measRest ((lo, hi) :: List.replicate k (128, 191)) t 1 ∧ wantZ (b.toNat : Int) = k + 2 ∧ ∀ x, (secB (b.toNat : Int) x && moreB x) = inB lo hi x := by
  have hl := b.toNat_lt
  have one : measTab encT b t = (1, true) → wantZ (b.toNat : Int) = 1 → (measTab encT b t = (1, true) ∧ wantZ (b.toNat : Int) = 1) ∨ (measTab encT b t = (1, false) ∧ wantZ (b.toNat : Int) = 0) ∨
    ∃ (lo hi : Int) (k : Nat), measTab encT b t = measRest ((lo, hi) :: List.replicate k (128, 191)) t 1 ∧ wantZ (b.toNat : Int) = k + 2 ∧ ∀ x, (secB (b.toNat : Int) x && moreB x) = inB lo hi x := fun h1 h2 => .inl ⟨h1, h2⟩
  have none : measTab encT b t = (1, false) → wantZ (b.toNat : Int) = 0 → (measTab encT b t = (1, true) ∧ wantZ (b.toNat : Int) = 1) ∨ (measTab encT b t = (1, false) ∧ wantZ (b.toNat : Int) = 0) ∨
    ∃ (lo hi : Int) (k : Nat), measTab encT b t = measRest ((lo, hi) :: List.replicate k (128, 191)) t 1 ∧ wantZ (b.toNat : Int) = k + 2 ∧ ∀ x, (secB (b.toNat : Int) x && moreB x) = inB lo hi x := fun h1 h2 => .inr (.inl ⟨h1, h2⟩)
  have go : ∀ (lo hi : Int) (k : Nat), measTab encT b t = measRest ((lo, hi) :: List.replicate k (128, 191)) t 1 → wantZ (b.toNat : Int) = k + 2 → (∀ x, (secB (b.toNat : Int) x && moreB x) = inB lo hi x) → (measTab encT b t = (1, true) ∧ wantZ (b.toNat : Int) = 1) ∨ (measTab encT b t = (1, false) ∧ wantZ (b.toNat : Int) = 0) ∨
    ∃ (lo hi : Int) (k : Nat), measTab encT b t = measRest ((lo, hi) :: List.replicate k (128, 191)) t 1 ∧ wantZ (b.toNat : Int) = k + 2 ∧ ∀ x, (secB (b.toNat : Int) x && moreB x) = inB lo hi x := fun lo hi k h1 h2 h3 => .inr (.inr ⟨lo, hi, k, h1, h2, h3⟩)
  generalize hG : ((measTab encT b t = (1, true) ∧ wantZ (b.toNat : Int) = 1) ∨ (measTab encT b t = (1, false) ∧ wantZ (b.toNat : Int) = 0) ∨
    ∃ (lo hi : Int) (k : Nat), measTab encT b t = measRest ((lo, hi) :: List.replicate k (128, 191)) t 1 ∧ wantZ (b.toNat : Int) = k + 2 ∧ ∀ x, (secB (b.toNat : Int) x && moreB x) = inB lo hi x) = G at one go none ⊢
  by_cases g1 : b.toNat < 128
  · refine one ?_ (by unfold wantZ; rw [if_pos (by omega)])
    unfold encT
    rw [tab_hit _ _ _ _ _ _ (by omega) (by omega)]
    cases t <;> rfl
  by_cases g2 : b.toNat < 194 ∨ 245 ≤ b.toNat
  · refine none ?_ (by unfold wantZ; rw [if_neg (by omega), if_neg (by omega), if_neg (by omega), if_neg (by omega)])
    unfold encT
    rw [tab_skip _ _ _ _ _ _ (by omega), tab_skip _ _ _ _ _ _ (by omega), tab_skip _ _ _ _ _ _ (by omega), tab_skip _ _ _ _ _ _ (by omega), tab_skip _ _ _ _ _ _ (by omega), tab_skip _ _ _ _ _ _ (by omega), tab_skip _ _ _ _ _ _ (by omega), tab_skip _ _ _ _ _ _ (by omega), tab_skip _ _ _ _ _ _ (by omega)]
    rfl
  have hoth : ∀ x, ¬ b.toNat = 224 → ¬ b.toNat = 237 → ¬ b.toNat = 240 → ¬ b.toNat = 244 → (secB (b.toNat : Int) x && moreB x) = inB 128 191 x := by
    intro x a1 a2 a3 a4
    rw [secB_oth _ _ (by omega) (by omega) (by omega) (by omega), Bool.and_self]
    rfl
  by_cases g3 : b.toNat ≤ 223
  · refine go 128 191 0 ?_ (by unfold wantZ; rw [if_neg (by omega), if_pos (by omega)]; rfl) (fun x => hoth x (by omega) (by omega) (by omega) (by omega))
    unfold encT
    rw [tab_skip _ _ _ _ _ _ (by omega), tab_hit _ _ _ _ _ _ (by omega) (by omega)]
    rfl
  by_cases g4 : b.toNat ≤ 239
  · have hw : wantZ (b.toNat : Int) = (1 : Nat) + 2 := by unfold wantZ; rw [if_neg (by omega), if_neg (by omega), if_pos (by omega)]; rfl
    by_cases a1 : b.toNat = 224
    · refine go 160 191 1 ?_ hw (fun x => sec_more _ x 160 191 (by rw [a1]; rfl) (by omega) (by omega))
      unfold encT
      rw [tab_skip _ _ _ _ _ _ (by omega), tab_skip _ _ _ _ _ _ (by omega), tab_hit _ _ _ _ _ _ (by omega) (by omega)]
      rfl
    by_cases a2 : b.toNat ≤ 236
    · refine go 128 191 1 ?_ hw (fun x => hoth x (by omega) (by omega) (by omega) (by omega))
      unfold encT
      rw [tab_skip _ _ _ _ _ _ (by omega), tab_skip _ _ _ _ _ _ (by omega), tab_skip _ _ _ _ _ _ (by omega), tab_hit _ _ _ _ _ _ (by omega) (by omega)]
      rfl
    by_cases a3 : b.toNat = 237
    · refine go 128 159 1 ?_ hw (fun x => sec_more _ x 128 159 (by rw [a3]; rfl) (by omega) (by omega))
      unfold encT
      rw [tab_skip _ _ _ _ _ _ (by omega), tab_skip _ _ _ _ _ _ (by omega), tab_skip _ _ _ _ _ _ (by omega), tab_skip _ _ _ _ _ _ (by omega), tab_hit _ _ _ _ _ _ (by omega) (by omega)]
      rfl
    · refine go 128 191 1 ?_ hw (fun x => hoth x (by omega) (by omega) (by omega) (by omega))
      unfold encT
      rw [tab_skip _ _ _ _ _ _ (by omega), tab_skip _ _ _ _ _ _ (by omega), tab_skip _ _ _ _ _ _ (by omega), tab_skip _ _ _ _ _ _ (by omega), tab_skip _ _ _ _ _ _ (by omega), tab_hit _ _ _ _ _ _ (by omega) (by omega)]
      rfl
  have hw : wantZ (b.toNat : Int) = (2 : Nat) + 2 := by unfold wantZ; rw [if_neg (by omega), if_neg (by omega), if_neg (by omega), if_pos (by omega)]; rfl
  by_cases a1 : b.toNat = 240
  · refine go 144 191 2 ?_ hw (fun x => sec_more _ x 144 191 (by rw [a1]; rfl) (by omega) (by omega))
    unfold encT
    rw [tab_skip _ _ _ _ _ _ (by omega), tab_skip _ _ _ _ _ _ (by omega), tab_skip _ _ _ _ _ _ (by omega), tab_skip _ _ _ _ _ _ (by omega), tab_skip _ _ _ _ _ _ (by omega), tab_skip _ _ _ _ _ _ (by omega), tab_hit _ _ _ _ _ _ (by omega) (by omega)]
    rfl
  by_cases a2 : b.toNat ≤ 243
  · refine go 128 191 2 ?_ hw (fun x => hoth x (by omega) (by omega) (by omega) (by omega))
    unfold encT
    rw [tab_skip _ _ _ _ _ _ (by omega), tab_skip _ _ _ _ _ _ (by omega), tab_skip _ _ _ _ _ _ (by omega), tab_skip _ _ _ _ _ _ (by omega), tab_skip _ _ _ _ _ _ (by omega), tab_skip _ _ _ _ _ _ (by omega), tab_skip _ _ _ _ _ _ (by omega), tab_hit _ _ _ _ _ _ (by omega) (by omega)]
    rfl
  · refine go 128 143 2 ?_ hw (fun x => sec_more _ x 128 143 (by rw [show b.toNat = 244 by omega]; rfl) (by omega) (by omega))
    unfold encT
    rw [tab_skip _ _ _ _ _ _ (by omega), tab_skip _ _ _ _ _ _ (by omega), tab_skip _ _ _ _ _ _ (by omega), tab_skip _ _ _ _ _ _ (by omega), tab_skip _ _ _ _ _ _ (by omega), tab_skip _ _ _ _ _ _ (by omega), tab_skip _ _ _ _ _ _ (by omega), tab_skip _ _ _ _ _ _ (by omega), tab_hit _ _ _ _ _ _ (by omega) (by omega)]
    rfl

/-- How far the bytes go on. -/
theorem row_len (a : Int) (lo hi : Int) (hs : ∀ x, (secB a x && moreB x) = inB lo hi x) (k : Nat) (t : List UInt8) (j : Nat) (hj : 1 ≤ j) :
    (j + 1 ≤ (measRest ((lo, hi) :: List.replicate k (128, 191)) t 1).1) ↔ (j ≤ k + 1 ∧ j ≤ t.length ∧ contB a (t.take j) 1 = true) := by
  have tail : ∀ (k : Nat) (t : List UInt8) (n i j : Nat), 1 < i → ((n + j ≤ (measRest (List.replicate k (128, 191)) t n).1) ↔ (j ≤ k ∧ j ≤ t.length ∧ contB a (t.take j) i = true)) := by
    intro k
    induction k with
    | zero =>
      intro t n i j _
      have e : measRest (List.replicate 0 (128, 191)) t n = (n, true) := by cases t <;> rfl
      rw [e]
      constructor
      · intro h
        have : j = 0 := by simp at h; omega
        subst this
        simp [contB]
      · intro h; simp; omega
    | succ k ih =>
      intro t n i j hi
      cases j with
      | zero =>
        have := measRest_pos (List.replicate (k + 1) (128, 191)) t n
        simp [contB]
        omega
      | succ j =>
        cases t with
        | nil => simp [measRest, List.replicate_succ]
        | cons x t =>
          have h1 := ih t (n + 1) (i + 1) j (by omega)
          rw [List.replicate_succ, mr_cons, List.take_succ_cons, cb_more _ _ _ _ hi, more_in]
          cases hx : inB 128 191 (x.toNat : Int) with
          | true =>
            rw [if_pos rfl, show n + (j + 1) = n + 1 + j by omega, h1, Bool.true_and, List.length_cons]
            constructor
            · intro h; exact ⟨by omega, by omega, h.2.2⟩
            · intro h; exact ⟨by omega, by omega, h.2.2⟩
          | false => simp
  obtain ⟨j, rfl⟩ : ∃ q, j = q + 1 := ⟨j - 1, by omega⟩
  cases t with
  | nil => simp [measRest]
  | cons x t =>
    have h1 := tail k t 2 2 j (by omega)
    rw [mr_cons, List.take_succ_cons, cb_one, hs]
    cases hx : inB lo hi (x.toNat : Int) with
    | true =>
      rw [if_pos rfl, show j + 1 + 1 = 2 + j by omega, h1, Bool.true_and, List.length_cons]
      constructor
      · intro h; exact ⟨by omega, by omega, h.2.2⟩
      · intro h; exact ⟨by omega, by omega, h.2.2⟩
    | false => simp

/-- The first k bytes are an encoding or a partial one just if the first piece is as long. -/
theorem piece_len (b : UInt8) (t : List UInt8) (j : Nat) (hj : 1 ≤ j) : (j + 1 ≤ (measTab encT b t).1) ↔ ((j : Int) + 1 ≤ wantZ (b.toNat : Int) ∧ j ≤ t.length ∧ contB (b.toNat : Int) (t.take j) 1 = true) := by
  rcases kinds b t with ⟨h1, h2⟩ | ⟨h1, h2⟩ | ⟨lo, hi, k, h1, h2, h3⟩
  · rw [h1, h2]; simp; omega
  · rw [h1, h2]; simp; omega
  · rw [h1, h2, row_len (b.toNat : Int) lo hi h3 k t j hj]
    constructor
    · intro h; exact ⟨by omega, h.2⟩
    · intro h; exact ⟨by omega, h.2⟩

/-! ### Rpi -/

/-! ### Rsc -/

def scN : Int → List UInt8 → Int
  | n, [] => n
  | n, x :: t => scN (64 * n + x.toNat - 128) t
def offL (k : Nat) : Int := if k = 2 then 192 else if k = 3 then 224 else if k = 4 then 240 else 0
/-! ### Rde -/

theorem info_i32 : (Tryd.prog.info? 21).map (fun i => (i.zero, i.size, i.bytes)) = some (some (.int .i32 0), 1, 4) := by kernel_rfl
def i32c (l : List Int) : List Value := l.map fun r => Value.int .i32 r
/-- The scalar value that a piece stands for. -/
def runeOf (q : List UInt8 × Bool) : Int := if q.2 then (match q.1 with | [] => 0 | b :: t => scN ((b.toNat : Int) - offL (1 + t.length)) t) else 65533
def runesL (l : List UInt8) : List Int := (piecesL l).map runeOf

theorem one_oneI (x : Int) : ∀ u ∈ [Value.int .i32 x], u.oneCell' = true := by
  intro u hu
  simp at hu
  subst hu
  rfl
theorem runesL_cons (b : UInt8) (t : List UInt8) : runesL (b :: t) = runeOf ((b :: t).take (measTab encT b t).1, (measTab encT b t).2) :: runesL ((b :: t).drop (measTab encT b t).1) := by
  unfold runesL
  rw [piecesL_cons]
  rfl

theorem own_below {W W' : World} {B e size n : Nat} {v : Value} {xs : List Value} (h : W.ownsRow B e size v n xs) (hb : Below W.heap.size W W') : W'.ownsRow B e size v n xs :=
  h.kept (row := none) ⟨hb.os, hb.tape, hb.output, hb.size, fun i hi _ => hb.block i hi⟩ (by
    rcases h.2 with ⟨rfl, _⟩ | ⟨g, cap, cur, rfl, _⟩
    · exact .inl rfl
    · exact .inr (by simp [Value.ownBlock]))

end Go.Proofs.YtheiehbfbgjgpabDoor
