/-
  A byte that belongs to no encoding parts the pieces.
-/
import Derived.Test.YtheiehbfbgjgpabDoorRlo
namespace Go.Proofs.YtheiehbfbgjgpabDoor
open Go.RowKit
set_option maxHeartbeats 1000000

/-- No row of the table holds the byte, at whatever place. -/
def outR (R : List (Int × Int)) (c : UInt8) : Bool := R.all fun p => !inB p.1 p.2 c.toNat
def outT (T : List (Int × Int × List (Int × Int))) (c : UInt8) : Bool := T.all fun p => !inB p.1 p.2.1 c.toNat && outR p.2.2 c

theorem rest_out (c : UInt8) : ∀ (R : List (Int × Int)) (t b : List UInt8) (n : Nat), outR R c = true → measRest R (t ++ c :: b) n = measRest R t n
  | [], t, b, n, _ => by cases t <;> rfl
  | (lo, hi) :: rs, [], b, n, h => by
    unfold outR at h
    rw [List.all_cons, Bool.and_eq_true, Bool.not_eq_true'] at h
    show (if inB lo hi c.toNat then _ else _) = _
    rw [h.1]
    rfl
  | (lo, hi) :: rs, x :: t, b, n, h => by
    have h2 : outR rs c = true := by
      unfold outR at h ⊢
      rw [List.all_cons, Bool.and_eq_true] at h
      exact h.2
    rw [List.cons_append]
    unfold measRest
    split
    · exact rest_out c rs t b (n + 1) h2
    · rfl
theorem tab_out (c : UInt8) (x : UInt8) (t b : List UInt8) : ∀ T : List (Int × Int × List (Int × Int)), outT T c = true → measTab T x (t ++ c :: b) = measTab T x t
  | [], _ => rfl
  | (lo, hi, rs) :: es, h => by
    unfold outT at h
    rw [List.all_cons, Bool.and_eq_true, Bool.and_eq_true] at h
    unfold measTab
    split
    · exact rest_out c rs t b 1 h.1.2
    · exact tab_out c x t b es h.2
theorem tab_first (c : UInt8) (b : List UInt8) : ∀ T : List (Int × Int × List (Int × Int)), outT T c = true → measTab T c b = (1, false)
  | [], _ => rfl
  | (lo, hi, rs) :: es, h => by
    unfold outT at h
    rw [List.all_cons, Bool.and_eq_true, Bool.and_eq_true, Bool.not_eq_true'] at h
    unfold measTab
    rw [if_neg (by simp [h.1.1])]
    exact tab_first c b es h.2

theorem pieces_out (c : UInt8) (hc : outT encT c = true) (b : List UInt8) : ∀ (n : Nat) (a : List UInt8), a.length ≤ n → piecesL (a ++ c :: b) = piecesL a ++ ([c], false) :: piecesL b
  | _, [], _ => by
    rw [List.nil_append, piecesL_cons, tab_first c b encT hc]
    rfl
  | 0, x :: t, h => by simp at h
  | n + 1, x :: t, h => by
    have hp := measTab_pos encT x t
    rw [List.cons_append, piecesL_cons, tab_out c x t b encT hc, piecesL_cons]
    generalize measTab encT x t = m at hp
    have e1 : (x :: (t ++ c :: b)).take m.1 = (x :: t).take m.1 := by
      rw [← List.cons_append, List.take_append_of_le_length (by simp; omega)]
    have e2 : (x :: (t ++ c :: b)).drop m.1 = (x :: t).drop m.1 ++ c :: b := by
      rw [← List.cons_append, List.drop_append_of_le_length (by simp; omega)]
    rw [e1, e2, pieces_out c hc b n _ (by simp at h ⊢; omega)]
    rfl

theorem decS_out (a b : ByteArray) (c : UInt8) (hc : outT encT c = true) : decS (a ++ ⟨#[c]⟩ ++ b) = decS a ++ ⟨#[239, 191, 189]⟩ ++ decS b := by
  apply list_bytes
  have e : (a ++ ⟨#[c]⟩ ++ b).data.toList = a.data.toList ++ c :: b.data.toList := by
    simp [ByteArray.data_append, Array.toList_append]
  have e2 : (decS a ++ ⟨#[239, 191, 189]⟩ ++ decS b).data.toList = (decS a).data.toList ++ [239, 191, 189] ++ (decS b).data.toList := by
    simp [ByteArray.data_append, Array.toList_append]
  rw [e2, decS_list, decS_list, decS_list]
  unfold piecesB
  rw [e, pieces_out c hc b.data.toList _ _ (Nat.le_refl _)]
  unfold decP
  rw [List.map_append, List.flatMap_append, List.map_cons, List.flatMap_cons]
  have : pcL (packP ([c], false)) = [239, 191, 189] := rfl
  rw [this, List.append_assoc]
theorem out_c (c : UInt8) (h : c = 192 ∨ c = 193 ∨ 245 ≤ c.toNat) : outT encT c = true := by
  have hn : c.toNat = 192 ∨ c.toNat = 193 ∨ 245 ≤ c.toNat := by
    rcases h with rfl | rfl | h
    · exact .inl rfl
    · exact .inr (.inl rfl)
    · exact .inr (.inr h)
  have hl := c.toNat_lt
  simp [outT, outR, encT, inB]
  omega
end Go.Proofs.YtheiehbfbgjgpabDoor
