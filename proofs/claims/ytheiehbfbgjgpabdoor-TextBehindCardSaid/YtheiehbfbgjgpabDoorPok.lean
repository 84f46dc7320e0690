/-
  What is decoded reads as it is: pieces of decoded bytes.
-/
import Derived.Test.YtheiehbfbgjgpabDoorCnt
namespace Go.Proofs.YtheiehbfbgjgpabDoor
open Go.RowKit
set_option maxHeartbeats 1000000

theorem rest_true : ∀ (R : List (Int × Int)) (l : List UInt8) (n n' : Nat), measRest R l n = (n', true) → n' = n + R.length ∧ R.length ≤ l.length ∧ ∀ r, measRest R (l.take R.length ++ r) n = (n', true)
  | [], l, n, n', h => by
    have e : n = n' := by
      have : measRest [] l n = (n, true) := by cases l <;> rfl
      rw [this] at h
      exact congrArg Prod.fst h
    subst e
    exact ⟨rfl, Nat.zero_le _, fun r => by cases r <;> rfl⟩
  | (lo, hi) :: rs, [], n, n', h => by
    simp [measRest] at h
  | (lo, hi) :: rs, x :: t, n, n', h => by
    unfold measRest at h
    split at h
    · rename_i hx
      obtain ⟨h1, h2, h3⟩ := rest_true rs t (n + 1) n' h
      refine ⟨by rw [h1, List.length_cons]; omega, by simp; omega, fun r => ?_⟩
      rw [List.length_cons, List.take_succ_cons, List.cons_append]
      unfold measRest
      rw [if_pos hx]
      exact h3 r
    · simp at h
theorem tab_true (b : UInt8) (t : List UInt8) : ∀ (T : List (Int × Int × List (Int × Int))) (n' : Nat), measTab T b t = (n', true) → 1 ≤ n' ∧ n' - 1 ≤ t.length ∧ ∀ r, measTab T b (t.take (n' - 1) ++ r) = (n', true)
  | [], n', h => by simp [measTab] at h
  | (lo, hi, rs) :: es, n', h => by
    unfold measTab at h
    split at h
    · rename_i hx
      obtain ⟨h1, h2, h3⟩ := rest_true rs t 1 n' h
      have e : n' - 1 = rs.length := by omega
      refine ⟨by omega, by omega, fun r => ?_⟩
      unfold measTab
      rw [if_pos hx, e]
      exact h3 r
    · rename_i hx
      obtain ⟨h1, h2, h3⟩ := tab_true b t es n' h
      refine ⟨h1, h2, fun r => ?_⟩
      unfold measTab
      rw [if_neg hx]
      exact h3 r

/-- What a piece is decoded to. -/
def okP (q : List UInt8 × Bool) : List UInt8 := if q.2 then q.1 else [239, 191, 189]
/-- What a piece of any bytes is. -/
structure IsP (q : List UInt8 × Bool) : Prop where
  pos : 1 ≤ q.1.length
  four : q.1.length ≤ 4
  ok : ∀ r, piecesL (okP q ++ r) = (okP q, true) :: piecesL r

theorem fffd (r : List UInt8) : piecesL ([239, 191, 189] ++ r) = ([239, 191, 189], true) :: piecesL r := by
  have e : measTab encT 239 ([191, 189] ++ r) = (3, true) := by cases r <;> rfl
  show piecesL (239 :: ([191, 189] ++ r)) = _
  rw [piecesL_cons, e]
  rfl
theorem isP_first (b : UInt8) (t : List UInt8) : IsP ((b :: t).take (measTab encT b t).1, (measTab encT b t).2) := by
  have hp := measTab_pos encT b t
  have h4 := measEnc_le b t
  refine ⟨by simp; omega, by simp; omega, ?_⟩
  intro r
  cases hc : (measTab encT b t).2 with
  | false => exact fffd r
  | true =>
    show piecesL ((b :: t).take (measTab encT b t).1 ++ r) = ((b :: t).take (measTab encT b t).1, true) :: piecesL r
    obtain ⟨h1, h2, h3⟩ := tab_true b t encT (measTab encT b t).1 (by rw [← hc])
    generalize (measTab encT b t).1 = n at h1 h2 h3
    obtain ⟨k, rfl⟩ : ∃ k, n = k + 1 := ⟨n - 1, by omega⟩
    rw [Nat.add_sub_cancel] at h2 h3
    rw [List.take_succ_cons, List.cons_append, piecesL_cons, h3 r]
    have e1 : (b :: (t.take k ++ r)).take (k + 1) = b :: t.take k := by
      rw [List.take_succ_cons, List.take_append_of_le_length (by rw [List.length_take]; omega), List.take_take, Nat.min_self]
    have e2 : (b :: (t.take k ++ r)).drop (k + 1) = r := by
      rw [List.drop_succ_cons, List.drop_append, List.length_take, Nat.min_eq_left h2, Nat.sub_self, List.drop_zero, List.drop_eq_nil_of_le (by rw [List.length_take]; omega)]
      rfl
    rw [e1, e2]
theorem isP_all : ∀ (n : Nat) (l : List UInt8), l.length ≤ n → ∀ q ∈ piecesL l, IsP q
  | _, [], _ => by intro q hq; simp [piecesL, piecesF] at hq
  | 0, b :: t, h => by simp at h
  | n + 1, b :: t, h => by
    intro q hq
    have hp := measTab_pos encT b t
    rw [piecesL_cons, List.mem_cons] at hq
    rcases hq with rfl | hq
    · exact isP_first b t
    · exact isP_all n _ (by simp at h ⊢; omega) q hq

theorem pieces_dec (r : List UInt8) : ∀ ps : List (List UInt8 × Bool), (∀ q ∈ ps, IsP q) → piecesL (ps.flatMap okP ++ r) = ps.map (fun q => (okP q, true)) ++ piecesL r
  | [], _ => by simp
  | q :: ps, h => by
    rw [List.flatMap_cons, List.append_assoc, (h q (by simp)).ok, pieces_dec r ps fun x hx => h x (by simp [hx])]
    rfl

/-- What bytes are decoded to. -/
def decL (l : List UInt8) : List UInt8 := (piecesL l).flatMap okP
theorem decS_decL (s : ByteArray) : (decS s).data.toList = decL s.data.toList := by
  rw [decS_list]
  unfold piecesB decP decL
  have hall := isP_all _ s.data.toList (Nat.le_refl _)
  generalize piecesL s.data.toList = ps at hall
  induction ps with
  | nil => rfl
  | cons q ps ih =>
    rw [List.map_cons, List.flatMap_cons, List.flatMap_cons, ih fun x hx => hall x (by simp [hx])]
    congr 1
    show (if q.2 then (⟨(q.1.take 4).toArray⟩ : ByteArray).data.toList else [239, 191, 189]) = okP q
    rw [List.take_of_length_le (hall q (by simp)).four]
    rfl
theorem dec_app (a r : List UInt8) : piecesL (decL a ++ r) = (piecesL a).map (fun q => (okP q, true)) ++ piecesL r := pieces_dec r _ (isP_all _ a (Nat.le_refl _))
theorem decL_app (a r : List UInt8) : decL (decL a ++ r) = decL a ++ decL r := by
  unfold decL
  rw [show (piecesL a).flatMap okP = decL a from rfl, dec_app, List.flatMap_append, List.flatMap_map]
  rfl
theorem pieces_nil : piecesL [] = [] := rfl
theorem decL_decL (a : List UInt8) : decL (decL a) = decL a := by
  have h := decL_app a []
  rw [List.append_nil] at h
  rw [h]
  show decL a ++ [] = _
  rw [List.append_nil]
theorem cnt_app (a r : List UInt8) : (piecesL (decL a ++ r)).length = (piecesL a).length + (piecesL r).length := by
  rw [dec_app, List.length_append, List.length_map]
theorem cnt_dec (a : List UInt8) : (piecesL (decL a)).length = (piecesL a).length := by
  have h := cnt_app a []
  rw [List.append_nil] at h
  rw [h]
  rfl
theorem piecesB_length (s : ByteArray) : (piecesB s).length = (piecesL s.data.toList).length := by simp [piecesB]
theorem decL_len : ∀ (n : Nat) (l : List UInt8), l.length ≤ n → (decL l).length ≤ 3 * l.length
  | _, [], _ => by simp [decL, piecesL, piecesF]
  | 0, b :: t, h => by simp at h
  | n + 1, b :: t, h => by
    have hp := measTab_pos encT b t
    have hq := isP_first b t
    have ih := decL_len n ((b :: t).drop (measTab encT b t).1) (by simp at h ⊢; omega)
    unfold decL at ih ⊢
    rw [piecesL_cons, List.flatMap_cons, List.length_append]
    rw [List.length_drop] at ih
    have hk : (okP ((b :: t).take (measTab encT b t).1, (measTab encT b t).2)).length ≤ 3 * (measTab encT b t).1 := by
      unfold okP
      split
      · simp; omega
      · simp; omega
    simp at ih hk ⊢
    omega
theorem decS_size3 (s : ByteArray) : (decS s).size ≤ 3 * s.size := by
  have h := decL_len _ s.data.toList (Nat.le_refl _)
  rw [← decS_decL, size_list, size_list] at h
  exact h
end Go.Proofs.YtheiehbfbgjgpabDoor
