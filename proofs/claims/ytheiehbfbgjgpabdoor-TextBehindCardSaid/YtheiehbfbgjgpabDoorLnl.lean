/-
  TextNewlines: the walk.
-/
import Derived.Test.YtheiehbfbgjgpabDoorRnl
namespace Go.Proofs.YtheiehbfbgjgpabDoor
open Go.RowKit
set_option maxHeartbeats 1000000
set_option maxRecDepth 100000

theorem nlS_list (s : ByteArray) : (nlS s).data.toList = nlR s.data.toList := by simp [nlS]
theorem nlS_size (s : ByteArray) : (nlS s).size ≤ s.size := by
  have h := nlR_len _ s.data.toList (Nat.le_refl _)
  rw [← nlS_list, size_list, size_list] at h
  exact h
theorem nlS_nlS (s : ByteArray) : nlS (nlS s) = nlS s := by
  apply list_bytes
  rw [nlS_list, nlS_list]
  exact nlR_same _ (nlR_no _ _ (Nat.le_refl _))
theorem nlS_no (s : ByteArray) : allB (fun b => !(b == 13)) (nlS s) = true := by
  unfold allB
  rw [nlS_list, List.all_eq_true]
  intro x hx
  have := nlR_no _ _ (Nat.le_refl _) x hx
  simp only [Bool.not_eq_true']
  rw [beq_eq_false_iff_ne]
  intro e
  exact this (UInt8.toNat_inj.mp (by show _ = 13; omega))
theorem newlinesS (s : ByteArray) (m : Int) (hs : s.size ≤ 400000) (w : World) (hm : Ml m w) :
    Calls Tryd.prog 60 #[.string s] w fun e w' => e = .returned (.string (nlS s)) ∧ Below w.heap.size w w' := by
  refine (newlines s m hs w hm).mono ?_
  rintro e w' ⟨S, hS, rfl, hb⟩
  have : S = nlS s := list_bytes _ _ (by rw [hS, nlS_list, newL_nlR _ _ (Nat.le_refl _)])
  rw [this]
  exact ⟨rfl, hb⟩

end Go.Proofs.YtheiehbfbgjgpabDoor
