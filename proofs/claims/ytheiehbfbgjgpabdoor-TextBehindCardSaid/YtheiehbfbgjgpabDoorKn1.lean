/-
  The examples' rows: what the table says of four strings.
-/
import Derived.Test.YtheiehbfbgjgpabDoorLon
namespace Go.Proofs.YtheiehbfbgjgpabDoor
open Go.RowKit

def lgs (T : List (List UInt8)) (s : List UInt8) : List Nat := (T.filter fun e => (nameOf e).isPrefixOf s).map fun e => (nameOf e).length
theorem lgs_not (s : List UInt8) (n : Int) (V : ByteArray) (h : LgP s n V) : (lgs ENT s = [] ∧ n = 0 ∧ V = ⟨#[]⟩) ∨ ∃ k : Nat, n = k ∧ k ∈ lgs ENT s ∧ ∀ j ∈ lgs ENT s, j ≤ k := by
  rcases h with ⟨h1, h2, h3⟩ | ⟨e, he, h1, h2, _, h3⟩
  · refine .inl ⟨?_, h1, h2⟩
    unfold lgs
    rw [List.filter_eq_nil_iff.mpr (by intro e he; simpa using h3 e he)]
    rfl
  · refine .inr ⟨_, h2, ?_, ?_⟩
    · unfold lgs
      exact List.mem_map.mpr ⟨e, List.mem_filter.mpr ⟨he, by simpa using h1⟩, rfl⟩
    · intro j hj
      obtain ⟨e', he', rfl⟩ := List.mem_map.mp hj
      obtain ⟨h4, h5⟩ := List.mem_filter.mp he'
      exact h3 e' h4 (by simpa using h5)

def sNet : List UInt8 := [78, 111, 116, 69, 113, 117, 97, 108, 84, 105, 108, 100, 101, 59]
def sBne : List UInt8 := [98, 110, 101]
def sNotin : List UInt8 := [110, 111, 116, 105, 110, 59, 120]
def sNoti : List UInt8 := [110, 111, 116, 105]
def four (T : List (List UInt8)) : Bool :=
  (T.find? fun e => nameOf e == sNet).map (fun e => valL (codesOf e)) == some [226, 137, 130, 204, 184] &&
  (T.find? fun e => nameOf e == sBne).isNone && lgs T sNotin == [3, 6] && lgs T sNoti == [3]
theorem four_b : four (parts 32 NM.data.toList) = true := by decide +kernel
theorem four_p : namedR sNet = some [226, 137, 130, 204, 184] ∧ namedR sBne = none ∧ lgs ENT sNotin = [3, 6] ∧ lgs ENT sNoti = [3] := by
  have h := four_b
  simp only [four, Bool.and_eq_true, beq_iff_eq] at h
  obtain ⟨⟨⟨h1, h2⟩, h3⟩, h4⟩ := h
  refine ⟨h1, ?_, h3, h4⟩
  unfold namedR
  have : ENT.find? (fun e => nameOf e == sBne) = none := by unfold ENT; simpa using h2
  rw [this]; rfl
theorem lg_notin (n : Int) (V : ByteArray) (h : LgP sNotin n V) : n = 6 := by
  rcases lgs_not _ _ _ h with ⟨h1, _⟩ | ⟨k, rfl, h1, h2⟩
  · rw [four_p.2.2.1] at h1; simp at h1
  · rw [four_p.2.2.1] at h1 h2
    have := h2 6 (by simp)
    simp at h1
    omega
theorem lg_noti (n : Int) (V : ByteArray) (h : LgP sNoti n V) : n = 3 := by
  rcases lgs_not _ _ _ h with ⟨h1, _⟩ | ⟨k, rfl, h1, h2⟩
  · rw [four_p.2.2.2] at h1; simp at h1
  · rw [four_p.2.2.2] at h1
    simp at h1
    omega
end Go.Proofs.YtheiehbfbgjgpabDoor
