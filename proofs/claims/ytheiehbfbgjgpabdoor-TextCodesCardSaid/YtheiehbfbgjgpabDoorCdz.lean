/-
  What a numeric reference stands for, as plain numbers. No program in sight.
-/
import Derived.Test.YtheiehbfbgjgpabDoorKit
namespace Go.Proofs.YtheiehbfbgjgpabDoor

def ctlT : List Int := [0x20AC, 0x81, 0x201A, 0x0192, 0x201E, 0x2026, 0x2020, 0x2021, 0x02C6, 0x2030, 0x0160, 0x2039, 0x0152, 0x8D, 0x017D, 0x8F,
  0x90, 0x2018, 0x2019, 0x201C, 0x201D, 0x2022, 0x2013, 0x2014, 0x02DC, 0x2122, 0x0161, 0x203A, 0x0153, 0x9D, 0x017E, 0x0178]
def winT : List (Int × Int) := [(0x80, 0x20ac), (0x82, 0x201a), (0x83, 0x0192), (0x84, 0x201e), (0x85, 0x2026), (0x86, 0x2020), (0x87, 0x2021), (0x88, 0x02c6), (0x89, 0x2030), (0x8a, 0x0160), (0x8b, 0x2039), (0x8c, 0x0152), (0x8e, 0x017d), (0x91, 0x2018), (0x92, 0x2019), (0x93, 0x201c), (0x94, 0x201d), (0x95, 0x2022), (0x96, 0x2013), (0x97, 0x2014), (0x98, 0x02dc), (0x99, 0x2122), (0x9a, 0x0161), (0x9b, 0x203a), (0x9c, 0x0153), (0x9e, 0x017e), (0x9f, 0x0178)]
def badB (code : Int) : Bool := decide (code ≤ 0) || decide (1114112 ≤ code) || (decide (55296 ≤ code) && decide (code ≤ 57343))
def cpZ (code : Int) : Int := if badB code then 65533 else if 128 ≤ code ∧ code ≤ 159 then ctlT.getD (code - 128).toNat 0 else code
/-- The list is searched from the left. -/
def winF (code : Int) : List (Int × Int) → Int
  | [] => code
  | (c, r) :: l => if c = code then r else winF code l
theorem winF_none (code : Int) : ∀ l : List (Int × Int), (∀ p ∈ l, p.1 ≠ code) → winF code l = code
  | [], _ => rfl
  | (c, r) :: l, h => by
    rw [winF, if_neg (h (c, r) (by simp)), winF_none code l fun p hp => h p (by simp [hp])]
theorem winF_cp (code : Int) (h : badB code = false) : winF code winT = cpZ code := by
  unfold cpZ
  rw [h, if_neg (by simp)]
  by_cases hc : 128 ≤ code ∧ code ≤ 159
  · rw [if_pos hc]
    obtain ⟨k, rfl⟩ : ∃ k : Fin 32, code = 128 + (k.val : Int) := ⟨⟨(code - 128).toNat, by omega⟩, by simp; omega⟩
    have key : ∀ k : Fin 32, winF (128 + (k.val : Int)) winT = ctlT.getD ((128 + (k.val : Int)) - 128).toNat 0 := by decide +kernel
    exact key k
  · rw [if_neg hc]
    refine winF_none _ _ ?_
    intro p hp e
    have key : ∀ p ∈ winT, 128 ≤ p.1 ∧ p.1 ≤ 159 := by decide +kernel
    have := key p hp
    omega
theorem cpZ_bd (code : Int) : 1 ≤ cpZ code ∧ cpZ code ≤ 1114111 ∧ (cpZ code ≤ 55295 ∨ 57344 ≤ cpZ code) := by
  unfold cpZ
  by_cases h : badB code = true
  · rw [if_pos h]; omega
  · rw [if_neg h]
    simp [badB] at h
    by_cases hc : 128 ≤ code ∧ code ≤ 159
    · rw [if_pos hc]
      obtain ⟨k, hk⟩ : ∃ k : Fin 32, (code - 128).toNat = k.val := ⟨⟨(code - 128).toNat, by omega⟩, rfl⟩
      rw [hk]
      have key : ∀ k : Fin 32, 1 ≤ ctlT.getD k.val 0 ∧ ctlT.getD k.val 0 ≤ 1114111 ∧ (ctlT.getD k.val 0 ≤ 55295 ∨ 57344 ≤ ctlT.getD k.val 0) := by decide +kernel
      exact key k
    · rw [if_neg hc]; omega
end Go.Proofs.YtheiehbfbgjgpabDoor
