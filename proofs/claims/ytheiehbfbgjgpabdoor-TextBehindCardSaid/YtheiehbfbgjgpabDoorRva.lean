/-
  The document's own reading of what is an encoding.
-/
import Derived.Test.YtheiehbfbgjgpabDoorLin
namespace Go.Proofs.YtheiehbfbgjgpabDoor
open Go.RowKit
set_option maxHeartbeats 1000000
set_option maxRecDepth 100000

def wantZ (b : Int) : Int := if b < 128 then 1 else if 194 ≤ b ∧ b ≤ 223 then 2 else if 224 ≤ b ∧ b ≤ 239 then 3 else if 240 ≤ b ∧ b ≤ 244 then 4 else 0
def moreB (c : Int) : Bool := decide (128 ≤ c) && decide (c ≤ 191)
def secB (a c : Int) : Bool :=
  if a = 224 then decide (160 ≤ c) && decide (c ≤ 191) else if a = 237 then decide (128 ≤ c) && decide (c ≤ 159) else if a = 240 then decide (144 ≤ c) && decide (c ≤ 191) else if a = 244 then decide (128 ≤ c) && decide (c ≤ 143) else moreB c

theorem secB_224 (c : Int) : secB 224 c = (decide (160 ≤ c) && decide (c ≤ 191)) := rfl
theorem secB_237 (c : Int) : secB 237 c = (decide (128 ≤ c) && decide (c ≤ 159)) := rfl
theorem secB_240 (c : Int) : secB 240 c = (decide (144 ≤ c) && decide (c ≤ 191)) := rfl
theorem secB_244 (c : Int) : secB 244 c = (decide (128 ≤ c) && decide (c ≤ 143)) := rfl
theorem secB_oth (a c : Int) (h1 : ¬ a = 224) (h2 : ¬ a = 237) (h3 : ¬ a = 240) (h4 : ¬ a = 244) : secB a c = moreB c := by unfold secB; rw [if_neg h1, if_neg h2, if_neg h3, if_neg h4]
/-- An encoding or a partial encoding (of the length that its first byte wants, or less). -/
def contB (a : Int) : List UInt8 → Nat → Bool
  | [], _ => true
  | x :: t, i => (if i = 1 then secB a x.toNat else true) && moreB x.toNat && contB a t (i + 1)
end Go.Proofs.YtheiehbfbgjgpabDoor
