/-
  Plain functions for layer 1: the classes of characters, as Bool functions on numbers. No program in sight.
-/
import Derived.WalkKit
namespace Go.Proofs.YtnfccckodgknjaaGreatDoor
open Go.RowKit

def spB (r : Int) : Bool := decide (r = 9) || decide (r = 10) || decide (r = 12) || decide (r = 13) || decide (r = 32)
def upB (r : Int) : Bool := decide (65 ≤ r) && decide (r ≤ 90)
def letB (r : Int) : Bool := decide (65 ≤ r) && decide (r ≤ 90) || decide (97 ≤ r) && decide (r ≤ 122)
def digB (r : Int) : Bool := decide (48 ≤ r) && decide (r ≤ 57)
def hexB (r : Int) : Bool := decide (48 ≤ r) && decide (r ≤ 57) || (decide (65 ≤ r) && decide (r ≤ 70) || decide (97 ≤ r) && decide (r ≤ 102))
def alnB (r : Int) : Bool := letB r || digB r
def lowZ (b : Int) : Int := if upB b then b + 32 else b
theorem lowZ_lo {b : Int} (h : 0 ≤ b) : 0 ≤ lowZ b := by unfold lowZ; split <;> omega
theorem lowZ_hi {b : Int} (h : b ≤ 255) : lowZ b ≤ 255 := by
  unfold lowZ; split
  · rename_i hu; simp [upB] at hu; omega
  · exact h
end Go.Proofs.YtnfccckodgknjaaGreatDoor
