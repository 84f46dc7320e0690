/-
  Escaping: strings.ReplaceAll, one after the other.
-/
import Derived.Test.YtnfccckodgknjaaGreatDoorY01
import Derived.Test.YtnfccckodgknjaaGreatDoorShelf
import Derived.Test.YtnfccckodgknjaaGreatDoorY02
namespace Go.Proofs.YtnfccckodgknjaaGreatDoor
open Go.RowKit
set_option maxHeartbeats 1000000

theorem size_list (s : ByteArray) : s.data.toList.length = s.size := by rw [Array.length_toList]; rfl

theorem replace1 (s : ByteArray) (c : UInt8) (new : ByteArray) (hne : [c] ≠ new.data.toList) (hn : new.size ≤ 10) (m : Int) (hs : s.size ≤ 10000000) (w : World) (hm : w.cell? ⟨1, 0, none⟩ = some (.int .i64 m)) :
    Calls Tryz.prog 58 #[.string s, .string ⟨#[c]⟩, .string new] w fun e w' => ∃ S : ByteArray, S.data.toList = rep1 c new.data.toList s.data.toList ∧ e = .returned (.string S) ∧ Below w.heap.size w w' := by
  have hc := Lib.countB_le ⟨#[c]⟩ (Nat.le_refl 1) s.size s (Nat.le_refl _)
  have hl : s.size + Lib.countB s ⟨#[c]⟩ * new.size ≤ 140737488355328 := by
    have := Nat.mul_le_mul hc hn
    omega
  refine (Tryz.strings_ReplaceAll s ⟨#[c]⟩ new m w (by omega) hm (Nat.le_refl 1) hl).mono ?_
  rintro e w' ⟨rfl, hb⟩
  exact ⟨_, by show Lib.replaceAll s.data.toList [c] new.data.toList = _; exact ra_one c _ hne _, rfl, hb⟩

theorem replace2 (s : ByteArray) (c d : UInt8) (new : ByteArray) (hne : [c, d] ≠ new.data.toList) (hn : new.size ≤ 10) (m : Int) (hs : s.size ≤ 10000000) (w : World) (hm : w.cell? ⟨1, 0, none⟩ = some (.int .i64 m)) :
    Calls Tryz.prog 58 #[.string s, .string ⟨#[c, d]⟩, .string new] w fun e w' => ∃ S : ByteArray, S.data.toList = rep2 c d new.data.toList s.data.toList ∧ e = .returned (.string S) ∧ Below w.heap.size w w' := by
  have hc := Lib.countB_le ⟨#[c, d]⟩ (show 1 ≤ 2 by decide) s.size s (Nat.le_refl _)
  have hl : s.size + Lib.countB s ⟨#[c, d]⟩ * new.size ≤ 140737488355328 := by
    have := Nat.mul_le_mul hc hn
    omega
  refine (Tryz.strings_ReplaceAll s ⟨#[c, d]⟩ new m w (by omega) hm (show 1 ≤ 2 by decide) hl).mono ?_
  rintro e w' ⟨rfl, hb⟩
  exact ⟨_, by show Lib.replaceAll s.data.toList [c, d] new.data.toList = _; exact ra_two c d _ hne _ _ (Nat.le_refl _), rfl, hb⟩

def shrL (l : List UInt8) : List UInt8 := rep2 194 160 [38, 110, 98, 115, 112, 59] (rep1 38 [38, 97, 109, 112, 59] l)
def escTL (l : List UInt8) : List UInt8 := rep1 62 [38, 103, 116, 59] (rep1 60 [38, 108, 116, 59] (shrL l))
def escVL (l : List UInt8) : List UInt8 := rep1 34 [38, 113, 117, 111, 116, 59] (shrL l)

theorem shrL_len (l : List UInt8) : (shrL l).length ≤ 30 * l.length := by
  have h1 := rep1_len 38 [38, 97, 109, 112, 59] 5 (by decide) (by decide) l
  have h2 := rep2_len 194 160 [38, 110, 98, 115, 112, 59] 6 (by decide) (by decide) _ (rep1 38 [38, 97, 109, 112, 59] l) (Nat.le_refl _)
  unfold shrL
  omega

theorem carry {w w' : World} {m : Int} {b : Nat} (h : w.cell? ⟨b, 0, none⟩ = some (.int .i64 m)) (hb : Below w.heap.size w w') : w'.cell? ⟨b, 0, none⟩ = some (.int .i64 m) :=
  (hb.cell (p := ⟨b, 0, none⟩) (World.block_lt_of_cell? _ _ h)).trans h

theorem escapeShared (s : ByteArray) (m : Int) (hs : s.size ≤ 70000) (w : World) (hm : w.cell? ⟨1, 0, none⟩ = some (.int .i64 m)) :
    Calls Tryz.prog 59 #[.string s] w fun e w' => ∃ S : ByteArray, S.data.toList = shrL s.data.toList ∧ e = .returned (.string S) ∧ Below w.heap.size w w' := by
  go_enter Tryz.func59, Tryz.ntmps59
  go_wp2_with fail
  refine (replace1 s 38 ⟨#[38, 97, 109, 112, 59]⟩ (by decide) (by decide) m (by omega) w hm).mono ?_
  rintro e w1 ⟨S1, hS1, rfl, hb1⟩
  have HS1 := Lib.hid hS1
  have hl1 : S1.size ≤ 350000 := by
    rw [← size_list, hS1]
    have := rep1_len 38 [38, 97, 109, 112, 59] 5 (by decide) (by decide) s.data.toList
    rw [size_list] at this
    show (rep1 38 [38, 97, 109, 112, 59] s.data.toList).length ≤ _
    omega
  have hm1 := carry hm hb1
  clear hS1
  go_wp2_with fail
  refine (replace2 S1 194 160 ⟨#[38, 110, 98, 115, 112, 59]⟩ (by decide) (by decide) m (by omega) w1 hm1).mono ?_
  rintro e w2 ⟨S2, hS2, rfl, hb2⟩
  have HS2 := Lib.hid hS2
  clear hS2
  go_wp2
  go_ret
  exact ⟨S2, by rw [HS2.out, HS1.out]; rfl, rfl, below_next hb1 hb2⟩

theorem escapeText (s : ByteArray) (m : Int) (hs : s.size ≤ 70000) (w : World) (hm : w.cell? ⟨1, 0, none⟩ = some (.int .i64 m)) :
    Calls Tryz.prog 230 #[.string s] w fun e w' => ∃ S : ByteArray, S.data.toList = escTL s.data.toList ∧ e = .returned (.string S) ∧ Below w.heap.size w w' := by
  go_enter Tryz.func230, Tryz.ntmps230
  go_wp2_with fail
  refine (escapeShared s m hs w hm).mono ?_
  rintro e w1 ⟨S1, hS1, rfl, hb1⟩
  have HS1 := Lib.hid hS1
  have hl1 : S1.size ≤ 2100000 := by
    rw [← size_list, hS1]
    have := shrL_len s.data.toList
    rw [size_list] at this
    omega
  have hm1 := carry hm hb1
  clear hS1
  go_wp2_with fail
  refine (replace1 S1 60 ⟨#[38, 108, 116, 59]⟩ (by decide) (by decide) m (by omega) w1 hm1).mono ?_
  rintro e w2 ⟨S2, hS2, rfl, hb2⟩
  have HS2 := Lib.hid hS2
  have hl2 : S2.size ≤ 8400000 := by
    rw [← size_list, hS2]
    have := rep1_len 60 [38, 108, 116, 59] 4 (by decide) (by decide) S1.data.toList
    rw [size_list] at this
    show (rep1 60 [38, 108, 116, 59] S1.data.toList).length ≤ _
    omega
  have hm2 := carry hm1 hb2
  clear hS2
  go_wp2_with fail
  refine (replace1 S2 62 ⟨#[38, 103, 116, 59]⟩ (by decide) (by decide) m (by omega) w2 hm2).mono ?_
  rintro e w3 ⟨S3, hS3, rfl, hb3⟩
  have HS3 := Lib.hid hS3
  clear hS3
  go_wp2
  go_ret
  exact ⟨S3, by rw [HS3.out, HS2.out, HS1.out]; rfl, rfl, below_next (below_next hb1 hb2) hb3⟩

theorem escapeValue (s : ByteArray) (m : Int) (hs : s.size ≤ 70000) (w : World) (hm : w.cell? ⟨1, 0, none⟩ = some (.int .i64 m)) :
    Calls Tryz.prog 16 #[.string s] w fun e w' => ∃ S : ByteArray, S.data.toList = escVL s.data.toList ∧ e = .returned (.string S) ∧ Below w.heap.size w w' := by
  go_enter Tryz.func16, Tryz.ntmps16
  go_wp2_with fail
  refine (escapeShared s m hs w hm).mono ?_
  rintro e w1 ⟨S1, hS1, rfl, hb1⟩
  have HS1 := Lib.hid hS1
  have hl1 : S1.size ≤ 2100000 := by
    rw [← size_list, hS1]
    have := shrL_len s.data.toList
    rw [size_list] at this
    omega
  have hm1 := carry hm hb1
  clear hS1
  go_wp2_with fail
  refine (replace1 S1 34 ⟨#[38, 113, 117, 111, 116, 59]⟩ (by decide) (by decide) m (by omega) w1 hm1).mono ?_
  rintro e w2 ⟨S2, hS2, rfl, hb2⟩
  have HS2 := Lib.hid hS2
  clear hS2
  go_wp2
  go_ret
  exact ⟨S2, by rw [HS2.out, HS1.out]; rfl, rfl, below_next hb1 hb2⟩

def newL (l : List UInt8) : List UInt8 := rep1 13 [10] (rep2 13 10 [10] l)

theorem newlines (s : ByteArray) (m : Int) (hs : s.size ≤ 400000) (w : World) (hm : w.cell? ⟨1, 0, none⟩ = some (.int .i64 m)) :
    Calls Tryz.prog 98 #[.string s] w fun e w' => ∃ S : ByteArray, S.data.toList = newL s.data.toList ∧ e = .returned (.string S) ∧ Below w.heap.size w w' := by
  go_enter Tryz.func98, Tryz.ntmps98
  go_wp2_with fail
  refine (replace2 s 13 10 ⟨#[10]⟩ (by decide) (by decide) m (by omega) w hm).mono ?_
  rintro e w1 ⟨S1, hS1, rfl, hb1⟩
  have HS1 := Lib.hid hS1
  have hl1 : S1.size ≤ 400000 := by
    rw [← size_list, hS1]
    have := rep2_len 13 10 [10] 1 (by decide) (by decide) _ s.data.toList (Nat.le_refl _)
    rw [size_list] at this
    show (rep2 13 10 [10] s.data.toList).length ≤ _
    omega
  have hm1 := carry hm hb1
  clear hS1
  go_wp2_with fail
  refine (replace1 S1 13 ⟨#[10]⟩ (by decide) (by decide) m (by omega) w1 hm1).mono ?_
  rintro e w2 ⟨S2, hS2, rfl, hb2⟩
  have HS2 := Lib.hid hS2
  clear hS2
  go_wp2
  go_ret
  exact ⟨S2, by rw [HS2.out, HS1.out]; rfl, rfl, below_next hb1 hb2⟩
end Go.Proofs.YtnfccckodgknjaaGreatDoor
