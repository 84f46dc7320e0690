/-
  TextDigits: the walk.
-/
import Derived.Test.YtdphkjhfeobhaaaDoorRdg
namespace Go.Proofs.YtdphkjhfeobhaaaDoor
open Go.RowKit
set_option maxHeartbeats 1000000
set_option maxRecDepth 100000

theorem digits_some (p : Int → Bool) (B : Int) (base : Int) (hp : p 48 = true)
    (HT : ∀ (s : ByteArray), s.size ≤ maxLen → ∀ w : World, Calls Tryd.prog 68 #[.string s, .int .i64 base] w fun e w' => e = .returned (.tuple #[.int .i64 (digRun p B s.data.toList 0 0).1, .int .i64 (digRun p B s.data.toList 0 0).2]) ∧ Below w.heap.size w w')
    (HR : ∀ (s : ByteArray), s.size ≤ maxLen → ∀ w : World, Calls Tryd.prog 69 #[.string s, .int .i64 base] w fun e w' => e = .returned (.tuple #[.int .i64 (digRun p B s.data.toList 0 0).1, .int .i64 (digRun p B s.data.toList 0 0).2]) ∧ Below w.heap.size w w')
    (s : ByteArray) (hs : s.size ≤ 65536) (m : Int) (w : World) (hm : Ml m w) :
    Calls Tryd.prog 18 #[.string s, .int .i64 base] w fun e w' => e = .returned (.bool true) ∧ Below w.heap.size w w' := by
  have HM := Lib.hid hm
  clear hm
  have hmx : maxLen = 281474976710655 ∨ 100000 ≤ maxLen := .inr (by decide)
  have c1 := Lib.hid (HT s (by unfold maxLen; omega))
  have c2 := Lib.hid (HR s (by unfold maxLen; omega))
  have c3 := Lib.hid (HT (s.extract 0 (digRun p B s.data.toList 0 0).2) (by rw [ByteArray.size_extract]; unfold maxLen; omega))
  have c4 := Lib.hid (HT (⟨#[48, 48]⟩ ++ s.extract 0 (digRun p B s.data.toList 0 0).2) (by rw [ByteArray.size_append, ByteArray.size_extract]; unfold maxLen; show 2 + _ ≤ _; omega))
  clear HT HR hmx
  have e1 : (s.extract 0 (digRun p B s.data.toList 0 0).2).data.toList = s.data.toList.take (digRun p B s.data.toList 0 0).2 := by rw [Lib.extract_data]; simp
  have e2 : (⟨#[48, 48]⟩ ++ s.extract 0 (digRun p B s.data.toList 0 0).2).data.toList = 48 :: 48 :: s.data.toList.take (digRun p B s.data.toList 0 0).2 := by
    rw [ByteArray.data_append, Array.toList_append, e1]; rfl
  have t1 : digRun p B (s.data.toList.take (digRun p B s.data.toList 0 0).2) 0 0 = digRun p B s.data.toList 0 0 := digRun_take p B s.data.toList 0 0
  rw [e1, t1] at c3
  rw [e2, digRun_00 p B hp, t1] at c4
  have hle := (digRun_ge p B s.data.toList 0 0).2
  rw [Nat.zero_add, size_list] at hle
  clear e1 e2 t1
  generalize digRun p B s.data.toList 0 0 = r at c1 c2 c3 c4 hle
  obtain ⟨c, n⟩ := r
  dsimp only at c1 c2 c3 c4 hle
  have e3 : ((n + 2 : Nat) : Int) = (n : Int) + 2 := by omega
  rw [e3] at c4
  clear e3
  have hn1 : (n : Int) ≤ (s.size : Int) := by omega
  have hsm : decide (s.size ≤ 65536) = true := by simpa using hs
  have HSM := Lib.hid (small s w)
  rw [hsm] at HSM
  clear hsm
  have hb : Below w.heap.size w w := Below.refl _ _
  go_enter Tryd.func18, Tryd.ntmps18
  go_wp2_with fail
  refine HSM.out.mono ?_
  rintro e w' ⟨rfl, rfl⟩
  go_wp2_with fail
  refine (c1.out _).mono ?_
  rintro e w1 ⟨rfl, hb1⟩
  go_wp2_with fail
  refine (c2.out _).mono ?_
  rintro e w2 ⟨rfl, hb2⟩
  have hb2 := below_next hb1 hb2
  go_wp2_with fail
  refine (c3.out _).mono ?_
  rintro e w3 ⟨rfl, hb3⟩
  have hb3 := below_next hb2 hb3
  go_wp2_with fail
  refine (c4.out _).mono ?_
  rintro e w4 ⟨rfl, hb4⟩
  have hb4 := below_next hb3 hb4
  go_wp2_with fail
  refine (known m _ (carry HM.out hb4)).mono ?_
  rintro e w5 ⟨rfl, hb5⟩
  have hb5 := below_next hb4 hb5
  go_wp2_with fail
  go_ret
  exact ⟨rfl, hb5⟩

theorem textDigits (s : ByteArray) (base : Int) (m : Int) (w : World) (hm : Ml m w) :
    Calls Tryd.prog 18 #[.string s, .int .i64 base] w fun e w' => e = .returned (.bool true) ∧ Below w.heap.size w w' := by
  by_cases hs : s.size ≤ 65536
  · by_cases hb : base = 16
    · subst hb
      exact digits_some hexB 16 16 (by decide) digits16 rDigits16 s hs m w hm
    · have hb2 : (base != 16) = true := by simpa using hb
      exact digits_some digB 10 base (by decide) (fun s h w => digits10 s base hb2 h w) (fun s h w => rDigits10 s base hb2 h w) s hs m w hm
  · have hsm : decide (s.size ≤ 65536) = false := by simpa using hs
    have HSM := Lib.hid (small s w)
    rw [hsm] at HSM
    have HM := Lib.hid hm
    clear hsm hm
    go_enter Tryd.func18, Tryd.ntmps18
    go_wp2_with fail
    refine HSM.out.mono ?_
    rintro e w' ⟨rfl, rfl⟩
    go_wp2_with fail
    refine (known m _ HM.out).mono ?_
    rintro e w5 ⟨rfl, hb5⟩
    go_wp2_with fail
    go_ret
    exact ⟨rfl, hb5⟩
end Go.Proofs.YtdphkjhfeobhaaaDoor
