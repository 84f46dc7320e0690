/-
  TextSpoilt: the walk.
-/
import Derived.Test.YtdphkjhfeobhaaaDoorPsp
namespace Go.Proofs.YtdphkjhfeobhaaaDoor
open Go.RowKit
set_option maxHeartbeats 1000000
set_option maxRecDepth 100000

theorem spoilt_known (a b : ByteArray) (c : UInt8) (h : (¬ (c = 192 ∨ c = 193 ∨ 245 ≤ c.toNat)) ∨ ¬ a.size ≤ 65536 ∨ ¬ b.size ≤ 65536) (m : Int) (w : World) (hm : Ml m w) :
    Calls Tryd.prog 8 #[.string a, .string b, .int .u8 (c.toNat : Int)] w fun e w' => e = .returned (.bool true) ∧ Below w.heap.size w w' := by
  have HM := Lib.hid hm
  clear hm
  have HSA := Lib.hid (small a)
  have HSB := Lib.hid (small b)
  have c0 : (0 : Int) ≤ (c.toNat : Int) := by omega
  have c1 : (c.toNat : Int) ≤ 255 := by have := c.toNat_lt; omega
  have hsel : (((c.toNat : Int) < 245) ∧ ((c.toNat : Int) != 192) = true ∧ ((c.toNat : Int) != 193) = true) ∨ ((245 ≤ (c.toNat : Int) ∨ ((c.toNat : Int) < 245 ∧ ((c.toNat : Int) == 192) = true ∧ ((c.toNat : Int) != 192) = false) ∨ ((c.toNat : Int) < 245 ∧ ((c.toNat : Int) != 192) = true ∧ ((c.toNat : Int) == 193) = true ∧ ((c.toNat : Int) != 193) = false)) ∧ (a.size ≤ 65536 → ¬ b.size ≤ 65536)) := by
    by_cases hg : c = 192 ∨ c = 193 ∨ 245 ≤ c.toNat
    · refine .inr ⟨?_, ?_⟩
      · rcases hg with rfl | rfl | h
        · exact .inr (.inl (by decide))
        · exact .inr (.inr (by decide))
        · exact .inl (by omega)
      · intro ha
        rcases h with h | h | h
        · exact absurd hg h
        · exact absurd ha h
        · exact h
    · refine .inl ⟨?_, ?_, ?_⟩
      · have : ¬ 245 ≤ c.toNat := fun h => hg (.inr (.inr h))
        omega
      · simp only [bne, Bool.not_eq_true', beq_eq_false_iff_ne]
        intro e
        exact hg (.inl (UInt8.toNat_inj.mp (by show _ = 192; omega)))
      · simp only [bne, Bool.not_eq_true', beq_eq_false_iff_ne]
        intro e
        exact hg (.inr (.inl (UInt8.toNat_inj.mp (by show _ = 193; omega))))
  clear h
  rcases hsel with ⟨h1, h2, h3⟩ | ⟨hsel, hab⟩
  · go_enter Tryd.func8, Tryd.ntmps8
    go_wp2_with fail
    refine (known m _ HM.out).mono ?_
    rintro e w4 ⟨rfl, hb4⟩
    go_wp2_with fail
    go_ret
    exact ⟨rfl, hb4⟩
  · by_cases ha : a.size ≤ 65536
    · rw [show decide (a.size ≤ 65536) = true by simpa using ha] at HSA
      rw [show decide (b.size ≤ 65536) = false by simpa using hab ha] at HSB
      clear hab
      rcases hsel with h | ⟨h, h2, h3⟩ | ⟨h, h2, h3, h4⟩
      all_goals
        go_enter Tryd.func8, Tryd.ntmps8
        go_wp2_with (first | (go_at_call 21; refine (HSA.out _).mono ?_; rintro e w' ⟨rfl, rfl⟩) | (go_at_call 21; refine (HSB.out _).mono ?_; rintro e w' ⟨rfl, rfl⟩))
        refine (known m _ HM.out).mono ?_
        rintro e w4 ⟨rfl, hb4⟩
        go_wp2_with fail
        go_ret
        exact ⟨rfl, hb4⟩
    · rw [show decide (a.size ≤ 65536) = false by simpa using ha] at HSA
      clear hab HSB
      rcases hsel with h | ⟨h, h2, h3⟩ | ⟨h, h2, h3, h4⟩
      all_goals
        go_enter Tryd.func8, Tryd.ntmps8
        go_wp2_with (go_at_call 21; refine (HSA.out _).mono ?_; rintro e w' ⟨rfl, rfl⟩)
        refine (known m _ HM.out).mono ?_
        rintro e w4 ⟨rfl, hb4⟩
        go_wp2_with fail
        go_ret
        exact ⟨rfl, hb4⟩


theorem spoilt_some (a b : ByteArray) (c : UInt8) (h : c = 192 ∨ c = 193 ∨ 245 ≤ c.toNat) (ha : a.size ≤ 65536) (hb : b.size ≤ 65536) (m : Int) (w : World) (hm : Ml m w) :
    Calls Tryd.prog 8 #[.string a, .string b, .int .u8 (c.toNat : Int)] w fun e w' => e = .returned (.bool true) ∧ Below w.heap.size w w' := by
  have HM := Lib.hid hm
  clear hm
  have HSA := Lib.hid (small a)
  have HSB := Lib.hid (small b)
  rw [show decide (a.size ≤ 65536) = true by simpa using ha] at HSA
  rw [show decide (b.size ≤ 65536) = true by simpa using hb] at HSB
  have c0 : (0 : Int) ≤ (c.toNat : Int) := by omega
  have c1 : (c.toNat : Int) ≤ 255 := by have := c.toNat_lt; omega
  have HO := Lib.hid (decS_out a b c (out_c c h))
  have hsel : 245 ≤ (c.toNat : Int) ∨ ((c.toNat : Int) < 245 ∧ ((c.toNat : Int) == 192) = true ∧ ((c.toNat : Int) != 192) = false) ∨ ((c.toNat : Int) < 245 ∧ ((c.toNat : Int) != 192) = true ∧ ((c.toNat : Int) == 193) = true ∧ ((c.toNat : Int) != 193) = false) := by
    rcases h with rfl | rfl | h
    · exact .inr (.inl (by decide))
    · exact .inr (.inr (by decide))
    · exact .inl (by omega)
  have za : decS a = decS a := rfl
  have z1 := decS_size a
  have z2 := decS_size b
  have k1 := Lib.hid (decode a (by omega))
  have k2 := Lib.hid (decode b (by omega))
  have k3 := Lib.hid (decode (a ++ ⟨#[c]⟩ ++ b) (by rw [ByteArray.size_append, ByteArray.size_append]; show _ + 1 + _ ≤ _; omega))
  rw [HO.out] at k3
  clear h HO za
  have hconv : (convert 32 9 (.slice (some ⟨w.heap.size, 0, none⟩) 1 1)).run Tryd.prog (w.alloc (.cells #[.int .u8 (c.toNat : Int)] 5)) = .ok (.string ⟨#[c]⟩) (w.alloc (.cells #[.int .u8 (c.toNat : Int)] 5)) := by
    refine run_convert_bytes_back _ _ _ 5 ⟨w.heap.size, 0, none⟩ 1 [c] Tryd.underlying32 Tryd.underlying5 Tryd.underlying9 ?_
    intro j hj
    match j, hj with
    | 0, _ => simp [Addr.add, World.cell?_alloc_at]
  have hbA : Below w.heap.size w (w.alloc (.cells #[.int .u8 (c.toNat : Int)] 5)) := below_alloc (Below.refl _ _) _
  have s1 : (⟨#[c]⟩ : ByteArray).size = 1 := rfl
  rcases hsel with h | ⟨h, h2, h3⟩ | ⟨h, h2, h3, h4⟩
  all_goals
    go_enter Tryd.func8, Tryd.ntmps8
    go_wp2_with (first | (go_at_call 21; refine (HSA.out _).mono ?_; rintro e w' ⟨rfl, rfl⟩) | (go_at_call 21; refine (HSB.out _).mono ?_; rintro e w' ⟨rfl, rfl⟩))
    refine (k3.out _).mono ?_
    rintro e w1 ⟨rfl, hb1⟩
    have hb1 := below_next hbA hb1
    go_wp2_with fail
    refine (k1.out _).mono ?_
    rintro e w2 ⟨rfl, hb2⟩
    have hb2 := below_next hb1 hb2
    go_wp2_with fail
    refine (k2.out _).mono ?_
    rintro e w3 ⟨rfl, hb3⟩
    have hb3 := below_next hb2 hb3
    go_wp2_with fail
    refine (known m _ (carry HM.out hb3)).mono ?_
    rintro e w4 ⟨rfl, hb4⟩
    have hb4 := below_next hb3 hb4
    go_wp2_with fail
    go_ret
    exact ⟨rfl, hb4⟩

theorem textSpoilt (a b : ByteArray) (c : Int) (c0 : 0 ≤ c) (c1 : c ≤ 255) (m : Int) (w : World) (hm : Ml m w) :
    Calls Tryd.prog 8 #[.string a, .string b, .int .u8 c] w fun e w' => e = .returned (.bool true) ∧ Below w.heap.size w w' := by
  obtain ⟨u, rfl⟩ : ∃ u : UInt8, c = (u.toNat : Int) := ⟨UInt8.ofNat c.toNat, by rw [UInt8.toNat_ofNat_of_lt' (show c.toNat < 256 by omega)]; omega⟩
  by_cases h : u = 192 ∨ u = 193 ∨ 245 ≤ u.toNat
  · by_cases ha : a.size ≤ 65536
    · by_cases hb : b.size ≤ 65536
      · exact spoilt_some a b u h ha hb m w hm
      · exact spoilt_known a b u (.inr (.inr hb)) m w hm
    · exact spoilt_known a b u (.inr (.inl ha)) m w hm
  · exact spoilt_known a b u (.inl h) m w hm
end Go.Proofs.YtdphkjhfeobhaaaDoor
