/-
  TextCodes: the walk.
-/
import Derived.Test.YtheiehbfbgjgpabDoorCdp
namespace Go.Proofs.YtheiehbfbgjgpabDoor
open Go.RowKit
set_option maxHeartbeats 2000000
set_option maxRecDepth 100000

theorem textCodes (code : Int) (m : Int) (w : World) (hm : Ml m w) (hctl : CtlW w) :
    Calls Tryd.prog 7 #[.int .i64 code] w fun e w' => e = .returned (.bool true) ∧ Below w.heap.size w w' := by
  have HM := Lib.hid hm
  clear hm
  have k1 := Lib.hid (codePoint code w hctl)
  have k2 := Lib.hid (rCodePoint code)
  have k3 := Lib.hid (rScalarB (cpZ code))
  have hb := cpZ_bd code
  rw [show (decide (0 ≤ cpZ code) && decide (cpZ code ≤ 55295) || decide (57344 ≤ cpZ code) && decide (cpZ code ≤ 1114111)) = true by simp; omega] at k3
  obtain ⟨h1, h2, _⟩ := hb
  have h3 : (0 : Int) < cpZ code := by omega
  generalize cpZ code = r at k1 k2 k3 h1 h2 h3
  clear hctl h1
  go_enter Tryd.func7, Tryd.ntmps7
  go_wp2_with fail
  refine k1.out.mono ?_
  rintro e w1 ⟨rfl, hb1⟩
  go_wp2_with fail
  refine (k2.out _).mono ?_
  rintro e w2 ⟨rfl, hb2⟩
  have hb2 := below_next hb1 hb2
  go_wp2_with fail
  refine (k3.out _).mono ?_
  rintro e w3 ⟨rfl, rfl⟩
  go_wp2_with fail
  refine (known m _ (carry HM.out hb2)).mono ?_
  rintro e w4 ⟨rfl, hb4⟩
  have hb4 := below_next hb2 hb4
  go_wp2_with fail
  go_ret
  exact ⟨rfl, hb4⟩
end Go.Proofs.YtheiehbfbgjgpabDoor
