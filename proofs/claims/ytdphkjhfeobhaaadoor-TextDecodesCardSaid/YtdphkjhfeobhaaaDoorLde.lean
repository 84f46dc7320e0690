/-
  TextDecodes: the walk.
-/
import Derived.Test.YtdphkjhfeobhaaaDoorRdt
namespace Go.Proofs.YtdphkjhfeobhaaaDoor
open Go.RowKit
set_option maxHeartbeats 1000000
set_option maxRecDepth 100000

theorem own_form {w : World} {B e size n : Nat} {v : Value} {xs : List Value} (h : w.ownsRow B e size v n xs) : ∃ a c, v = .slice a n c := by
  rcases h.2 with ⟨rfl, rfl⟩ | ⟨g, cap, cur, rfl, _⟩
  · exact ⟨_, _, rfl⟩
  · exact ⟨_, _, rfl⟩
theorem runes_text (s : ByteArray) : (⟨((runesL s.data.toList).flatMap encU).toArray⟩ : ByteArray) = decS s := by
  apply list_bytes
  rw [(runes_all _ s.data.toList (Nat.le_refl _)).1, decS_decL]
theorem runes_len (s : ByteArray) : (runesL s.data.toList).length = (piecesB s).length := by
  rw [piecesB_length]
  simp [runesL]

theorem rTextS (v : Value) (B : Nat) (s : ByteArray) (hs : s.size ≤ 100000) (w : World) (hv : w.ownsRow B 21 1 v (runesL s.data.toList).length (i32c (runesL s.data.toList))) :
    Calls Tryd.prog 25 #[v] w fun e w' => e = .returned (.string (decS s)) ∧ Below w.heap.size w w' := by
  have hl := piecesB_len s
  have h := rText v B (runesL s.data.toList) (runes_all _ s.data.toList (Nat.le_refl _)).2 (by rw [runes_len]; omega) w hv
  rw [runes_text] at h
  exact h

theorem rInput (s : ByteArray) (hs : s.size ≤ 65536) (w : World) :
    Calls Tryd.prog 27 #[.string s] w fun e w' => e = .returned (.string (inpS s)) ∧ Below w.heap.size w w' := by
  have hz := decS_size3 s
  have hi : inpS s = nlS (decS s) := rfl
  rw [hi]
  clear hi
  have HT := Lib.hid (fun v B w hv => rTextS v B s (by omega) w hv)
  have HN := Lib.hid (rNewlines (decS s) (by omega))
  have HD := Lib.hid (rDecode s (by omega) w)
  generalize runesL s.data.toList = l at HT HD
  generalize decS s = d at HT HN ⊢
  clear hz
  go_enter Tryd.func27, Tryd.ntmps27
  go_wp2_with fail
  refine HD.out.mono ?_
  rintro e w1 ⟨v, rfl, hown, hb1⟩
  have HT2 := Lib.hid (HT.out v _ w1 hown)
  clear hown
  go_wp2_with fail
  refine HT2.out.mono ?_
  rintro e w2 ⟨rfl, hb2⟩
  have hb2 := below_next hb1 hb2
  go_wp2_with fail
  refine (HN.out _).mono ?_
  rintro e w3 ⟨rfl, hb3⟩
  have hb3 := below_next hb2 hb3
  go_wp2_with fail
  go_ret
  exact ⟨rfl, hb3⟩

theorem textDecodes (b : ByteArray) (m : Int) (w : World) (hm : Ml m w) :
    Calls Tryd.prog 3 #[.string b] w fun e w' => e = .returned (.bool true) ∧ Below w.heap.size w w' := by
  have HM := Lib.hid hm
  clear hm
  have HSM := Lib.hid (small b w)
  by_cases hs : b.size ≤ 65536
  · have hsm : decide (b.size ≤ 65536) = true := by simpa using hs
    rw [hsm] at HSM
    clear hsm
    have hz := decS_size3 b
    have k1 := Lib.hid (rDecode b (by omega))
    have k2 := Lib.hid (decode b (by omega))
    have k3 := Lib.hid (fun v B w hv => rTextS v B b (by omega) w hv)
    have k4 := Lib.hid (inputS b m (by omega) (by omega))
    have k5 := Lib.hid (rInput b hs)
    have k6 := Lib.hid (count b (by omega))
    rw [← runes_len] at k6
    generalize runesL b.data.toList = l at k1 k3 k6
    generalize inpS b = t at k4 k5
    generalize decS b = d at k2 k3
    clear hz
    go_enter Tryd.func3, Tryd.ntmps3
    go_wp2_with fail
    refine HSM.out.mono ?_
    rintro e w' ⟨rfl, rfl⟩
    go_wp2_with fail
    refine (k1.out _).mono ?_
    rintro e w1 ⟨v, rfl, hown, hb1⟩
    obtain ⟨a, c, rfl⟩ := own_form hown
    have HOW := Lib.hid hown
    clear hown
    go_wp2_with fail
    refine (k2.out _).mono ?_
    rintro e w2 ⟨rfl, hb2⟩
    have HT2 := Lib.hid (k3.out _ _ w2 (own_below HOW.out hb2))
    have hb2 := below_next hb1 hb2
    go_wp2_with fail
    refine HT2.out.mono ?_
    rintro e w3 ⟨rfl, hb3⟩
    have hb3 := below_next hb2 hb3
    go_wp2_with fail
    refine (k4.out _ (carry HM.out hb3)).mono ?_
    rintro e w4 ⟨rfl, hb4⟩
    have hb4 := below_next hb3 hb4
    go_wp2_with fail
    refine (k5.out _).mono ?_
    rintro e w5 ⟨rfl, hb5⟩
    have hb5 := below_next hb4 hb5
    go_wp2_with fail
    refine (k6.out _).mono ?_
    rintro e w6 ⟨rfl, hb6⟩
    have hb6 := below_next hb5 hb6
    go_wp2_with fail
    refine (known m _ (carry HM.out hb6)).mono ?_
    rintro e w7 ⟨rfl, hb7⟩
    have hb7 := below_next hb6 hb7
    go_wp2_with fail
    go_ret
    exact ⟨rfl, hb7⟩
  · have hsm : decide (b.size ≤ 65536) = false := by simpa using hs
    rw [hsm] at HSM
    clear hsm
    go_enter Tryd.func3, Tryd.ntmps3
    go_wp2_with fail
    refine HSM.out.mono ?_
    rintro e w' ⟨rfl, rfl⟩
    go_wp2_with fail
    refine (known m _ HM.out).mono ?_
    rintro e w5 ⟨rfl, hb5⟩
    go_wp2_with fail
    go_ret
    exact ⟨rfl, hb5⟩
end Go.Proofs.YtdphkjhfeobhaaaDoor
