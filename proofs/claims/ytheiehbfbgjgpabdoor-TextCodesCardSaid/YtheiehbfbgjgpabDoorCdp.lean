/-
  CodePoint, the program's and the document's.
-/
import Derived.Test.YtheiehbfbgjgpabDoorCdz
import Derived.Test.YtheiehbfbgjgpabDoorKnw
namespace Go.Proofs.YtheiehbfbgjgpabDoor
open Go.RowKit
set_option maxHeartbeats 2000000
set_option maxRecDepth 100000

/-- The table of the controls, as the start lays it. -/
def CtlW (w : World) : Prop := ∀ k, k < 32 → w.cell? ⟨0, k, none⟩ = some (.int .i32 (ctlT.getD k 0))
theorem CtlW.below {w w' : World} (h : CtlW w) (hb : Below w.heap.size w w') : CtlW w' := fun k hk => (hb.cell (World.block_lt_of_cell? _ _ (h k hk))).trans (h k hk)

theorem codePoint (code : Int) (w : World) (hc : CtlW w) :
    Calls Tryd.prog 25 #[.int .i64 code] w fun e w' => e = .returned (.int .i32 (cpZ code)) ∧ Below w.heap.size w w' := by
  have hsel : (code ≤ 0 ∧ cpZ code = 65533) ∨ (1 ≤ code ∧ 1114112 ≤ code ∧ cpZ code = 65533) ∨ (1 ≤ code ∧ code ≤ 1114111 ∧ 55296 ≤ code ∧ code ≤ 57343 ∧ cpZ code = 65533) ∨
      (128 ≤ code ∧ code ≤ 159 ∧ cpZ code = ctlT.getD (code - 128).toNat 0) ∨ (1 ≤ code ∧ code < 128 ∧ cpZ code = code) ∨ (160 ≤ code ∧ code < 55296 ∧ cpZ code = code) ∨ (57344 ≤ code ∧ code ≤ 1114111 ∧ cpZ code = code) := by
    unfold cpZ badB
    by_cases h1 : code ≤ 0
    · exact .inl ⟨h1, by simp [h1]⟩
    by_cases h2 : 1114112 ≤ code
    · exact .inr (.inl ⟨by omega, h2, by simp [h2]⟩)
    by_cases h3 : 55296 ≤ code ∧ code ≤ 57343
    · exact .inr (.inr (.inl ⟨by omega, by omega, h3.1, h3.2, by simp [h3.1, h3.2]⟩))
    have hb : (decide (code ≤ 0) || decide (1114112 ≤ code) || (decide (55296 ≤ code) && decide (code ≤ 57343))) = false := by
      rw [Bool.eq_false_iff]; simp; omega
    rw [hb, if_neg (by simp)]
    by_cases h4 : 128 ≤ code ∧ code ≤ 159
    · exact .inr (.inr (.inr (.inl ⟨h4.1, h4.2, by rw [if_pos h4]⟩)))
    rw [if_neg h4]
    by_cases h5 : code < 128
    · exact .inr (.inr (.inr (.inr (.inl ⟨by omega, h5, rfl⟩))))
    by_cases h6 : code < 55296
    · exact .inr (.inr (.inr (.inr (.inr (.inl ⟨by omega, h6, rfl⟩)))))
    · exact .inr (.inr (.inr (.inr (.inr (.inr ⟨by omega, by omega, rfl⟩)))))
  obtain ⟨R, hR⟩ : ∃ R, R = cpZ code := ⟨_, rfl⟩
  rw [← hR] at hsel ⊢
  have HC := Lib.hid hc
  clear hc hR
  rcases hsel with ⟨h1, rfl⟩ | ⟨h1, h2, rfl⟩ | ⟨h1, h2, h3, h4, rfl⟩ | ⟨h1, h2, h3⟩ | ⟨h1, h2, rfl⟩ | ⟨h1, h2, rfl⟩ | ⟨h1, h2, rfl⟩
  · go_enter Tryd.func25, Tryd.ntmps25
    go_wp2_with fail
    go_ret
    exact ⟨rfl, Below.refl _ _⟩
  · go_enter Tryd.func25, Tryd.ntmps25
    go_wp2_with fail
    go_ret
    exact ⟨rfl, Below.refl _ _⟩
  · go_enter Tryd.func25, Tryd.ntmps25
    go_wp2_with fail
    go_ret
    exact ⟨rfl, Below.refl _ _⟩
  · have hc := HC.out (code - 128).toNat (by omega)
    have hk0 : (0 : Int) ≤ code - 128 := by omega
    have hk1 : code - 128 < 32 := by omega
    have h55 : code < 55296 := by omega
    rw [← h3] at hc
    clear h3
    go_enter Tryd.func25, Tryd.ntmps25
    go_wp2_with fail
    go_ret
    exact ⟨rfl, Below.refl _ _⟩
  · go_enter Tryd.func25, Tryd.ntmps25
    go_wp2_with fail
    go_ret
    exact ⟨rfl, Below.refl _ _⟩
  · go_enter Tryd.func25, Tryd.ntmps25
    go_wp2_with fail
    go_ret
    exact ⟨rfl, Below.refl _ _⟩
  · go_enter Tryd.func25, Tryd.ntmps25
    go_wp2_with fail
    go_ret
    exact ⟨rfl, Below.refl _ _⟩

theorem rScalarB (r : Int) (w : World) : Calls Tryd.prog 11 #[.int .i32 r] w fun e w' => e = .returned (.bool (decide (0 ≤ r) && decide (r ≤ 55295) || decide (57344 ≤ r) && decide (r ≤ 1114111))) ∧ w' = w := by
  go_enter Tryd.func11, Tryd.ntmps11
  go_wp2
  all_goals go_ret
  all_goals refine ⟨?_, rfl⟩
  all_goals (first | (simp [*]; done) | (simp [*]; omega))

theorem winT_step (code : Int) (k : Nat) (hk : k < 27) : winF code (winT.drop k) = if (winT.getD k (0, 0)).1 = code then (winT.getD k (0, 0)).2 else winF code (winT.drop (k + 1)) := by
  have key : ∀ k : Fin 27, winT.drop k.val = ((winT.getD k.val (0, 0)).1, (winT.getD k.val (0, 0)).2) :: winT.drop (k.val + 1) := by decide
  rw [key ⟨k, hk⟩]
  rfl
theorem winT_bd (k : Nat) (hk : k < 27) : 0 ≤ (winT.getD k (0, 0)).2 ∧ (winT.getD k (0, 0)).2 ≤ 65535 := by
  have key : ∀ k : Fin 27, 0 ≤ (winT.getD k.val (0, 0)).2 ∧ (winT.getD k.val (0, 0)).2 ≤ 65535 := by decide
  exact key ⟨k, hk⟩

def flat2 : List (Int × Int) → List Value
  | [] => []
  | p :: l => .int .i64 p.1 :: .int .i64 p.2 :: flat2 l
theorem flat2_get : ∀ (l : List (Int × Int)) (k : Nat), k < l.length → (flat2 l)[k * 2]? = some (.int .i64 (l.getD k (0, 0)).1) ∧ (flat2 l)[k * 2 + 1]? = some (.int .i64 (l.getD k (0, 0)).2)
  | [], k, h => absurd h (by simp)
  | p :: l, 0, _ => ⟨rfl, rfl⟩
  | p :: l, k + 1, h => by
    have := flat2_get l k (by simpa using h)
    rw [show (k + 1) * 2 = k * 2 + 1 + 1 by omega]
    exact this
theorem cells_new (w : World) (l : List Value) (T : TypeId) (o : Nat) : (w.alloc (.cells l.toArray T)).cell? ⟨w.heap.size, o, none⟩ = l[o]? := by
  have : (w.alloc (.cells l.toArray T)).heap[w.heap.size]? = some (.cells l.toArray T (0, 0)) := World.alloc_heap_new w _
  unfold World.cell?
  simp only
  rw [this]
  simp

theorem rWindows (w : World) : Calls Tryd.prog 53 #[] w fun e w' => ∃ g, e = .returned (.slice (some ⟨g, 0, none⟩) 27 27) ∧ (∀ k, k < 27 → w'.cell? ⟨g, k * 2, none⟩ = some (.int .i64 (winT.getD k (0, 0)).1) ∧ w'.cell? ⟨g, k * 2 + 1, none⟩ = some (.int .i64 (winT.getD k (0, 0)).2)) ∧ g < w'.heap.size ∧ Below w.heap.size w w' := by
  go_enter Tryd.func53, Tryd.ntmps53
  go_wp2_with fail
  go_ret
  refine ⟨w.heap.size, rfl, ?_, by simp, below_alloc (Below.refl _ _) _⟩
  intro k hk
  have h := flat2_get winT k hk
  rw [← h.1, ← h.2]
  exact ⟨cells_new w (flat2 winT) 76 _, cells_new w (flat2 winT) 76 _⟩

theorem rCodePoint (code : Int) (w : World) :
    Calls Tryd.prog 26 #[.int .i64 code] w fun e w' => e = .returned (.int .i32 (cpZ code)) ∧ Below w.heap.size w w' := by
  by_cases hb : badB code = true
  · have hR : cpZ code = 65533 := by unfold cpZ; rw [if_pos hb]
    rw [hR]
    clear hR
    have hsel : code < 1 ∨ (1 ≤ code ∧ 1114111 < code) ∨ (1 ≤ code ∧ code ≤ 1114111 ∧ 55295 < code ∧ code < 57344) := by
      simp [badB] at hb; omega
    clear hb
    rcases hsel with h1 | ⟨h1, h2⟩ | ⟨h1, h2, h3, h4⟩
    all_goals
      go_enter Tryd.func26, Tryd.ntmps26
      go_wp2_with fail
      go_ret
      exact ⟨rfl, Below.refl _ _⟩
  · have hbf : badB code = false := by simpa using hb
    have hW := winF_cp code hbf
    obtain ⟨R, hR⟩ : ∃ R, R = cpZ code := ⟨_, rfl⟩
    rw [← hR] at hW ⊢
    have HW := Lib.hid hW
    have hr := cpZ_bd code
    rw [← hR] at hr
    obtain ⟨hr1, hr2, _⟩ := hr
    have hsel : (1 ≤ code ∧ code ≤ 55295) ∨ (57344 ≤ code ∧ code ≤ 1114111) := by
      simp [badB] at hbf; omega
    clear hb hbf hW hR
    rcases hsel with ⟨h1, h2⟩ | ⟨h1, h2⟩
    all_goals
      go_enter Tryd.func26, Tryd.ntmps26
      go_wp2_with fail
      refine (rWindows _).mono ?_
      rintro e w1 ⟨g, rfl, hg, hgl, hb1⟩
      have HG := Lib.hid hg
      clear hg
      go_wp2_with fail
      go_loopw [4] (fun i wr => ∃ k : Nat, k ≤ 27 ∧ i = .int .i64 k ∧ winF code (winT.drop k) = R ∧ Below w1.heap.size w1 wr) (fun i _ => 27 - (intOf i).toNat)
      case atStart => exact ⟨0, by omega, rfl, HW.out, Below.refl _ _⟩
      case round =>
        obtain ⟨k, hk, rfl, hf, hB⟩ := hrel
        by_cases hlt : k < 27
        · have hI : (k : Int) < 27 := by omega
          have hc0 := (hB.cell (p := ⟨g, k * 2, none⟩) hgl).trans (HG.out k hlt).1
          have hc1 := (hB.cell (p := ⟨g, k * 2 + 1, none⟩) hgl).trans (HG.out k hlt).2
          have hst := winT_step code k hlt
          rw [hf] at hst
          obtain ⟨b0, b1⟩ := winT_bd k hlt
          generalize (winT.getD k (0, 0)).1 = a at hc0 hst
          generalize (winT.getD k (0, 0)).2 = b at hc1 hst b0 b1
          have HST := Lib.hid hst
          clear hst hf
          by_cases hac : a = code
          · have hq : (a == code) = true := by simpa using hac
            have HF : Hid (b = R) := Lib.hid (by have := HST.out; rw [if_pos hac] at this; exact this.symm)
            clear hac
            go_wp2_with fail
            go_ret
            rw [← HF.out]
            exact ⟨rfl, below_next hb1 hB⟩
          · have hq : (a == code) = false := by simpa using hac
            have HF : Hid (winF code (winT.drop (k + 1)) = R) := Lib.hid (by have := HST.out; rw [if_neg hac] at this; exact this.symm)
            clear hac
            go_wp2_with fail
            go_roundw
            case rel => exact ⟨k + 1, by omega, by go_num, HF.out, hB⟩
            case measure => simp [intOf]; omega
        · have HF : Hid (code = R) := Lib.hid (by
            rw [show k = 27 by omega] at hf
            exact hf)
          clear hf
          go_wp2_with fail
          go_ret
          rw [← HF.out]
          exact ⟨rfl, below_next hb1 hB⟩
end Go.Proofs.YtheiehbfbgjgpabDoor
