/-
  The cursor's sees.
  The scanner's classes as the library asks for them; endsName.
  The cursor's tookFolded, over whatever text.EqualFold answers.
-/
import Derived.Test.YtnfccckodgknjaaGreatDoorY28
import Derived.Deep.RegionHeld3
namespace Go.Proofs.YtnfccckodgknjaaGreatDoor
open Go.RowKit Go.Shelf
set_option maxHeartbeats 4000000
set_option maxRecDepth 100000

/-- ended, where it draws only. -/
theorem curEndedQ (b : Nat) (c : Array Value) (T : TypeId) (s : ByteArray) (k : Nat) (w : World) (h : At w b c T s k) :
    Calls Tryz.prog 62 #[.pointer (some ⟨b, 0, none⟩)] w fun e w' => e = .returned (.bool (decide (k = s.size))) ∧ ∃ m, w' = w.drewN m := by
  have h0 := h.cell0
  have h1 := h.cell1
  go_enter Tryz.func62, Tryz.ntmps62
  go_wp2_with fail
  go_quiet (fail)
  go_wp2_with fail
  go_ret
  exact ⟨ret_bool (by rw [Bool.eq_iff_iff]; simp; omega), nq, rfl⟩

def seesB (p : Nat → Bool) : List UInt8 → Bool
  | [] => false
  | x :: _ => p x.toNat

theorem curSees (g : Nat) (lb : Array Value) (eg : ∀ args w, (callFunc g args).run Tryz.prog w = .ok (.enter g args) w) (p : Nat → Bool)
    (b : Nat) (c : Array Value) (T : TypeId) (s : ByteArray) (k : Nat) (hk : k ≤ s.size) (w : World) (hp : PredGrows Tryz.prog g lb p w) (h : At w b c T s k) :
    Calls Tryz.prog 75 #[.pointer (some ⟨b, 0, none⟩), .func (.func g) #[] lb] w fun e w' => e = .returned (.bool (seesB p (s.data.toList.drop k))) ∧ Below w.heap.size w w' := by
  have k0 := h.cell0
  have k1 := h.cell1
  have hl := h.lt
  obtain ⟨r, hr⟩ : ∃ r, r = decide (k = s.size) := ⟨_, rfl⟩
  have HE : Hid (∀ w', (w'.cell? ⟨b, 0, none⟩ = some (.string s) ∧ w'.cell? ⟨b, 1, none⟩ = some (.int .i64 k) ∧ b < w'.heap.size ∧ Below w.heap.size w w') → Calls Tryz.prog 62 #[.pointer (some ⟨b, 0, none⟩)] w' fun e w2 => e = .returned (.bool r) ∧
      w2.cell? ⟨b, 0, none⟩ = some (.string s) ∧ w2.cell? ⟨b, 1, none⟩ = some (.int .i64 k) ∧ b < w2.heap.size ∧ Below w.heap.size w w2) := by
    refine Lib.hid ?_
    rintro w' ⟨y0, y1, y2, y3⟩
    have hq := h.below y3
    refine (curEnded b c T s k hk w' hq).mono ?_
    rintro e w2 ⟨rfl, hb⟩
    have h2 := hq.below hb
    exact ⟨by rw [hr], h2.cell0, h2.cell1, h2.lt, below_next y3 hb⟩
  by_cases hlt : k < s.size
  · have hd := drop_byte s k hlt
    rw [hd]
    simp only [seesB]
    have hr2 : r = false := hr.trans (decide_eq_false (by omega))
    subst hr2
    have hbt := (s[k]'hlt).toNat_lt
    have HP : Hid (∀ w', (w'.cell? ⟨b, 0, none⟩ = some (.string s) ∧ w'.cell? ⟨b, 1, none⟩ = some (.int .i64 k) ∧ b < w'.heap.size ∧ Below w.heap.size w w') → Calls Tryz.prog g (#[.int .i32 (IntKind.i32.wrap ((s[k]'hlt).toNat : Nat))] ++ lb) w' fun e w2 => e = .returned (.bool (p (s[k]'hlt).toNat)) ∧
        w2.cell? ⟨b, 0, none⟩ = some (.string s) ∧ w2.cell? ⟨b, 1, none⟩ = some (.int .i64 k) ∧ b < w2.heap.size ∧ Below w.heap.size w w2) := by
      refine Lib.hid ?_
      rintro w' ⟨y0, y1, y2, y3⟩
      rw [show IntKind.i32.wrap (((s[k]'hlt).toNat : Nat) : Int) = (((s[k]'hlt).toNat : Nat) : Int) from IntWalk.i32_in _ (by omega)]
      refine (hp w' (s[k]'hlt).toNat (by omega) y3).mono ?_
      rintro e w2 ⟨rfl, hb⟩
      have h2 := (h.below y3).below hb
      exact ⟨rfl, h2.cell0, h2.cell1, h2.lt, below_next y3 hb⟩
    have hki : (k : Int) < (s.size : Int) := by omega
    have hbi : ((s[k]'hlt).toNat : Int) ≤ 255 := by omega
    generalize p (s[k]'hlt).toNat = q at HP ⊢
    clear hd hp h hk hr hbt
    go_enter Tryz.func75, Tryz.ntmps75
    go_wp2_with fail
    go_region_held3 (fun w' => w'.cell? ⟨b, 0, none⟩ = some (.string s) ∧ w'.cell? ⟨b, 1, none⟩ = some (.int .i64 k) ∧ b < w'.heap.size ∧ Below w.heap.size w w')
      (first | exact ⟨k0, k1, hl, Below.drew (Below.refl _ _)⟩ | exact ⟨by assumption, by assumption, by assumption, by assumption⟩ | go_keep)
      (first | (go_at_call 62; refine (HE.out _ (by first | assumption | exact ⟨by assumption, by assumption, by assumption, by first | assumption | exact Below.drew (by assumption)⟩)).mono ?_; rintro e w3 ⟨rfl, c0, c1, c2, c3⟩)
             | (refine (HP.out _ (by first | assumption | exact ⟨by assumption, by assumption, by assumption, by first | assumption | exact Below.drew (by assumption)⟩)).mono ?_; rintro e w3 ⟨rfl, c0, c1, c2, c3⟩))
    all_goals
      go_wp2_with fail
      go_ret
      exact ⟨rfl, by assumption⟩
  · have hd : s.data.toList.drop k = [] := drop_end s k (by omega)
    rw [hd]
    simp only [seesB]
    have hr2 : r = true := hr.trans (decide_eq_true (by omega))
    subst hr2
    have hat := h
    clear hd hp h hr
    have HEQ : Hid (∀ n, Calls Tryz.prog 62 #[.pointer (some ⟨b, 0, none⟩)] (w.drewN n) fun e w2 => e = .returned (.bool true) ∧ ∃ m, w2 = (w.drewN n).drewN m) := Lib.hid (by
      intro n
      have := curEndedQ b c T s k (w.drewN n) (hat.same rfl)
      rwa [show decide (k = s.size) = true from decide_eq_true (by omega)] at this)
    clear hlt hk hat
    go_enter Tryz.func75, Tryz.ntmps75
    go_wp2_with fail
    go_quiet ((go_at_call 62; exact Calls.quiet_of (HEQ.out _)))
    go_wp2_with fail
    go_ret
    exact ⟨rfl, by (repeat' (first | (with_reducible exact Below.refl _ _) | (with_reducible assumption) | (with_reducible refine below_alloc ?_ _) | (with_reducible refine Below.drew ?_) | (with_reducible refine _root_.Go.below_drewN ?_ _) | (with_reducible refine Below.setCell ?_ ?_ _) | go_size | (refine below_next ?_ (by assumption))))⟩
end Go.Proofs.YtnfccckodgknjaaGreatDoor

namespace Go.Proofs.YtnfccckodgknjaaGreatDoor
open Go.RowKit Go.Shelf
set_option maxHeartbeats 1000000
set_option maxRecDepth 100000

theorem endsName (r : Int) (w : World) : Calls Tryz.prog 113 #[.int .i32 r] w fun e w' => e = .returned (.bool (enB r)) ∧ Below w.heap.size w w' := by
  have HS := Lib.hid (endsWord r)
  unfold enB
  go_enter Tryz.func113, Tryz.ntmps113
  cases hx : ewB r
  · rw [hx] at HS
    clear hx
    cases hy : decide (r = 47)
    · have e1 : (r == 47) = false := by rw [beq_eq_false_iff_ne]; exact of_decide_eq_false hy
      clear hy
      go_wp2_with fail
      refine (HS.out _).mono ?_
      rintro e w2 ⟨rfl, hb2⟩
      go_wp2_with fail
      go_ret
      exact ⟨rfl, hb2⟩
    · have e1 : (r == 47) = true := by rw [beq_iff_eq]; exact of_decide_eq_true hy
      clear hy
      go_wp2_with fail
      refine (HS.out _).mono ?_
      rintro e w2 ⟨rfl, hb2⟩
      go_wp2_with fail
      go_ret
      exact ⟨rfl, hb2⟩
  · rw [hx] at HS
    clear hx
    go_wp2_with fail
    refine (HS.out _).mono ?_
    rintro e w2 ⟨rfl, hb2⟩
    go_wp2_with fail
    go_ret
    exact ⟨rfl, hb2⟩

theorem grows_greater (w : World) : PredGrows Tryz.prog 136 #[] (fun r => gtB r) w := fun W x _ _ => isGreater x W
theorem grows_quote (w : World) : PredGrows Tryz.prog 185 #[] (fun r => quB r) w := fun W x _ _ => isQuote x W
theorem grows_word (w : World) : PredGrows Tryz.prog 132 #[] (fun r => ewB r) w := fun W x _ _ => endsWord x W
theorem grows_name (w : World) : PredGrows Tryz.prog 113 #[] (fun r => enB r) w := fun W x _ _ => endsName x W
theorem hi_greater : ∀ r : Nat, 128 ≤ r → r ≤ 1114111 → gtB r = false := fun r h _ => by unfold gtB; exact decide_eq_false (by omega)
theorem hi_word : ∀ r : Nat, 128 ≤ r → r ≤ 1114111 → ewB r = false := fun r h h2 => by unfold ewB; rw [hi_greater r h h2]; simp [spB]; omega
theorem hi_name : ∀ r : Nat, 128 ≤ r → r ≤ 1114111 → enB r = false := fun r h h2 => by unfold enB; rw [hi_word r h h2, decide_eq_false (by omega)]; rfl
end Go.Proofs.YtnfccckodgknjaaGreatDoor

namespace Go.Proofs.YtnfccckodgknjaaGreatDoor
open Go.RowKit Go.Shelf
set_option maxHeartbeats 4000000
set_option maxRecDepth 100000

theorem curFoldedH (F : ByteArray → ByteArray → Bool) (HEF : ∀ (a p : ByteArray) (w : World), a.size ≤ 1000000000 → Calls Tryz.prog 143 #[.string a, .string p] w fun e w' => e = .returned (.bool (F a p)) ∧ Below w.heap.size w w')
    (b : Nat) (c : Array Value) (T : TypeId) (s p : ByteArray) (k : Nat) (hk : k ≤ s.size) (hs : s.size ≤ 1000000000) (w : World) (h : At w b c T s k) :
    Calls Tryz.prog 83 #[.pointer (some ⟨b, 0, none⟩), .string p] w fun e w' =>
      (e = .returned (.bool true) ∧ k + p.size ≤ s.size ∧ F ((s.extract k s.size).extract 0 p.size) p = true ∧ At w' b (mv c (k + p.size)) T s (k + p.size) ∧ But b w w') ∨
      (e = .returned (.bool false) ∧ (s.size < k + p.size ∨ F ((s.extract k s.size).extract 0 p.size) p = false) ∧ At w' b c T s k ∧ But b w w') := by
  have hsz : (s.extract k s.size).size = s.size - k := by rw [ByteArray.size_extract]; omega
  have HR := Lib.hid (fun w' (h : At w' b c T s k) => curRest b c T s k hk w' h)
  by_cases hlt : s.size < k + p.size
  · have HLT := Lib.hid hlt
    have hd : (s.extract k s.size).size < p.size := by rw [hsz]; omega
    obtain ⟨R, hR⟩ : ∃ R, R = s.extract k s.size := ⟨_, rfl⟩
    rw [← hR] at HR hd ⊢
    clear hsz hlt hk hs HEF hR
    go_enter Tryz.func83, Tryz.ntmps83
    go_wp2_with fail
    refine (HR.out _ h).mono ?_
    rintro e w2 ⟨rfl, hb2⟩
    go_wp2_with fail
    go_ret
    exact .inr ⟨rfl, .inl HLT.out, h.below hb2, But.of_below hb2⟩
  · have hkp : k + p.size ≤ s.size := by omega
    have hd : ¬ (s.extract k s.size).size < p.size := by rw [hsz]; omega
    have hpi : (p.size : Int) ≤ ((s.extract k s.size).size : Int) := by rw [hsz]; omega
    have HF := Lib.hid (fun w' => HEF ((s.extract k s.size).extract 0 p.size) p w' (by rw [ByteArray.size_extract, hsz]; omega))
    have HKP := Lib.hid hkp
    have hw : wrap64 ((k : Int) + (p.size : Int)) = (k : Int) + p.size := IntWalk.wrap64_in _ (by omega)
    obtain ⟨R, hR⟩ : ∃ R, R = s.extract k s.size := ⟨_, rfl⟩
    rw [← hR] at HR HF hd hpi ⊢
    obtain ⟨q, hq⟩ : ∃ q, q = F (R.extract 0 p.size) p := ⟨_, rfl⟩
    rw [← hq] at HF ⊢
    clear hsz hlt hk hs HEF hq hkp hR
    go_enter Tryz.func83, Tryz.ntmps83
    go_wp2_with fail
    refine (HR.out _ h).mono ?_
    rintro e w2 ⟨rfl, hb2⟩
    have h2 := h.below hb2
    go_wp2_with fail
    refine (HR.out _ h2).mono ?_
    rintro e w3 ⟨rfl, hb3⟩
    have h3 := h2.below hb3
    go_wp2_with fail
    refine (HF.out _).mono ?_
    rintro e w4 ⟨rfl, hb4⟩
    have h4 := h3.below hb4
    have k0 := h4.cell0
    have k1 := h4.cell1
    have f1 := h4.frozen 1
    have hbb := below_next (below_next hb2 hb3) hb4
    cases q
    · go_wp2_with fail
      go_ret
      exact ⟨rfl, h4, But.of_below hbb⟩
    · go_wp2_with fail
      go_ret
      exact .inl ⟨rfl, HKP.out, h4.set (k + p.size), (But.of_below hbb).trans (But.set _ _ _ _)⟩
end Go.Proofs.YtnfccckodgknjaaGreatDoor
