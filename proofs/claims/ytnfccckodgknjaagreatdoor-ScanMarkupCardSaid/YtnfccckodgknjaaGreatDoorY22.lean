/-
  The frame of the rows: what each start gives the walks; the door's own start.
  The digits in front of a string: the document's own reading of them.
  The document's own reading of names.
  The document's own reading of element names and attribute names.
  TextElements: the walk.
  The frame of the rows that list the table of the controls as well.
-/
import Derived.Test.YtnfccckodgknjaaGreatDoorRows
import Derived.Test.YtnfccckodgknjaaGreatDoorY21
import Derived.ProofKit
import Derived.LaidMore
import Derived.OpenShut
import Derived.HandedShaped
import Derived.Lay
import Derived.Stop.Joined
namespace Go.Proofs.YtnfccckodgknjaaGreatDoor
open Go.ChangeShapes Go.WideShapes Go.ChangeAt Go.RowKit
set_option maxRecDepth 100000

theorem own : ownKnob Tryz.prog.godebug = none := by kernel_rfl

/-- The cell that the library's functions ask for. -/
theorem cell_ml {W : World} (h : W.ShapedOpen Tryz.prog) : ∃ m, Ml m W := Tryz.laysM145.s1_3 W h

/-- A row whose start is said to hold more, with the shapes at hand. -/
theorem handed {H : Type} {enc : TypeId × Value → H} {a : Assume} {C : Checked} {os : Os} {f : FuncId} {fn : Func} {s : ChangeSpec} {conds : List PathCond} {apart fresh handsOn again : Bool} {X : World → Array Value → Prop}
    (own : ownKnob C.prog.godebug = none) (started : os.Started) (noInit : C.prog.inits.idxOf? f = none) (hfn : C.prog.funcs[f]? = some fn)
    (witness : ∃ (w : World) (tape : Tape) (i : Input), w.os = os ∧ (w.forCall tape i).Shaped C.prog ∧ i.vars = [] ∧ Input.okWide C.prog (w.forCall tape i) .any w.heap.size f i ∧
      ((s.pre enc C.prog fn conds apart (w.forCall tape i).memory i.args ∧ X (w.forCall tape i).memory i.args) ∧ sizedMet enc C.prog fn (OpenSpec.ofChange s) apart (w.forCall tape i).memory i.args) ∧ a.holds C.prog (lone (Frame.enter C.prog f i.args .normal) [] (w.forCall tape i)))
    (walk : ∀ (W : World) (base : Nat) (args : Array Value) (ds gs : List (DataW H)) (before : List MemPlace),
      (∀ (j : Nat) t v, fn.params[j]? = some t → args[j]? = some v → Value.okWide C.prog W .any base t v) →
      DataW.Whole enc C.prog fn.params.toList s.vars apart W args.toList ds gs before → W.ShapedOpen C.prog →
      Calls C.prog f args W fun e W' => ∃ v, e = .returned v ∧ s.post enc C.prog fn apart fresh handsOn again W args v W') :
    ReturnsInHanded a C os f .any (fun w args => (s.pre enc C.prog fn conds apart w args ∧ X w args) ∧ sizedMet enc C.prog fn (OpenSpec.ofChange s) apart w args) (s.post enc C.prog fn apart fresh handsOn again) := by
  refine returnsInHanded_of_calls own started noInit witness ?_
  intro w tape i _ hsh _ hok hpre _
  obtain ⟨_, _, _, fn', hfn', _, _, _, _, hval⟩ := hok
  obtain rfl : fn' = fn := Option.some.inj (hfn'.symm.trans hfn)
  obtain ⟨⟨⟨ds, gs, before, hw, _⟩, _⟩, _⟩ := hpre
  refine (walk (w.forCall tape i) w.heap.size i.args ds gs before hval (DataW.Whole.of_heap (w' := w.forCall tape i) (by rfl) hw) hsh).mono fun e W' ⟨v, he, hp⟩ => ?_
  subst he
  exact ChangeSpec.post_blind hp

/-- The statement's post where the arguments reach no cells: what was there has not turned. -/
theorem post_plain {H : Type} {enc : TypeId × Value → H} {P : Program} {f : Func} {s : ChangeSpec} {apart fresh handsOn again : Bool} {W W' : World} {args : Array Value} {v : Value} {ds gs : List (DataW H)}
    (hW : DataW.Whole enc P f.params.toList s.vars apart W args.toList ds gs [])
    (hres : ∀ (b : Nat) (sp : Nat → Bool) (hd : Bool), DataW.TrodAll enc P W' b sp hd f.resultTypes.toList (v.resultList f.resultTypes.size) (s.fn H (ds ++ gs)).results [])
    (hargs : ∀ sp : Nat → Bool, DataW.TrodAll enc P W' 0 sp true f.params.toList args.toList (s.fn H (ds ++ gs)).args [])
    (hvars : ∀ sp : Nat → Bool, DataW.TrodVars enc P W' sp s.vars (s.fn H (ds ++ gs)).vars [])
    (hb : Below W.heap.size W W')
    (hok : ∀ (j : Nat) (t : TypeId) (r : Value), f.resultTypes[j]? = some t → (v.resultList f.resultTypes.size)[j]? = some r → Value.okWide P W' .any 0 t r) :
    s.post enc P f apart fresh handsOn again W args v W' := by
  refine ⟨ds, gs, [], [], [], [], hW, hres _ _ _, hargs _, hvars _, World.keptBut_mono (fun p hp => by cases hp) (hb.frame (· ∈ ([] : List MemPlace))), fun _ => ?_⟩
  refine ⟨hok, _, _, [], ⟨[], [], trodAll_append (p := []) (p' := []) (hargs _) (hres _ _ _), hvars _, rfl, ?_, ?_⟩, ?_⟩
  · intro b off hp; cases hp
  · intro _; exact List.nodup_nil
  · intro p hp; cases hp

def laidU : List (String × DataW Unit) := [("unicode/utf8.acceptRanges", Rows.laid_unicode_utf8_acceptRanges), ("unicode/utf8.first", Rows.laid_unicode_utf8_first)]

theorem door_os (os : Os) : (World.laidAll Tryz.prog os laidU).os = os := World.laidAll_os _ _ _
theorem door_met (os : Os) (args : Array Value) : laidMetH Tryz.prog laidU ((World.laidAll Tryz.prog os laidU).forCall (fun _ _ => 0) ⟨#[], args, []⟩).memory := by
  rw [MakeChecks.laidMetH_plain _ _ _ (by kernel_rfl)]
  exact laidMet_laidAll _ (by kernel_rfl) (by kernel_rfl)
end Go.Proofs.YtnfccckodgknjaaGreatDoor

namespace Go.Proofs.YtnfccckodgknjaaGreatDoor
open Go.RowKit
set_option maxHeartbeats 1000000
set_option maxRecDepth 100000

def refP (B x : Int) : Bool := decide (0 ≤ hexV x) && decide (hexV x < B)
theorem refP16 (x : Int) : refP 16 x = hexB x := by
  have h := hexV_hex x
  unfold refP
  rw [h]
  cases hh : hexB x
  · rfl
  · simp only [Bool.true_and, decide_eq_true_eq]
    unfold hexV digB
    unfold hexB at hh
    simp at hh
    split
    · rename_i h1; simp at h1; omega
    · split
      · omega
      · split <;> omega
theorem refP10 (x : Int) : refP 10 x = digB x := by
  unfold refP
  rw [Bool.eq_iff_iff]
  unfold hexV digB
  split
  · rename_i h1; simp at h1; simp; omega
  · rename_i h1
    simp at h1
    split
    · simp; omega
    · split
      · simp; omega
      · simp; omega
theorem hexV_dv (x : Int) (h : hexB x = true) : dvZ x = hexV x := by
  unfold hexB at h
  simp at h
  unfold dvZ hexV digB lowZ upB
  split
  · rfl
  · rename_i h1
    simp at h1
    split
    · rename_i h2
      simp at h2
      rw [if_neg (by omega), if_pos (by omega)]
      omega
    · rename_i h2
      simp at h2
      rw [if_pos (by omega)]
      omega
theorem digB_hexB (x : Int) (h : digB x = true) : hexB x = true := by
  unfold digB at h
  unfold hexB
  simp at h ⊢
  omega

theorem digRun_ge (p : Int → Bool) (b : Int) : ∀ (l : List UInt8) (c : Int) (k : Nat), k ≤ (digRun p b l c k).2 ∧ (digRun p b l c k).2 ≤ k + l.length
  | [], c, k => by simp [digRun]
  | x :: t, c, k => by
    unfold digRun
    split
    · have := digRun_ge p b t (min (c * b + dvZ x.toNat) 1114112) (k + 1)
      rw [List.length_cons]
      omega
    · rw [List.length_cons]
      dsimp only
      omega
theorem digRun_take (p : Int → Bool) (b : Int) : ∀ (l : List UInt8) (c : Int) (k : Nat), digRun p b (l.take ((digRun p b l c k).2 - k)) c k = digRun p b l c k
  | [], c, k => by simp [digRun]
  | x :: t, c, k => by
    cases hp : p x.toNat with
    | true =>
      have e : digRun p b (x :: t) c k = digRun p b t (min (c * b + dvZ x.toNat) 1114112) (k + 1) := by
        conv => lhs; unfold digRun
        rw [if_pos hp]
      have ih := digRun_take p b t (min (c * b + dvZ x.toNat) 1114112) (k + 1)
      have hge := (digRun_ge p b t (min (c * b + dvZ x.toNat) 1114112) (k + 1)).1
      rw [e]
      generalize digRun p b t (min (c * b + dvZ x.toNat) 1114112) (k + 1) = r at ih hge ⊢
      obtain ⟨j, hj⟩ : ∃ j, r.2 - k = j + 1 := ⟨r.2 - k - 1, by omega⟩
      rw [hj, List.take_succ_cons]
      conv => lhs; unfold digRun
      rw [if_pos hp, show j = r.2 - (k + 1) by omega]
      exact ih
    | false =>
      have e : digRun p b (x :: t) c k = (c, k) := by
        conv => lhs; unfold digRun
        rw [if_neg (by simp [hp])]
      rw [e]
      simp [digRun]
theorem digRun_shift (p : Int → Bool) (b : Int) (j : Nat) : ∀ (l : List UInt8) (c : Int) (k : Nat), digRun p b l c (k + j) = ((digRun p b l c k).1, (digRun p b l c k).2 + j)
  | [], c, k => by simp [digRun]
  | x :: t, c, k => by
    have ih := digRun_shift p b j t (min (c * b + dvZ x.toNat) 1114112) (k + 1)
    unfold digRun
    split
    · rw [show k + j + 1 = k + 1 + j by omega, ih]
    · rfl
theorem digRun_00 (p : Int → Bool) (b : Int) (hp : p 48 = true) (l : List UInt8) : digRun p b (48 :: 48 :: l) 0 0 = ((digRun p b l 0 0).1, (digRun p b l 0 0).2 + 2) := by
  have hz : dvZ 48 = 0 := by decide
  have h0 : ∀ (t : List UInt8) (k : Nat), digRun p b (48 :: t) 0 k = digRun p b t 0 (k + 1) := by
    intro t k
    conv => lhs; unfold digRun
    rw [show ((48 : UInt8).toNat : Int) = 48 from rfl, if_pos hp, hz]
    simp
    rfl
  rw [h0, h0]
  exact digRun_shift p b 2 l 0 0

theorem rDigits16 (s : ByteArray) (hs : s.size ≤ maxLen) (w : World) :
    Calls Tryz.prog 211 #[.string s, .int .i64 16] w fun e w' => e = .returned (.tuple #[.int .i64 (digRun hexB 16 s.data.toList 0 0).1, .int .i64 (digRun hexB 16 s.data.toList 0 0).2]) ∧ Below w.heap.size w w' := by
  unfold maxLen at hs
  obtain ⟨res, hres⟩ : ∃ res, res = digRun hexB 16 s.data.toList 0 0 := ⟨_, rfl⟩
  rw [← hres]
  have HR := Lib.hid hres
  clear hres
  go_enter Tryz.func211, Tryz.ntmps211
  go_wp2_with fail
  go_loop [6, 7] (fun c i => ∃ (k : Nat) (cv : Int), k ≤ s.size ∧ i = .int .i64 k ∧ c = .int .i64 cv ∧ 0 ≤ cv ∧ cv ≤ 1114112 ∧ digRun hexB 16 (s.data.toList.drop k) cv k = res) (fun _ i => s.size - (intOf i).toNat)
  case atStart => exact ⟨0, 0, Nat.zero_le _, rfl, rfl, by omega, by omega, HR.out.symm⟩
  case round =>
    obtain ⟨k, cv, hk, rfl, rfl, hc0, hc1, hd⟩ := hrel
    by_cases hlt : k < s.size
    · rw [drop_byte s k hlt] at hd
      unfold digRun at hd
      have hf := refP16 ((s[k]'hlt).toNat : Int)
      have hv := rHex ((s[k]'hlt).toNat : Int)
      cases hp : hexB ((s[k]'hlt).toNat : Int) with
      | true =>
        rw [hp, if_pos rfl, hexV_dv _ hp] at hd
        rw [hp] at hf
        have HD2 := Lib.hid hd
        have HV := Lib.hid hv
        unfold refP at hf
        clear hd hp hv
        generalize hexV ((s[k]'hlt).toNat : Int) = dv at HD2 HV hf
        simp at hf
        obtain ⟨dv0, dv1⟩ := hf
        by_cases hmx : cv * 16 + dv ≤ 1114112
        · have e : min (cv * 16 + dv) 1114112 = cv * 16 + dv := Int.min_eq_left hmx
          have HE := Lib.hid e
          clear e
          go_wp2_with (go_at_call 240; refine (HV.out _).mono ?_; rintro e w' ⟨rfl, rfl⟩)
          go_round
          case rel => exact ⟨k + 1, cv * 16 + dv, by omega, by go_num, by rw [HE.out], by omega, hmx, by have := HD2.out; rw [HE.out] at this; exact this⟩
          case measure => simp [intOf]; omega
        · have e : min (cv * 16 + dv) 1114112 = 1114112 := Int.min_eq_right (by omega)
          have HE := Lib.hid e
          clear e
          go_wp2_with (go_at_call 240; refine (HV.out _).mono ?_; rintro e w' ⟨rfl, rfl⟩)
          go_round
          case rel => exact ⟨k + 1, 1114112, by omega, by go_num, by rw [HE.out], by omega, by omega, by have := HD2.out; rw [HE.out] at this; exact this⟩
          case measure => simp [intOf]; omega
      | false =>
        rw [hp, if_neg (by simp)] at hd
        rw [hp] at hf
        have HD2 := Lib.hid hd
        have HV := Lib.hid hv
        unfold refP at hf
        clear hd hp hv
        generalize hexV ((s[k]'hlt).toNat : Int) = dv at HV hf
        have hf2 : dv < 0 ∨ (0 ≤ dv ∧ 16 ≤ dv) := by
          simp at hf; omega
        clear hf
        rcases hf2 with hf2 | ⟨hf2, hf3⟩
        all_goals
          go_wp2_with (go_at_call 240; refine (HV.out _).mono ?_; rintro e w' ⟨rfl, rfl⟩)
          go_ret2
          rw [← HD2.out]
          exact ⟨rfl, Below.refl _ _⟩
    · have hkk : s.data.toList.drop k = [] := drop_end s k (by omega)
      rw [hkk] at hd
      have HD2 := Lib.hid hd
      clear hd hkk
      go_wp2_with fail
      go_ret2
      rw [← HD2.out]
      exact ⟨rfl, Below.refl _ _⟩

theorem rDigits10 (s : ByteArray) (base : Int) (hbase : (base != 16) = true) (hs : s.size ≤ maxLen) (w : World) :
    Calls Tryz.prog 211 #[.string s, .int .i64 base] w fun e w' => e = .returned (.tuple #[.int .i64 (digRun digB 10 s.data.toList 0 0).1, .int .i64 (digRun digB 10 s.data.toList 0 0).2]) ∧ Below w.heap.size w w' := by
  unfold maxLen at hs
  obtain ⟨res, hres⟩ : ∃ res, res = digRun digB 10 s.data.toList 0 0 := ⟨_, rfl⟩
  rw [← hres]
  have HR := Lib.hid hres
  clear hres
  go_enter Tryz.func211, Tryz.ntmps211
  go_wp2_with fail
  go_loop [6, 7] (fun c i => ∃ (k : Nat) (cv : Int), k ≤ s.size ∧ i = .int .i64 k ∧ c = .int .i64 cv ∧ 0 ≤ cv ∧ cv ≤ 1114112 ∧ digRun digB 10 (s.data.toList.drop k) cv k = res) (fun _ i => s.size - (intOf i).toNat)
  case atStart => exact ⟨0, 0, Nat.zero_le _, rfl, rfl, by omega, by omega, HR.out.symm⟩
  case round =>
    obtain ⟨k, cv, hk, rfl, rfl, hc0, hc1, hd⟩ := hrel
    by_cases hlt : k < s.size
    · rw [drop_byte s k hlt] at hd
      unfold digRun at hd
      have hf := refP10 ((s[k]'hlt).toNat : Int)
      have hv := rHex ((s[k]'hlt).toNat : Int)
      cases hp : digB ((s[k]'hlt).toNat : Int) with
      | true =>
        rw [hp, if_pos rfl, hexV_dv _ (digB_hexB _ hp)] at hd
        rw [hp] at hf
        have HD2 := Lib.hid hd
        have HV := Lib.hid hv
        unfold refP at hf
        clear hd hp hv
        generalize hexV ((s[k]'hlt).toNat : Int) = dv at HD2 HV hf
        simp at hf
        obtain ⟨dv0, dv1⟩ := hf
        by_cases hmx : cv * 10 + dv ≤ 1114112
        · have e : min (cv * 10 + dv) 1114112 = cv * 10 + dv := Int.min_eq_left hmx
          have HE := Lib.hid e
          clear e
          go_wp2_with (go_at_call 240; refine (HV.out _).mono ?_; rintro e w' ⟨rfl, rfl⟩)
          go_round
          case rel => exact ⟨k + 1, cv * 10 + dv, by omega, by go_num, by rw [HE.out], by omega, hmx, by have := HD2.out; rw [HE.out] at this; exact this⟩
          case measure => simp [intOf]; omega
        · have e : min (cv * 10 + dv) 1114112 = 1114112 := Int.min_eq_right (by omega)
          have HE := Lib.hid e
          clear e
          go_wp2_with (go_at_call 240; refine (HV.out _).mono ?_; rintro e w' ⟨rfl, rfl⟩)
          go_round
          case rel => exact ⟨k + 1, 1114112, by omega, by go_num, by rw [HE.out], by omega, by omega, by have := HD2.out; rw [HE.out] at this; exact this⟩
          case measure => simp [intOf]; omega
      | false =>
        rw [hp, if_neg (by simp)] at hd
        rw [hp] at hf
        have HD2 := Lib.hid hd
        have HV := Lib.hid hv
        unfold refP at hf
        clear hd hp hv
        generalize hexV ((s[k]'hlt).toNat : Int) = dv at HV hf
        have hf2 : dv < 0 ∨ (0 ≤ dv ∧ 10 ≤ dv) := by
          simp at hf; omega
        clear hf
        rcases hf2 with hf2 | ⟨hf2, hf3⟩
        all_goals
          go_wp2_with (go_at_call 240; refine (HV.out _).mono ?_; rintro e w' ⟨rfl, rfl⟩)
          go_ret2
          rw [← HD2.out]
          exact ⟨rfl, Below.refl _ _⟩
    · have hkk : s.data.toList.drop k = [] := drop_end s k (by omega)
      rw [hkk] at hd
      have HD2 := Lib.hid hd
      clear hd hkk
      go_wp2_with fail
      go_ret2
      rw [← HD2.out]
      exact ⟨rfl, Below.refl _ _⟩

end Go.Proofs.YtnfccckodgknjaaGreatDoor

namespace Go.Proofs.YtnfccckodgknjaaGreatDoor
open Go.RowKit
set_option maxHeartbeats 1000000
set_option maxRecDepth 100000

theorem bareP_eq (b : Int) : bareP b = (!(spB b) && !(b == 0) && !(b == 47) && !(b == 62)) := by
  have e : memB ⟨#[0, 47, 62]⟩ b = ((b == 0) || (b == 47) || (b == 62)) := by
    rw [Bool.eq_iff_iff]
    simp [memB]
    omega
  unfold bareP notIn
  rw [e]
  cases spB b <;> cases (b == 0) <;> cases (b == 47) <;> cases (b == 62) <;> rfl
theorem nameB_eq (b : Int) (h : b ≤ 255) : nameB b = !(!(alnB b) && !(b == 45) && !(b == 46) && !(b == 58) && !(b == 95) && decide (b < 128)) := by
  have e : memB ⟨#[45, 46, 58, 95]⟩ b = ((b == 45) || (b == 46) || (b == 58) || (b == 95)) := by
    rw [Bool.eq_iff_iff]
    simp [memB]
    omega
  have e2 : betB 128 255 b = !(decide (b < 128)) := by
    rw [Bool.eq_iff_iff]
    simp [betB]
    omega
  unfold nameB
  rw [e, e2]
  cases alnB b <;> cases (b == 45) <;> cases (b == 46) <;> cases (b == 58) <;> cases (b == 95) <;> cases decide (b < 128) <;> rfl
theorem startB_eq (b : Int) (h : b ≤ 255) : startB b = !(!(b == 58) && !(b == 95) && decide (b < 128)) := by
  have e : memB ⟨#[58, 95]⟩ b = ((b == 58) || (b == 95)) := by
    rw [Bool.eq_iff_iff]
    simp [memB]
    omega
  have e2 : betB 128 255 b = !(decide (b < 128)) := by
    rw [Bool.eq_iff_iff]
    simp [betB]
    omega
  unfold startB
  rw [e, e2]
  cases (b == 58) <;> cases (b == 95) <;> cases decide (b < 128) <;> rfl

theorem all_no (p : Int → Bool) (s : ByteArray) (k : Nat) (h : k < s.size) (hp : p ((s[k]'h).toNat : Int) = false) : allB p s = false := by
  unfold allB
  rw [List.all_eq_false]
  exact ⟨_, mem_byte s k h, by simp [hp]⟩
theorem all_take_yes (p : Int → Bool) (s : ByteArray) (k : Nat) (h : k < s.size) (hp : p ((s[k]'h).toNat : Int) = true) (ha : ((s.data.toList.take k).all fun b => p b.toNat) = true) : ((s.data.toList.take (k + 1)).all fun b => p b.toNat) = true := by
  rw [take_snoc s k h, List.all_append, ha]
  simp [hp]
theorem all_take_end (p : Int → Bool) (s : ByteArray) (k : Nat) (h : ¬ k < s.size) (ha : ((s.data.toList.take k).all fun b => p b.toNat) = true) : allB p s = true := by
  rw [List.take_of_length_le (by rw [size_list]; omega)] at ha
  exact ha

theorem rBare (s : ByteArray) (hs : s.size ≤ maxLen) (w : World) : Calls Tryz.prog 56 #[.string s] w fun e w' => e = .returned (.bool (allB bareP s)) ∧ w' = w := by
  unfold maxLen at hs
  go_enter Tryz.func56, Tryz.ntmps56
  go_wp2_with fail
  go_loop [3] (fun i => ∃ k : Nat, k ≤ s.size ∧ i = .int .i64 k ∧ ((s.data.toList.take k).all fun b => bareP b.toNat) = true) (fun i => s.size - (intOf i).toNat)
  case atStart => exact ⟨0, Nat.zero_le _, rfl, by simp⟩
  case round =>
    obtain ⟨k, hk, rfl, hall⟩ := hrel
    have HA := Lib.hid hall
    clear hall
    by_cases hlt : k < s.size
    · have hI : (k : Int) < (s.size : Int) := by omega
      cases hp : bareP ((s[k]'hlt).toNat : Int) with
      | true =>
        have HN := Lib.hid (all_take_yes bareP s k hlt hp HA.out)
        rw [bareP_eq] at hp
        simp only [Bool.and_eq_true, Bool.not_eq_true'] at hp
        obtain ⟨⟨⟨h1, h2⟩, h3⟩, h4⟩ := hp
        have H1 := Lib.hid h1
        clear h1
        go_wp2_with (go_at_call 70; refine (rSpace _ _).mono ?_; rw [H1.out]; rintro e w' ⟨rfl, rfl⟩)
        go_round
        case rel => exact ⟨k + 1, by omega, by go_num, HN.out⟩
        case measure => simp [intOf]; omega
      | false =>
        have HN := Lib.hid (all_no bareP s k hlt hp)
        rw [bareP_eq] at hp
        have HP := Lib.hid hp
        clear hp
        cases hsp : spB ((s[k]'hlt).toNat : Int) with
        | true =>
          have H1 := Lib.hid hsp
          clear hsp
          go_wp2_with (go_at_call 70; refine (rSpace _ _).mono ?_; rw [H1.out]; rintro e w' ⟨rfl, rfl⟩)
          go_ret
          exact ⟨ret_bool HN.out.symm, rfl⟩
        | false =>
          have H1 := Lib.hid hsp
          have hq := HP.out
          rw [hsp] at hq
          clear hsp
          cases h2 : (((s[k]'hlt).toNat : Int) == 0) <;> cases h3 : (((s[k]'hlt).toNat : Int) == 47) <;> cases h4 : (((s[k]'hlt).toNat : Int) == 62)
          case false.false.false => rw [h2, h3, h4] at hq; simp at hq
          all_goals
            clear hq
            go_wp2_with (go_at_call 70; refine (rSpace _ _).mono ?_; rw [H1.out]; rintro e w' ⟨rfl, rfl⟩)
            go_ret
            exact ⟨ret_bool HN.out.symm, rfl⟩
    · go_wp2_with fail
      go_ret
      exact ⟨ret_bool (all_take_end bareP s k hlt HA.out).symm, rfl⟩

theorem rHas (s : ByteArray) (c : Int) (hs : s.size ≤ maxLen) (w : World) : Calls Tryz.prog 15 #[.string s, .int .u8 c] w fun e w' => e = .returned (.bool !(allB (fun b => !(b == c)) s)) ∧ w' = w := by
  unfold maxLen at hs
  go_enter Tryz.func15, Tryz.ntmps15
  go_wp2_with fail
  go_loop [5] (fun i => ∃ k : Nat, k ≤ s.size ∧ i = .int .i64 k ∧ ((s.data.toList.take k).all fun b => !((b.toNat : Int) == c)) = true) (fun i => s.size - (intOf i).toNat)
  case atStart => exact ⟨0, Nat.zero_le _, rfl, by simp⟩
  case round =>
    obtain ⟨k, hk, rfl, hall⟩ := hrel
    have HA := Lib.hid hall
    clear hall
    by_cases hlt : k < s.size
    · have hI : (k : Int) < (s.size : Int) := by omega
      cases hp : (((s[k]'hlt).toNat : Int) == c) with
      | false =>
        have HN := Lib.hid (all_take_yes (fun b => !(b == c)) s k hlt (by simp only [hp]; rfl) HA.out)
        go_wp2_with fail
        go_round
        case rel => exact ⟨k + 1, by omega, by go_num, HN.out⟩
        case measure => simp [intOf]; omega
      | true =>
        have HN := Lib.hid (all_no (fun b => !(b == c)) s k hlt (by simp only [hp]; rfl))
        go_wp2_with fail
        go_ret
        exact ⟨ret_bool (by rw [HN.out]; rfl), rfl⟩
    · go_wp2_with fail
      go_ret
      exact ⟨ret_bool (by rw [all_take_end (fun b => !(b == c)) s k hlt HA.out]; rfl), rfl⟩
end Go.Proofs.YtnfccckodgknjaaGreatDoor

namespace Go.Proofs.YtnfccckodgknjaaGreatDoor
open Go.RowKit
set_option maxHeartbeats 1000000
set_option maxRecDepth 100000

theorem rest_list (s : ByteArray) : (s.extract 1 s.size).data.toList = s.data.toList.drop 1 := by
  rw [Lib.extract_data]
  exact List.take_of_length_le (by rw [List.length_drop, Array.length_toList]; exact Nat.le_refl _)
theorem tail_no (p : Int → Bool) (s : ByteArray) (j : Nat) (hj : 1 ≤ j) (h : j < s.size) (hp : p ((s[j]'h).toNat : Int) = false) : allB p (s.extract 1 s.size) = false := by
  unfold allB
  rw [rest_list, List.all_eq_false]
  refine ⟨s[j]'h, ?_, by simp [hp]⟩
  rw [List.mem_iff_getElem?]
  refine ⟨j - 1, ?_⟩
  rw [List.getElem?_drop, show 1 + (j - 1) = j by omega, Array.getElem?_toList]
  exact Array.getElem?_eq_getElem (xs := s.data) h
theorem tail_yes (p : Int → Bool) (s : ByteArray) (hp : ∀ j (h : j < s.size), 1 ≤ j → p ((s[j]'h).toNat : Int) = true) : allB p (s.extract 1 s.size) = true := by
  unfold allB
  rw [rest_list, List.all_eq_true]
  intro x hx
  obtain ⟨i, hi⟩ := List.mem_iff_getElem?.mp hx
  rw [List.getElem?_drop, Array.getElem?_toList] at hi
  obtain ⟨h, e⟩ := Array.getElem?_eq_some_iff.mp hi
  have := hp (1 + i) h (by omega)
  rw [← e]
  exact this
theorem vElem_let (s : ByteArray) (h0 : 0 < s.size) (hl : letB ((s[0]'h0).toNat : Int) = true) : vElem s = allB bareP s := by
  unfold vElem
  rw [dif_pos h0, if_pos hl]
  unfold allB
  rw [rest_list]
  have e := drop_byte s 0 h0
  rw [List.drop_zero] at e
  have hb : bareP ((s[0]'h0).toNat : Int) = true := by
    rw [bareP_eq]
    unfold letB at hl
    simp [spB] at hl ⊢
    omega
  conv => rhs; rw [e, List.all_cons, hb, Bool.true_and]
theorem vElem_oth (s : ByteArray) (h0 : 0 < s.size) (hl : letB ((s[0]'h0).toNat : Int) = false) : vElem s = (startB ((s[0]'h0).toNat : Int) && allB nameB (s.extract 1 s.size)) := by
  unfold vElem
  rw [dif_pos h0, if_neg (by simp [hl])]

end Go.Proofs.YtnfccckodgknjaaGreatDoor

namespace Go.Proofs.YtnfccckodgknjaaGreatDoor
open Go.RowKit
set_option maxHeartbeats 1000000
set_option maxRecDepth 100000

def vElemL : List UInt8 → Bool
  | [] => false
  | b :: t => if letB b.toNat then t.all (fun x => bareP x.toNat) else startB b.toNat && t.all (fun x => nameB x.toNat)
theorem vElem_list (s : ByteArray) : vElem s = vElemL s.data.toList := by
  by_cases h0 : 0 < s.size
  · have e := drop_byte s 0 h0
    rw [List.drop_zero] at e
    rw [e, vElemL]
    unfold vElem allB
    rw [dif_pos h0, rest_list]
  · have e : s.data.toList = [] := List.length_eq_zero_iff.1 (by rw [size_list]; omega)
    rw [e]
    unfold vElem
    rw [dif_neg h0]
    rfl
theorem up_cases (x : Int) : (65 ≤ x ∧ x ≤ 90 ∧ lowZ x = x + 32) ∨ lowZ x = x := by
  unfold lowZ upB
  split
  · rename_i h; simp at h; exact .inl ⟨h.1, h.2, rfl⟩
  · exact .inr rfl
theorem low_let (x : Int) : letB (lowZ x) = letB x := by
  rcases up_cases x with ⟨h1, h2, e⟩ | e
  · rw [e, Bool.eq_iff_iff]; simp [letB]; omega
  · rw [e]
theorem low_bare (x : Int) : bareP (lowZ x) = bareP x := by
  rcases up_cases x with ⟨h1, h2, e⟩ | e
  · rw [e, bareP_eq, bareP_eq, Bool.eq_iff_iff]; simp [spB]; omega
  · rw [e]
theorem low_name (x : Int) : nameB (lowZ x) = nameB x := by
  rcases up_cases x with ⟨h1, h2, e⟩ | e
  · have a1 : alnB (x + 32) = true := by simp [alnB, letB]; omega
    have a2 : alnB x = true := by simp [alnB, letB]; omega
    rw [e]
    unfold nameB
    rw [a1, a2]
    rfl
  · rw [e]
theorem low_start (x : Int) : startB (lowZ x) = startB x := by
  rcases up_cases x with ⟨h1, h2, e⟩ | e
  · rw [e, startB_eq _ (by omega), startB_eq _ (by omega), Bool.eq_iff_iff]; simp; omega
  · rw [e]
theorem all_low (p : Int → Bool) (hp : ∀ x : Int, p (lowZ x) = p x) (l : List UInt8) : (l.map lowU).all (fun x => p x.toNat) = l.all fun x => p x.toNat := by
  induction l with
  | nil => rfl
  | cons b t ih => rw [List.map_cons, List.all_cons, List.all_cons, ih, lowU_toNat, hp]
theorem vElem_low (s : ByteArray) : vElem (lowS s) = vElem s := by
  rw [vElem_list, vElem_list]
  have e : (lowS s).data.toList = s.data.toList.map lowU := by simp [lowS]
  rw [e]
  cases s.data.toList with
  | nil => rfl
  | cons b t =>
    rw [List.map_cons, vElemL, vElemL, all_low _ low_bare, all_low _ low_name, lowU_toNat, low_let, low_start]
theorem vElem_bad (s : ByteArray) (c : UInt8) (h1 : letB c.toNat = false) (h2 : startB c.toNat = false) (h3 : bareP c.toNat = false) (h4 : nameB c.toNat = false) : vElem (s ++ ⟨#[c]⟩) = false := by
  rw [vElem_list]
  have e : (s ++ ⟨#[c]⟩).data.toList = s.data.toList ++ [c] := by rw [ByteArray.data_append, Array.toList_append]
  rw [e]
  cases s.data.toList with
  | nil => simp [vElemL, h1, h2]
  | cons b t =>
    rw [List.cons_append, vElemL, List.all_append, List.all_append]
    simp [h3, h4]
theorem attrP_eq (b : Int) : attrP b = (bareP b && !(b == 61)) := by
  have e : memB ⟨#[0, 47, 61, 62]⟩ b = ((b == 0) || (b == 47) || (b == 61) || (b == 62)) := by
    rw [Bool.eq_iff_iff]
    simp [memB]
    omega
  unfold attrP notIn
  rw [e, bareP_eq]
  cases spB b <;> cases (b == 0) <;> cases (b == 47) <;> cases (b == 61) <;> cases (b == 62) <;> rfl
theorem all_attr (s : ByteArray) : allB attrP s = (allB bareP s && allB (fun b => !(b == 61)) s) := by
  unfold allB
  induction s.data.toList with
  | nil => rfl
  | cons b t ih =>
    rw [List.all_cons, List.all_cons, List.all_cons, ih, attrP_eq]
    generalize (t.all fun b => bareP b.toNat) = x
    generalize (t.all fun b => (fun b : Int => !(b == 61)) b.toNat) = y
    generalize bareP b.toNat = z
    show (z && !((b.toNat : Int) == 61) && (x && y)) = (z && x && (!((b.toNat : Int) == 61) && y))
    cases ((b.toNat : Int) == 61) <;> cases x <;> cases y <;> cases z <;> rfl
theorem vAttr_bad (s : ByteArray) : vAttr (s ++ ⟨#[61]⟩) = false := by
  unfold vAttr
  have e : allB attrP (s ++ ⟨#[61]⟩) = false := by
    unfold allB
    rw [ByteArray.data_append, Array.toList_append, List.all_append]
    have : attrP 61 = false := by rw [attrP_eq]; simp
    simp
    intro _
    exact this
  rw [e, Bool.and_false]

theorem rValidAttribute (s : ByteArray) (hs : s.size ≤ maxLen) (w : World) : Calls Tryz.prog 13 #[.string s] w fun e w' => e = .returned (.bool (vAttr s)) ∧ w' = w := by
  have HB := Lib.hid (rBare s hs)
  have HH := Lib.hid (rHas s 61 hs)
  unfold maxLen at hs
  have hv : vAttr s = (!s.toList.isEmpty && (allB bareP s && allB (fun b => !(b == 61)) s)) := by unfold vAttr; rw [all_attr]
  by_cases h0 : 0 < s.size
  · have hz : (0 : Int) < (s.size : Int) := by omega
    rw [show s.toList.isEmpty = false by simpa using toList_ne h0, Bool.not_false, Bool.true_and] at hv
    have HV := Lib.hid hv
    clear hv
    generalize allB (fun b => !(b == 61)) s = q at HH HV
    generalize allB bareP s = r at HB HV
    go_enter Tryz.func13, Tryz.ntmps13
    cases q <;> cases r
    all_goals
      go_wp2_with (first | (go_at_call 56; refine (HB.out _).mono ?_; rintro e w' ⟨rfl, rfl⟩) | (go_at_call 15; refine (HH.out _).mono ?_; rintro e w' ⟨rfl, rfl⟩))
      go_ret
      exact ⟨ret_bool HV.out.symm, rfl⟩
  · have hz : ¬ (0 : Int) < (s.size : Int) := by omega
    rw [toList_e h0] at hv
    have HV := Lib.hid hv
    clear hv
    go_enter Tryz.func13, Tryz.ntmps13
    go_wp2_with fail
    go_ret
    exact ⟨ret_bool HV.out.symm, rfl⟩

end Go.Proofs.YtnfccckodgknjaaGreatDoor

namespace Go.Proofs.YtnfccckodgknjaaGreatDoor
open Go.ChangeShapes Go.WideShapes Go.ChangeAt Go.RowKit
set_option maxRecDepth 100000

def laidC : List (String × DataW Unit) := [("unicode/utf8.acceptRanges", Rows.laid_unicode_utf8_acceptRanges), ("thicket/text.controls", Rows.laid_thicket_text_controls), ("unicode/utf8.first", Rows.laid_unicode_utf8_first)]
theorem doorC_os (os : Os) : (World.laidAll Tryz.prog os laidC).os = os := World.laidAll_os _ _ _
theorem doorC_met (os : Os) (args : Array Value) : laidMetH Tryz.prog laidC ((World.laidAll Tryz.prog os laidC).forCall (fun _ _ => 0) ⟨#[], args, []⟩).memory := by
  rw [MakeChecks.laidMetH_plain _ _ _ (by kernel_rfl)]
  exact laidMet_laidAll _ (by kernel_rfl) (by kernel_rfl)

theorem gCtl : Tryz.prog.globalNamed "thicket/text.controls" = some 0 := by kernel_rfl
theorem tCtl : (Tryz.prog.globals[0]?).map (·.type) = some 190 := by kernel_rfl
theorem cCtl : Tryz.prog.cellsOf 21 = 1 := by kernel_rfl
theorem ctlD : (Rows.laid_thicket_text_controls : DataW Unit) = .agg (ctlT.map fun z => .lit (.int .i32 z)) := rfl

theorem ctl_of_laid {W : World} (h : laidMetH Tryz.prog laidC W) : CtlW W := by
  rw [MakeChecks.laidMetH_plain _ _ _ (by kernel_rfl)] at h
  obtain ⟨ps, ⟨g0, t0, cs0, f0, p0, q0, hg0, ht0, hv0, hd0, ⟨g1, t1, cs1, f1, p1, q1, hg1, ht1, hv1, hd1, _, _⟩, _⟩, _⟩ := h
  obtain rfl := Option.some.inj (gCtl.symm.trans hg1)
  obtain rfl := Option.some.inj (tCtl.symm.trans ht1)
  obtain ⟨xs, m1, rfl, hx1, hlen, hn, hel⟩ := DataW.trod_array Tryz.underlying190 hd1
  intro k hk
  have h1 := hel k hk
  rw [cCtl, Nat.mul_one] at h1
  have hxk : xs[k]? = some (xs[k]'(by omega)) := List.getElem?_eq_getElem (by omega)
  rw [hxk] at h1
  obtain ⟨z, e1, e2, _⟩ := DataW.trod_int Tryz.underlying21 h1
  have hz : z = ctlT.getD k 0 := by
    have hx2 := congrArg Prod.fst hx1
    rw [ctlD] at hx2
    simp only [DataW.agg.injEq] at hx2
    have h3 : (ctlT.map fun z => (DataW.lit (.int .i32 z) : DataW Unit))[k]? = (xs.map (·.1))[k]? := by rw [hx2]
    rw [List.getElem?_map, List.getElem?_map, hxk, e2] at h3
    have hk2 : k < ctlT.length := hk
    rw [List.getElem?_eq_getElem hk2] at h3
    simp at h3
    rw [List.getD_eq_getElem?_getD, List.getElem?_eq_getElem hk2]
    simpa using h3.symm
  rw [World.var?_cell hg1 hv1 k, ← hz]
  have h4 : (cs1.toList.drop k)[0]? = some (.int .i32 z) := by
    have := congrArg (fun l => l[0]?) e1
    simp only [List.getElem?_take] at this
    simpa using this
  rw [List.getElem?_drop, Nat.add_zero, Array.getElem?_toList] at h4
  exact h4

/-- A row whose start is said to hold more, with the shapes and the listed variables at hand. -/
theorem handedC {H : Type} {enc : TypeId × Value → H} {a : Assume} {os : Os} {f : FuncId} {fn : Func} {s : ChangeSpec} {conds : List PathCond} {apart fresh handsOn again : Bool}
    (own : ownKnob Tryz.prog.godebug = none) (started : os.Started) (noInit : Tryz.prog.inits.idxOf? f = none) (hfn : Tryz.prog.funcs[f]? = some fn)
    (witness : ∃ (w : World) (tape : Tape) (i : Input), w.os = os ∧ (w.forCall tape i).Shaped Tryz.prog ∧ i.vars = [] ∧ Input.okWide Tryz.prog (w.forCall tape i) .any w.heap.size f i ∧
      ((s.pre enc Tryz.prog fn conds apart (w.forCall tape i).memory i.args ∧ laidMetH Tryz.prog laidC (w.forCall tape i).memory) ∧ sizedMet enc Tryz.prog fn (OpenSpec.ofChange s) apart (w.forCall tape i).memory i.args) ∧ a.holds Tryz.prog (lone (Frame.enter Tryz.prog f i.args .normal) [] (w.forCall tape i)))
    (walk : ∀ (W : World) (base : Nat) (args : Array Value) (ds gs : List (DataW H)) (before : List MemPlace),
      (∀ (j : Nat) t v, fn.params[j]? = some t → args[j]? = some v → Value.okWide Tryz.prog W .any base t v) →
      DataW.Whole enc Tryz.prog fn.params.toList s.vars apart W args.toList ds gs before → W.ShapedOpen Tryz.prog → CtlW W →
      Calls Tryz.prog f args W fun e W' => ∃ v, e = .returned v ∧ s.post enc Tryz.prog fn apart fresh handsOn again W args v W') :
    ReturnsInHanded a Tryz.checked os f .any (fun w args => (s.pre enc Tryz.prog fn conds apart w args ∧ laidMetH Tryz.prog laidC w) ∧ sizedMet enc Tryz.prog fn (OpenSpec.ofChange s) apart w args) (s.post enc Tryz.prog fn apart fresh handsOn again) := by
  refine returnsInHanded_of_calls (C := Tryz.checked) own started (by exact noInit) witness ?_
  intro w tape i _ hsh _ hok hpre _
  obtain ⟨_, _, _, fn', hfn', _, _, _, _, hval⟩ := hok
  obtain rfl : fn' = fn := Option.some.inj (hfn'.symm.trans hfn)
  obtain ⟨⟨⟨ds, gs, before, hw, _⟩, hX⟩, _⟩ := hpre
  refine (walk (w.forCall tape i) w.heap.size i.args ds gs before hval (DataW.Whole.of_heap (w' := w.forCall tape i) (by rfl) hw) hsh (ctl_of_laid (laidMetH.of_heap (w' := w.forCall tape i) (by rfl) hX))).mono fun e W' ⟨v, he, hp⟩ => ?_
  subst he
  exact ChangeSpec.post_blind hp
end Go.Proofs.YtnfccckodgknjaaGreatDoor
