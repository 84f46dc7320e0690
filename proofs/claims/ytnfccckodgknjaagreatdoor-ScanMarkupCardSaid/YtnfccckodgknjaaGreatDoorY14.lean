/-
  'every': whether a class has every byte of a string.
-/
import Derived.Test.YtnfccckodgknjaaGreatDoorY13
import Derived.Test.YtnfccckodgknjaaGreatDoorY05
import Derived.Shelf.Abstract
namespace Go.Proofs.YtnfccckodgknjaaGreatDoor
open Go.RowKit Go.Shelf
set_option maxHeartbeats 1000000

/-- Has the class every byte? -/
def allB (p : Int → Bool) (s : ByteArray) : Bool := s.data.toList.all fun b => p b.toNat

/-- A function value that answers p at every byte, in every later world. -/
def ClassAt (w : World) (f : FuncId) (caps : Array Value) (p : Int → Bool) : Prop :=
  ∀ w', Below w.heap.size w w' → ∀ r : Int, 0 ≤ r → r ≤ 255 → Calls Tryz.prog f (#[.int .i32 r] ++ caps) w' fun e w'' => e = .returned (.bool (p r)) ∧ Below w'.heap.size w' w''

theorem take_snoc (s : ByteArray) (k : Nat) (h : k < s.size) : s.data.toList.take (k + 1) = s.data.toList.take k ++ [s[k]] := by
  rw [List.take_succ_eq_append_getElem (by simpa using h)]; rfl

theorem ClassAt.mono {w w1 : World} {f : FuncId} {caps : Array Value} {p : Int → Bool} (h : ClassAt w f caps p) (hb : Below w.heap.size w w1) : ClassAt w1 f caps p :=
  fun w' hw => h w' (below_next hb hw)

theorem at_space (w : World) : ClassAt w 125 #[] spB := fun w' _ r _ _ => isSpace r w'
theorem at_alnum (w : World) : ClassAt w 102 #[] alnB := fun w' _ r _ _ => isAlnum r w'
theorem at_listed (w : World) (s : ByteArray) (hs : s.size ≤ 100) (ha : Asc s) (A : Nat) (hA : A < w.heap.size) (hc : w.cell? ⟨A, 0, none⟩ = some (.string s)) : ClassAt w 225 #[.pointer (some ⟨A, 0, none⟩)] (memB s) :=
  fun w' hw r _ _ => listed1 s hs ha r _ w' ((hw.cell (p := ⟨A, 0, none⟩) hA).trans hc)

def betB (lo hi r : Int) : Bool := decide (lo ≤ r) && decide (r ≤ hi)
theorem at_between (w : World) (lo hi : Int) (A B : Nat) (hA : A < w.heap.size) (hB : B < w.heap.size) (hc : w.cell? ⟨A, 0, none⟩ = some (.int .i32 lo)) (hd : w.cell? ⟨B, 0, none⟩ = some (.int .i32 hi)) :
    ClassAt w 190 #[.pointer (some ⟨A, 0, none⟩), .pointer (some ⟨B, 0, none⟩)] (betB lo hi) := by
  intro w' hw r _ _
  have h1 := (hw.cell (p := ⟨A, 0, none⟩) hA).trans hc
  have h2 := (hw.cell (p := ⟨B, 0, none⟩) hB).trans hd
  clear hc hd hw
  show Calls _ _ #[_, _, _] _ _
  by_cases c1 : lo ≤ r
  · by_cases c2 : r ≤ hi
    · go_enter Tryz.func190, Tryz.ntmps190
      go_wp2
      go_ret
      exact ⟨ret_bool (by simp [betB, c1, c2]), by (repeat' (first | (with_reducible exact Below.refl _ _) | (with_reducible assumption) | (with_reducible refine below_alloc ?_ _) | (with_reducible refine Below.drew ?_) | (with_reducible refine _root_.Go.below_drewN ?_ _) | (with_reducible refine Below.setCell ?_ ?_ _) | go_size | (refine below_next ?_ (by assumption))))⟩
    · go_enter Tryz.func190, Tryz.ntmps190
      go_wp2
      go_ret
      exact ⟨ret_bool (by simp [betB, c1, c2]), by (repeat' (first | (with_reducible exact Below.refl _ _) | (with_reducible assumption) | (with_reducible refine below_alloc ?_ _) | (with_reducible refine Below.drew ?_) | (with_reducible refine _root_.Go.below_drewN ?_ _) | (with_reducible refine Below.setCell ?_ ?_ _) | go_size | (refine below_next ?_ (by assumption))))⟩
  · go_enter Tryz.func190, Tryz.ntmps190
    go_wp2
    go_ret
    exact ⟨ret_bool (by simp [betB]; omega), by (repeat' (first | (with_reducible exact Below.refl _ _) | (with_reducible assumption) | (with_reducible refine below_alloc ?_ _) | (with_reducible refine Below.drew ?_) | (with_reducible refine _root_.Go.below_drewN ?_ _) | (with_reducible refine Below.setCell ?_ ?_ _) | go_size | (refine below_next ?_ (by assumption))))⟩

theorem at_union2 (w : World) (A B : Nat) (f1 f2 : FuncId) (c1 c2 : Array Value) (p1 p2 : Int → Bool) (hA : A < w.heap.size) (hB : B < w.heap.size)
    (ha : w.cell? ⟨A, 0, none⟩ = some (.slice (some ⟨B, 0, none⟩) 2 2)) (hb0 : w.cell? ⟨B, 0, none⟩ = some (.func (.func f1) #[] c1)) (hb1 : w.cell? ⟨B, 1, none⟩ = some (.func (.func f2) #[] c2))
    (h1 : ClassAt w f1 c1 p1) (h2 : ClassAt w f2 c2 p2) (hE1 : ∀ args w, (callFunc f1 args).run Tryz.prog w = .ok (.enter f1 args) w) (hE2 : ∀ args w, (callFunc f2 args).run Tryz.prog w = .ok (.enter f2 args) w) :
    ClassAt w 189 #[.pointer (some ⟨A, 0, none⟩)] (fun r => p1 r || p2 r) := by
  intro w' hw r hr0 hr1
  have ha' := (hw.cell (p := ⟨A, 0, none⟩) hA).trans ha
  have hb0' := (hw.cell (p := ⟨B, 0, none⟩) hB).trans hb0
  have hb1' := (hw.cell (p := ⟨B, 1, none⟩) hB).trans hb1
  have hAs : A < w'.heap.size := Nat.lt_of_lt_of_le hA hw.size
  have hBs : B < w'.heap.size := Nat.lt_of_lt_of_le hB hw.size
  have K1 := Lib.hid (h1 w' hw r hr0 hr1)
  have K2 := Lib.hid (fun w2 (h : Below w'.heap.size w' w2) => h2 w2 (below_next hw h) r hr0 hr1)
  clear ha hb0 hb1 h1 h2 hw hA hB
  show Calls _ _ #[_, _] _ _
  go_enter Tryz.func189, Tryz.ntmps189
  go_wp2
  refine wp_loop_rounds 3 ?_
  cases e1 : p1 r with
  | true =>
    rw [e1] at K1
    have E1 := Lib.hid e1
    clear e1
    rw [rounds_succ]
    go_wp2_with fail
    refine K1.out.mono ?_
    rintro e w1 ⟨rfl, hb⟩
    go_wp2
    go_ret
    exact ⟨ret_bool (by simp [E1.out]), hb⟩
  | false =>
    rw [e1] at K1
    have E1 := Lib.hid e1
    clear e1
    rw [rounds_succ]
    go_wp2_with fail
    refine K1.out.mono ?_
    rintro e w1 ⟨rfl, hb⟩
    have hb1'' := (hb.cell (p := ⟨B, 1, none⟩) hBs).trans hb1'
    go_wp2
    rw [rounds_succ]
    go_wp2_with fail
    refine (K2.out w1 hb).mono ?_
    rintro e w2 ⟨rfl, hb2⟩
    cases e2 : p2 r with
    | true =>
      go_wp2
      go_ret
      exact ⟨ret_bool (by simp [E1.out, e2]), below_next hb hb2⟩
    | false =>
      go_wp2
      rw [rounds_succ]
      go_wp2
      go_ret
      exact ⟨ret_bool (by simp [E1.out, e2]), below_next hb hb2⟩
end Go.Proofs.YtnfccckodgknjaaGreatDoor
