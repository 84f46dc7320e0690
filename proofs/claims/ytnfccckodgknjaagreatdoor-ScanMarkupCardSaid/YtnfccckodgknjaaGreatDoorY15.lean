/-
  Which names are valid: ValidElement and ValidAttribute.
  ValidElement.
-/
import Derived.Test.YtnfccckodgknjaaGreatDoorY14
import Derived.Laws.EntriesVeiled
namespace Go.Proofs.YtnfccckodgknjaaGreatDoor
open Go.RowKit Go.Shelf
set_option maxHeartbeats 1000000

theorem at_union3 (w : World) (A B : Nat) (f1 f2 f3 : FuncId) (c1 c2 c3 : Array Value) (p1 p2 p3 : Int → Bool) (hA : A < w.heap.size) (hB : B < w.heap.size)
    (ha : w.cell? ⟨A, 0, none⟩ = some (.slice (some ⟨B, 0, none⟩) 3 3)) (hb0 : w.cell? ⟨B, 0, none⟩ = some (.func (.func f1) #[] c1)) (hb1 : w.cell? ⟨B, 1, none⟩ = some (.func (.func f2) #[] c2)) (hb2 : w.cell? ⟨B, 2, none⟩ = some (.func (.func f3) #[] c3))
    (h1 : ClassAt w f1 c1 p1) (h2 : ClassAt w f2 c2 p2) (h3 : ClassAt w f3 c3 p3) (hE1 : ∀ args w, (callFunc f1 args).run Tryz.prog w = .ok (.enter f1 args) w) (hE2 : ∀ args w, (callFunc f2 args).run Tryz.prog w = .ok (.enter f2 args) w) (hE3 : ∀ args w, (callFunc f3 args).run Tryz.prog w = .ok (.enter f3 args) w) :
    ClassAt w 189 #[.pointer (some ⟨A, 0, none⟩)] (fun r => p1 r || (p2 r || p3 r)) := by
  intro w' hw r hr0 hr1
  have ha' := (hw.cell (p := ⟨A, 0, none⟩) hA).trans ha
  have hb0' := (hw.cell (p := ⟨B, 0, none⟩) hB).trans hb0
  have hb1' := (hw.cell (p := ⟨B, 1, none⟩) hB).trans hb1
  have hb2' := (hw.cell (p := ⟨B, 2, none⟩) hB).trans hb2
  have hAs : A < w'.heap.size := Nat.lt_of_lt_of_le hA hw.size
  have hBs : B < w'.heap.size := Nat.lt_of_lt_of_le hB hw.size
  have K1 := Lib.hid (h1 w' hw r hr0 hr1)
  have K2 := Lib.hid (fun w2 (h : Below w'.heap.size w' w2) => h2 w2 (below_next hw h) r hr0 hr1)
  have K3 := Lib.hid (fun w2 (h : Below w'.heap.size w' w2) => h3 w2 (below_next hw h) r hr0 hr1)
  clear ha hb0 hb1 hb2 h1 h2 h3 hw hA hB
  show Calls _ _ #[_, _] _ _
  go_enter Tryz.func189, Tryz.ntmps189
  go_wp2
  refine wp_loop_rounds 4 ?_
  cases e1 : p1 r with
  | true =>
    rw [e1] at K1
    have E1 := Lib.hid e1
    clear e1
    rw [rounds_succ]
    go_wp2_with fail
    refine K1.out.mono ?_
    rintro e w1 ⟨rfl, hb⟩
    go_wp2
    go_ret
    exact ⟨ret_bool (by simp [E1.out]), hb⟩
  | false =>
    rw [e1] at K1
    have E1 := Lib.hid e1
    clear e1
    rw [rounds_succ]
    go_wp2_with fail
    refine K1.out.mono ?_
    rintro e w1 ⟨rfl, hb⟩
    have hb1'' := (hb.cell (p := ⟨B, 1, none⟩) hBs).trans hb1'
    go_wp2
    rw [rounds_succ]
    go_wp2_with fail
    refine (K2.out w1 hb).mono ?_
    rintro e w2 ⟨rfl, hb2⟩
    have hb3 := below_next hb hb2
    have hb2'' := (hb3.cell (p := ⟨B, 2, none⟩) hBs).trans hb2'
    cases e2 : p2 r with
    | true =>
      go_wp2
      go_ret
      exact ⟨ret_bool (by simp [E1.out, e2]), hb3⟩
    | false =>
      have E2 := Lib.hid e2
      clear e2
      go_wp2
      rw [rounds_succ]
      go_wp2_with fail
      refine (K3.out w2 hb3).mono ?_
      rintro e w3 ⟨rfl, hb4⟩
      cases e3 : p3 r with
      | true =>
        go_wp2
        go_ret
        exact ⟨ret_bool (by simp [E1.out, E2.out, e3]), below_next hb3 hb4⟩
      | false =>
        go_wp2
        rw [rounds_succ]
        go_wp2
        go_ret
        exact ⟨ret_bool (by simp [E1.out, E2.out, e3]), below_next hb3 hb4⟩

def notIn (cs : ByteArray) (r : Int) : Bool := !(spB r || memB cs r)

theorem at_names (w : World) (cs : ByteArray) (hs : cs.size ≤ 100) (ha : Asc cs) (lo hi : Int) (L H : Nat) (hL : L < w.heap.size) (hH : H < w.heap.size) (hl : w.cell? ⟨L, 0, none⟩ = some (.int .i32 lo)) (hh : w.cell? ⟨H, 0, none⟩ = some (.int .i32 hi)) :
    ClassAt (((w.alloc (.cells #[.string cs] 9)).alloc (.cells #[.func (.func 102) #[] #[], .func (.func 225) #[] #[.pointer (some ⟨w.heap.size, 0, none⟩)], .func (.func 190) #[] #[.pointer (some ⟨L, 0, none⟩), .pointer (some ⟨H, 0, none⟩)]] 130)).alloc
        (.cells #[.slice (some ⟨w.heap.size + 1, 0, none⟩) 3 3] 170)) 189 #[.pointer (some ⟨w.heap.size + 1 + 1, 0, none⟩)] (fun r => alnB r || (memB cs r || betB lo hi r)) := by
  have hLn : L ≠ w.heap.size := by omega
  have hHn : H ≠ w.heap.size := by omega
  refine at_union3 _ (w.heap.size + 1 + 1) (w.heap.size + 1) _ _ _ _ _ _ _ _ _ (by simp <;> omega) (by simp <;> omega) (by simp [go_sem]) (by simp [go_sem]) (by simp [go_sem]) (by simp [go_sem]) (at_alnum _) (at_listed _ cs hs ha w.heap.size (by simp <;> omega) (by simp [go_sem])) (at_between _ lo hi L H (by simp <;> omega) (by simp <;> omega) ?_ ?_) ?_ ?_ ?_
  · rw [World.cell?_alloc_past _ _ _ (by simp; omega), World.cell?_alloc_past _ _ _ (by simp; omega), World.cell?_alloc_past _ _ _ hL]; exact hl
  · rw [World.cell?_alloc_past _ _ _ (by simp; omega), World.cell?_alloc_past _ _ _ (by simp; omega), World.cell?_alloc_past _ _ _ hH]; exact hh
  · exact enters_of Tryz.func102 (by kernel_rfl) rfl
  · exact enters_of Tryz.func225 (by kernel_rfl) rfl
  · exact enters_of Tryz.func190 (by kernel_rfl) rfl

theorem at_starts (w : World) (cs : ByteArray) (hs : cs.size ≤ 100) (ha : Asc cs) (lo hi : Int) (L H : Nat) (hL : L < w.heap.size) (hH : H < w.heap.size) (hl : w.cell? ⟨L, 0, none⟩ = some (.int .i32 lo)) (hh : w.cell? ⟨H, 0, none⟩ = some (.int .i32 hi)) :
    ClassAt (((w.alloc (.cells #[.string cs] 9)).alloc (.cells #[.func (.func 225) #[] #[.pointer (some ⟨w.heap.size, 0, none⟩)], .func (.func 190) #[] #[.pointer (some ⟨L, 0, none⟩), .pointer (some ⟨H, 0, none⟩)]] 130)).alloc
        (.cells #[.slice (some ⟨w.heap.size + 1, 0, none⟩) 2 2] 170)) 189 #[.pointer (some ⟨w.heap.size + 1 + 1, 0, none⟩)] (fun r => memB cs r || betB lo hi r) := by
  refine at_union2 _ (w.heap.size + 1 + 1) (w.heap.size + 1) _ _ _ _ _ _ (by simp <;> omega) (by simp <;> omega) (by simp [go_sem]) (by simp [go_sem]) (by simp [go_sem]) (at_listed _ cs hs ha w.heap.size (by simp <;> omega) (by simp [go_sem])) (at_between _ lo hi L H (by simp <;> omega) (by simp <;> omega) ?_ ?_) ?_ ?_
  · rw [World.cell?_alloc_past _ _ _ (by simp; omega), World.cell?_alloc_past _ _ _ (by simp; omega), World.cell?_alloc_past _ _ _ hL]; exact hl
  · rw [World.cell?_alloc_past _ _ _ (by simp; omega), World.cell?_alloc_past _ _ _ (by simp; omega), World.cell?_alloc_past _ _ _ hH]; exact hh
  · exact enters_of Tryz.func225 (by kernel_rfl) rfl
  · exact enters_of Tryz.func190 (by kernel_rfl) rfl

def attrP : Int → Bool := notIn ⟨#[0, 47, 61, 62]⟩
def vAttr (s : ByteArray) : Bool := !s.toList.isEmpty && allB attrP s
theorem toList_ne {s : ByteArray} (h0 : 0 < s.size) : ¬ s.toList = [] := fun e => by
  rw [ByteArray.toList_eq] at e
  have h1 : s.data.toList.length = 0 := by rw [e]; rfl
  rw [Array.length_toList] at h1
  exact absurd h1 (by have : s.data.size = s.size := rfl; omega)
theorem toList_e {s : ByteArray} (h0 : ¬ 0 < s.size) : s.toList = [] := by
  rw [ByteArray.toList_eq]
  have : s.data.toList.length = 0 := by rw [Array.length_toList]; have : s.data.size = s.size := rfl; omega
  exact List.length_eq_zero_iff.1 this

end Go.Proofs.YtnfccckodgknjaaGreatDoor

namespace Go.Proofs.YtnfccckodgknjaaGreatDoor
open Go.RowKit Go.Shelf
set_option maxHeartbeats 2000000

def nameB (r : Int) : Bool := alnB r || (memB ⟨#[45, 46, 58, 95]⟩ r || betB 128 255 r)
def bareP : Int → Bool := notIn ⟨#[0, 47, 62]⟩
def startB (r : Int) : Bool := memB ⟨#[58, 95]⟩ r || betB 128 255 r
def vElem (s : ByteArray) : Bool := if h : 0 < s.size then (if letB (s[0]'h).toNat then allB bareP (s.extract 1 s.size) else startB (s[0]'h).toNat && allB nameB (s.extract 1 s.size)) else false

end Go.Proofs.YtnfccckodgknjaaGreatDoor
