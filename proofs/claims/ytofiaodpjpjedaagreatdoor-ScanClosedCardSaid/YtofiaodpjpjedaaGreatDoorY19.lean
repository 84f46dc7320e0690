/-
  The scanner's classes, and the cursor over them.
-/
import Derived.Test.YtofiaodpjpjedaaGreatDoorY14
import Derived.Test.YtofiaodpjpjedaaGreatDoorY18
namespace Go.Proofs.YtofiaodpjpjedaaGreatDoor
open Go.RowKit Go.Shelf
set_option maxHeartbeats 1000000
set_option maxRecDepth 100000

theorem strNe {s : ByteArray} (h0 : 0 < s.size) : ¬ s.toList = [] := fun e => by
  rw [ByteArray.toList_eq] at e
  have h1 : s.data.toList.length = 0 := by rw [e]; rfl
  rw [Array.length_toList] at h1
  exact absurd h1 (by have : s.data.size = s.size := rfl; omega)
theorem strE {s : ByteArray} (h0 : ¬ 0 < s.size) : s.toList = [] := by
  rw [ByteArray.toList_eq]
  have : s.data.toList.length = 0 := by rw [Array.length_toList]; have : s.data.size = s.size := rfl; omega
  exact List.length_eq_zero_iff.1 this
def gtB (r : Int) : Bool := decide (r = 62)
def quB (r : Int) : Bool := decide (r = 34) || decide (r = 39)
def ewB (r : Int) : Bool := spB r || gtB r
def enB (r : Int) : Bool := ewB r || decide (r = 47)

theorem notSpace1 (r : Int) (w : World) : Calls Tryz.prog 125 #[.int .i32 r] w fun e w' => e = .returned (.bool (!spB r)) ∧ Below w.heap.size w w' := by
  have HS := Lib.hid (isSpace r)
  go_enter Tryz.func125, Tryz.ntmps125
  generalize spB r = x at HS ⊢
  go_wp2_with fail
  refine (HS.out _).mono ?_
  rintro e w2 ⟨rfl, hb2⟩
  go_wp2_with fail
  go_ret
  exact ⟨rfl, hb2⟩

theorem isGreater (r : Int) (w : World) : Calls Tryz.prog 127 #[.int .i32 r] w fun e w' => e = .returned (.bool (gtB r)) ∧ Below w.heap.size w w' := by
  go_enter Tryz.func127, Tryz.ntmps127
  go_wp2
  go_ret
  exact ⟨ret_bool (by unfold gtB; rw [Bool.eq_iff_iff]; simp), by (repeat' (first | (with_reducible exact Below.refl _ _) | (with_reducible assumption) | (with_reducible refine below_alloc ?_ _) | (with_reducible refine Below.drew ?_) | (with_reducible refine _root_.Go.below_drewN ?_ _) | (with_reducible refine Below.setCell ?_ ?_ _) | go_size | (refine below_next ?_ (by assumption))))⟩

theorem isQuote (r : Int) (w : World) : Calls Tryz.prog 73 #[.int .i32 r] w fun e w' => e = .returned (.bool (quB r)) ∧ Below w.heap.size w w' := by
  have e1 : (r == 34) = decide (r = 34) := by rw [Bool.eq_iff_iff]; simp
  have e2 : (r == 39) = decide (r = 39) := by rw [Bool.eq_iff_iff]; simp
  go_enter Tryz.func73, Tryz.ntmps73
  cases h1 : decide (r = 34) <;> cases h2 : decide (r = 39)
  all_goals
    rw [h1] at e1
    rw [h2] at e2
    go_wp2
    go_ret
    exact ⟨ret_bool (by simp [quB, h1, h2]), by (repeat' (first | (with_reducible exact Below.refl _ _) | (with_reducible assumption) | (with_reducible refine below_alloc ?_ _) | (with_reducible refine Below.drew ?_) | (with_reducible refine _root_.Go.below_drewN ?_ _) | (with_reducible refine Below.setCell ?_ ?_ _) | go_size | (refine below_next ?_ (by assumption))))⟩

theorem endsWord (r : Int) (w : World) : Calls Tryz.prog 76 #[.int .i32 r] w fun e w' => e = .returned (.bool (ewB r)) ∧ Below w.heap.size w w' := by
  have HS := Lib.hid (isSpace r)
  have HG := Lib.hid (isGreater r)
  unfold ewB
  go_enter Tryz.func76, Tryz.ntmps76
  generalize gtB r = y at HG ⊢
  cases hx : spB r
  all_goals
    rw [hx] at HS
    clear hx
    go_wp2_with fail
    refine (HS.out _).mono ?_
    rintro e w2 ⟨rfl, hb2⟩
    go_wp2_with fail
  · refine (HG.out _).mono ?_
    rintro e w3 ⟨rfl, hb3⟩
    go_wp2_with fail
    go_ret
    exact ⟨rfl, below_next hb2 hb3⟩
  · go_ret
    exact ⟨rfl, hb2⟩

theorem curSpaces (b : Nat) (c : Array Value) (T : TypeId) (s : ByteArray) (k : Nat) (hk : k ≤ s.size) (hs : s.size ≤ 1000000000) (w : World) (h : At w b c T s k) :
    Calls Tryz.prog 72 #[.pointer (some ⟨b, 0, none⟩)] w fun e w' => ∃ N : Nat, N = runN (qOf fun r => !spB r) (s.data.toList.drop k) ∧ k + N ≤ s.size ∧
      e = .returned (.bool (decide (0 < N))) ∧ At w' b (mv c (k + N)) T s (k + N) ∧ But b w w' := by
  have HU := Lib.hid (curUntil 125 #[] (fun args w => enters_of Tryz.func125 (by kernel_rfl) rfl args w) (fun r => !spB r) true (fun r h1 h2 => by simp [spB]; omega)
    b c T s k hk hs w (fun W x hx hb => notSpace1 x W) h)
  clear hk hs
  go_enter Tryz.func72, Tryz.ntmps72
  go_wp2_with fail
  refine HU.out.mono ?_
  rintro e w2 ⟨N, h1, h2, rfl, h3, h4⟩
  have hsz : (s.extract k (k + N)).size = N := by rw [ByteArray.size_extract]; omega
  have HN := Lib.hid h1
  have HK := Lib.hid h2
  by_cases h0 : 0 < N
  · have hne := strNe (s := s.extract k (k + N)) (by omega)
    have hne3 : ((s.extract k (k + N)).toList == []) = false := by simpa using hne
    have HD := Lib.hid (decide_eq_true h0)
    clear h1 h2 hsz h0
    go_wp2_with fail
    go_ret
    exact ⟨N, HN.out, HK.out, by rw [HD.out]; rfl, h3, h4⟩
  · have he := strE (s := s.extract k (k + N)) (by omega)
    have HD := Lib.hid (decide_eq_false h0)
    clear h1 h2 hsz h0
    go_wp2_with fail
    go_ret
    exact ⟨N, HN.out, HK.out, by rw [HD.out]; rfl, h3, h4⟩
end Go.Proofs.YtofiaodpjpjedaaGreatDoor
