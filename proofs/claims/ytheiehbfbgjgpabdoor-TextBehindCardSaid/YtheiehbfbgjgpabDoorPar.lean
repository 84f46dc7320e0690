/-
  parse: an entry's name and its codes.
-/
import Derived.Test.YtheiehbfbgjgpabDoorRfa
import Derived.Test.YtheiehbfbgjgpabDoorEsc
namespace Go.Proofs.YtheiehbfbgjgpabDoor
open Go.RowKit
set_option maxHeartbeats 1000000
set_option maxRecDepth 100000

def nameOf (l : List UInt8) : List UInt8 := l.takeWhile fun b => b != 61
def codesOf (l : List UInt8) : List UInt8 := (l.dropWhile fun b => b != 61).drop 1

theorem cut_eq (l : List UInt8) : (Lib.cut l [61]).1 = nameOf l ∧ (Lib.cut l [61]).2.1 = codesOf l := by
  have key : ∀ l : List UInt8, (Lib.index l [61] = -1 ∧ nameOf l = l ∧ codesOf l = []) ∨ ∃ i : Nat, Lib.index l [61] = i ∧ l.take i = nameOf l ∧ l.drop (i + 1) = codesOf l := by
    intro l
    induction l with
    | nil => exact .inl ⟨rfl, rfl, rfl⟩
    | cons b t ih =>
      by_cases hb : b = 61
      · subst hb
        exact .inr ⟨0, rfl, rfl, rfl⟩
      · have e : Lib.index (b :: t) [61] = if Lib.index t [61] == -1 then -1 else Lib.index t [61] + 1 := by
          show (if ([61] : List UInt8).isPrefixOf (b :: t) then (0 : Int) else _) = _
          rw [if_neg (by simp [List.isPrefixOf]; exact fun h => hb h.symm)]
        have hb' : (b != 61) = true := by simpa using hb
        have e1 : nameOf (b :: t) = b :: nameOf t := by simp [nameOf, hb']
        have e2 : codesOf (b :: t) = codesOf t := by simp [codesOf, hb']
        rcases ih with ⟨h1, h2, h3⟩ | ⟨i, h1, h2, h3⟩
        · exact .inl ⟨by rw [e, h1]; rfl, by rw [e1, h2], by rw [e2, h3]⟩
        · exact .inr ⟨i + 1, by rw [e, h1, if_neg (by simp)]; rfl, by rw [e1, ← h2]; rfl, by rw [e2, ← h3]; rfl⟩
  unfold Lib.cut
  rcases key l with ⟨h1, h2, h3⟩ | ⟨i, h1, h2, h3⟩
  · rw [h1, if_neg (by decide)]
    exact ⟨h2.symm, h3.symm⟩
  · rw [h1, if_pos (by omega)]
    exact ⟨h2, h3⟩

theorem cutCall (s : ByteArray) (hs : s.size ≤ 100000) (m : Int) (w : World) (hm : w.cell? ⟨1, 0, none⟩ = some (.int .i64 m)) :
    Calls Tryd.prog 80 #[.string s, .string ⟨#[61]⟩] w fun e w' => ∃ (A B : ByteArray) (f : Bool) (n : Nat), e = .returned (.tuple #[.string A, .string B, .bool f]) ∧ A.data.toList = nameOf s.data.toList ∧ B.data.toList = codesOf s.data.toList ∧ w' = w.drewN n := by
  refine (Tryd.strings_Cut s ⟨#[61]⟩ m w (by omega) hm).mono ?_
  rintro e w' ⟨rfl, n, rfl⟩
  obtain ⟨c1, c2⟩ := cut_eq s.data.toList
  exact ⟨_, _, _, n, rfl, c1, c2, rfl⟩

theorem parse (s : ByteArray) (hs : s.size ≤ 100000) (m : Int) (w : World) (hm : w.cell? ⟨1, 0, none⟩ = some (.int .i64 m)) :
    Calls Tryd.prog 50 #[.string s] w fun e w' => ∃ A B : ByteArray, e = .returned (.agg #[.string A, .string B]) ∧ A.data.toList = nameOf s.data.toList ∧ B.data.toList = codesOf s.data.toList ∧ Below w.heap.size w w' := by
  have HC := Lib.hid (cutCall s hs m (w.alloc (.cells #[.string ⟨#[]⟩, .string ⟨#[]⟩] 63)) (carry hm (below_alloc (Below.refl _ _) _)))
  go_enter Tryd.func50, Tryd.ntmps50
  go_wp2_with fail
  refine HC.out.mono ?_
  rintro e w' ⟨A, B, f, n, rfl, hA, hB, rfl⟩
  have HA := Lib.hid hA
  have HB := Lib.hid hB
  clear hA hB
  go_wp2
  go_outline
  refine bodyPost_ret (v := .agg #[.string A, .string B]) (by simp [results, Tryd.results50, go_sem]) rfl ⟨A, B, rfl, HA.out, HB.out, by (repeat' (first | (with_reducible exact Below.refl _ _) | (with_reducible assumption) | (with_reducible refine below_alloc ?_ _) | (with_reducible refine Below.drew ?_) | (with_reducible refine below_drewN ?_ _) | (with_reducible refine Below.setCell ?_ ?_ _) | go_size | (refine below_next ?_ (by assumption))))⟩

end Go.Proofs.YtheiehbfbgjgpabDoor
