/-
  The document's own lower case.
-/
import Derived.Test.YtdphkjhfeobhaaaDoorRel
import Derived.OwnWalk
namespace Go.Proofs.YtdphkjhfeobhaaaDoor
open Go.RowKit
set_option maxHeartbeats 1000000
set_option maxRecDepth 100000

theorem info_u8 : (Tryd.prog.info? 5).map (fun i => (i.zero, i.size, i.bytes)) = some (some (.int .u8 0), 1, 1) := by kernel_rfl
def u8c (l : List UInt8) : List Value := l.map fun b => Value.int .u8 b.toNat

theorem own_grown {w wr w1 : World} {o : Obj} {v : Value} {n e size : Nat} {xs : List Value} {row : Option Nat} (hB : Below w.heap.size w wr) (hown : wr.ownsRow w.heap.size e size v n xs) (hrow : v.ownBlock = row) (hg : (wr.alloc o).grownBy w1 row) : Below w.heap.size w w1 :=
  Below.grown (hB.alloc hB.size _) hg (by have := hB.size; simp; omega) (fun j hj => (hown.lt j (hrow.trans hj)).1)

/-- The string of the bytes that a slice owns. -/
theorem bytes_back {wr : World} {B : Nat} {v : Value} {l : List UInt8} (hown : wr.ownsRow B 5 1 v l.length (u8c l)) : (convert 32 9 v).run Tryd.prog wr = .ok (.string ⟨l.toArray⟩) wr := by
  rcases hown.2 with ⟨rfl, h0⟩ | ⟨g, cap, cur, rfl, _⟩
  · have : l = [] := List.length_eq_zero_iff.1 h0
    subst this
    exact run_convert_bytes_nil _ _ _ Tryd.underlying32 Tryd.underlying5 0 0 _ Tryd.underlying9
  · refine run_convert_bytes_back wr _ _ 5 ⟨g, 0, none⟩ cap l Tryd.underlying32 Tryd.underlying5 Tryd.underlying9 ?_
    intro j hj
    refine hown.cells rfl j _ ?_
    simp [u8c, hj]

theorem rLower (s : ByteArray) (hs : s.size ≤ 200000) (w : World) :
    Calls Tryd.prog 49 #[.string s] w fun e w' => e = .returned (.string (lowS s)) ∧ Below w.heap.size w w' := by
  obtain ⟨i0, hi, hz0, hz1, hz2⟩ := info_parts info_u8
  go_enter Tryd.func49, Tryd.ntmps49
  go_wp2_with fail
  go_loopw [3, 4] (fun v i wr => ∃ k : Nat, k ≤ s.size ∧ i = .int .i64 k ∧ wr.ownsRow w.heap.size 5 1 v k (u8c ((s.data.toList.map lowU).take k)) ∧ Below w.heap.size w wr) (fun _ i _ => s.size - (intOf i).toNat)
  case atStart => exact ⟨0, Nat.zero_le _, rfl, World.ownsRow_nil _ _ _ _, Below.refl _ _⟩
  case round =>
    obtain ⟨k, hk, rfl, hown, hB⟩ := hrel
    by_cases hlt : k < s.size
    · have hb0 : (0 : Int) ≤ ((s[k]'hlt).toNat : Int) := by omega
      have hb1 : ((s[k]'hlt).toNat : Int) ≤ 255 := by have := (s[k]'hlt).toNat_lt; omega
      have hI : (k : Int) < (s.size : Int) := by omega
      have hsz := hB.size
      have hnext : u8c ((s.data.toList.map lowU).take (k + 1)) = u8c ((s.data.toList.map lowU).take k) ++ [.int .u8 (lowZ ((s[k]'hlt).toNat : Int))] := by
        have e : (s.data.toList.map lowU)[k]? = some (lowU (s[k]'hlt)) := by
          rw [List.getElem?_map, Array.getElem?_toList]
          have : s.data[k]? = some (s[k]'hlt) := Array.getElem?_eq_getElem (xs := s.data) hlt
          rw [this]; rfl
        rw [List.take_add_one, e]
        simp [u8c, lowU_toNat]
      have HNX := Lib.hid hnext
      clear hnext
      cases hu : upB ((s[k]'hlt).toNat : Int) with
      | true =>
        have hl : lowZ ((s[k]'hlt).toNat : Int) = ((s[k]'hlt).toNat : Int) + 32 := by unfold lowZ; rw [if_pos hu]
        have hb2 : ((s[k]'hlt).toNat : Int) ≤ 90 := by unfold upB at hu; simp at hu; omega
        have HL := Lib.hid hl
        have HU := Lib.hid hu
        clear hl hu
        go_wp2_with (first
          | (go_at_call 39; refine (rUpper _ _).mono ?_; rw [HU.out]; rintro e w' ⟨rfl, rfl⟩)
          | (at_builtin; refine wpList_append_own _ rfl _ _ 32 rfl w.heap.size 5 i0 (.int .u8 0) 1 1 Tryd.underlying32 hi hz0 hz1 hz2 rfl (by decide) _ _ _ rfl (hown.alloc _) ⟨_, 0, none⟩ 1 1 [.int .u8 (((s[k]'hlt).toNat : Int) + 32)] rfl rfl ?c1 ?c2 ?c3 ?c4 ?c5 ?_))
        case c1 =>
          intro j u hj
          match j, hj with
          | 0, hj => simp at hj; subst hj; simp [Addr.add]
        case c2 => intro u hu; simp at hu; subst hu; rfl
        case c3 => unfold maxLen; omega
        case c4 => omega
        case c5 => simp; omega
        · intro v' w1 hown' hgrow _
          have hB' := own_grown hB hown rfl hgrow
          have HO := Lib.hid (show w1.ownsRow w.heap.size 5 1 v' (k + 1) _ from by have := hown'; rw [← HL.out, ← HNX.out] at this; exact this)
          clear hown' hgrow hown hB
          go_wp2
          go_roundw
          case rel => exact ⟨k + 1, by omega, by go_num, HO.out, hB'⟩
          case measure => simp [intOf]; omega
      | false =>
        have hl : lowZ ((s[k]'hlt).toNat : Int) = ((s[k]'hlt).toNat : Int) := by unfold lowZ; rw [if_neg (by simp [hu])]
        have HL := Lib.hid hl
        have HU := Lib.hid hu
        clear hl hu
        go_wp2_with (first
          | (go_at_call 39; refine (rUpper _ _).mono ?_; rw [HU.out]; rintro e w' ⟨rfl, rfl⟩)
          | (at_builtin; refine wpList_append_own _ rfl _ _ 32 rfl w.heap.size 5 i0 (.int .u8 0) 1 1 Tryd.underlying32 hi hz0 hz1 hz2 rfl (by decide) _ _ _ rfl (hown.alloc _) ⟨_, 0, none⟩ 1 1 [.int .u8 ((s[k]'hlt).toNat : Int)] rfl rfl ?d1 ?d2 ?d3 ?d4 ?d5 ?_))
        case d1 =>
          intro j u hj
          match j, hj with
          | 0, hj => simp at hj; subst hj; simp [Addr.add]
        case d2 => intro u hu; simp at hu; subst hu; rfl
        case d3 => unfold maxLen; omega
        case d4 => omega
        case d5 => simp; omega
        · intro v' w1 hown' hgrow _
          have hB' := own_grown hB hown rfl hgrow
          have HO := Lib.hid (show w1.ownsRow w.heap.size 5 1 v' (k + 1) _ from by have := hown'; rw [← HL.out, ← HNX.out] at this; exact this)
          clear hown' hgrow hown hB
          go_wp2
          go_roundw
          case rel => exact ⟨k + 1, by omega, by go_num, HO.out, hB'⟩
          case measure => simp [intOf]; omega
    · have hl : k = (s.data.toList.map lowU).length := by rw [List.length_map, size_list]; omega
      have hown2 := hown
      rw [hl, List.take_length] at hown2
      have hbk := bytes_back hown2
      have hls : (⟨(s.data.toList.map lowU).toArray⟩ : ByteArray) = lowS s := rfl
      rw [hls] at hbk
      clear hown2 hl hls
      clear hown
      go_wp2
      go_ret
      exact ⟨rfl, hB⟩
end Go.Proofs.YtdphkjhfeobhaaaDoor
