/-
  The document's own lower case.
  A byte that belongs to no encoding parts the pieces.
  Count: the number of the pieces.
  What is decoded reads as it is: pieces of decoded bytes.
  Valid.
  The document's own line ends.
  TextNewlines: the walk.
  TextPieces: the walk.
  TextInput: the walk.
  The document's own reading of what is an encoding.
  When the first piece is whole.
  The document's own reading of validity.
  The document's own decoder.
  The document's own encoder, and what it says of the decoder.
  What the entries of the table are like: one look by the kernel.
  The longest name as a function of the table; what the table's entries are like. No walk in sight.
  TextLowers: the walk.
  The examples of references: two kernel looks at the table.
-/
import Derived.Test.YtnfccckodgknjaaGreatDoorY22
import Derived.OwnWalk
import Derived.RangeFuncBox
import Derived.Test.YtnfccckodgknjaaGreatDoorY20
import Derived.Test.YtnfccckodgknjaaGreatDoorY21
namespace Go.Proofs.YtnfccckodgknjaaGreatDoor
open Go.RowKit
set_option maxHeartbeats 1000000
set_option maxRecDepth 100000

theorem info_u8 : (Tryz.prog.info? 5).map (fun i => (i.zero, i.size, i.bytes)) = some (some (.int .u8 0), 1, 1) := by kernel_rfl
def u8c (l : List UInt8) : List Value := l.map fun b => Value.int .u8 b.toNat

theorem own_grown {w wr w1 : World} {o : Obj} {v : Value} {n e size : Nat} {xs : List Value} {row : Option Nat} (hB : Below w.heap.size w wr) (hown : wr.ownsRow w.heap.size e size v n xs) (hrow : v.ownBlock = row) (hg : (wr.alloc o).grownBy w1 row) : Below w.heap.size w w1 :=
  Below.grown (hB.alloc hB.size _) hg (by have := hB.size; simp; omega) (fun j hj => (hown.lt j (hrow.trans hj)).1)

/-- The string of the bytes that a slice owns. -/
theorem bytes_back {wr : World} {B : Nat} {v : Value} {l : List UInt8} (hown : wr.ownsRow B 5 1 v l.length (u8c l)) : (convert 75 9 v).run Tryz.prog wr = .ok (.string ⟨l.toArray⟩) wr := by
  rcases hown.2 with ⟨rfl, h0⟩ | ⟨g, cap, cur, rfl, _⟩
  · have : l = [] := List.length_eq_zero_iff.1 h0
    subst this
    exact run_convert_bytes_nil _ _ _ Tryz.underlying75 Tryz.underlying5 0 0 _ Tryz.underlying9
  · refine run_convert_bytes_back wr _ _ 5 ⟨g, 0, none⟩ cap l Tryz.underlying75 Tryz.underlying5 Tryz.underlying9 ?_
    intro j hj
    refine hown.cells rfl j _ ?_
    simp [u8c, hj]

theorem rLower (s : ByteArray) (hs : s.size ≤ 200000) (w : World) :
    Calls Tryz.prog 14 #[.string s] w fun e w' => e = .returned (.string (lowS s)) ∧ Below w.heap.size w w' := by
  obtain ⟨i0, hi, hz0, hz1, hz2⟩ := info_parts info_u8
  go_enter Tryz.func14, Tryz.ntmps14
  go_wp2_with fail
  go_loopw [3, 4] (fun v i wr => ∃ k : Nat, k ≤ s.size ∧ i = .int .i64 k ∧ wr.ownsRow w.heap.size 5 1 v k (u8c ((s.data.toList.map lowU).take k)) ∧ Below w.heap.size w wr) (fun _ i _ => s.size - (intOf i).toNat)
  case atStart => exact ⟨0, Nat.zero_le _, rfl, World.ownsRow_nil _ _ _ _, Below.refl _ _⟩
  case round =>
    obtain ⟨k, hk, rfl, hown, hB⟩ := hrel
    by_cases hlt : k < s.size
    · have hb0 : (0 : Int) ≤ ((s[k]'hlt).toNat : Int) := by omega
      have hb1 : ((s[k]'hlt).toNat : Int) ≤ 255 := by have := (s[k]'hlt).toNat_lt; omega
      have hI : (k : Int) < (s.size : Int) := by omega
      have hsz := hB.size
      have hnext : u8c ((s.data.toList.map lowU).take (k + 1)) = u8c ((s.data.toList.map lowU).take k) ++ [.int .u8 (lowZ ((s[k]'hlt).toNat : Int))] := by
        have e : (s.data.toList.map lowU)[k]? = some (lowU (s[k]'hlt)) := by
          rw [List.getElem?_map, Array.getElem?_toList]
          have : s.data[k]? = some (s[k]'hlt) := Array.getElem?_eq_getElem (xs := s.data) hlt
          rw [this]; rfl
        rw [List.take_add_one, e]
        simp [u8c, lowU_toNat]
      have HNX := Lib.hid hnext
      clear hnext
      cases hu : upB ((s[k]'hlt).toNat : Int) with
      | true =>
        have hl : lowZ ((s[k]'hlt).toNat : Int) = ((s[k]'hlt).toNat : Int) + 32 := by unfold lowZ; rw [if_pos hu]
        have hb2 : ((s[k]'hlt).toNat : Int) ≤ 90 := by unfold upB at hu; simp at hu; omega
        have HL := Lib.hid hl
        have HU := Lib.hid hu
        clear hl hu
        go_wp2_with (first
          | (go_at_call 57; refine (rUpper _ _).mono ?_; rw [HU.out]; rintro e w' ⟨rfl, rfl⟩)
          | (at_builtin; refine wpList_append_own _ rfl _ _ 75 rfl w.heap.size 5 i0 (.int .u8 0) 1 1 Tryz.underlying75 hi hz0 hz1 hz2 rfl (by decide) _ _ _ rfl (hown.alloc _) ⟨_, 0, none⟩ 1 1 [.int .u8 (((s[k]'hlt).toNat : Int) + 32)] rfl rfl ?c1 ?c2 ?c3 ?c4 ?c5 ?_))
        case c1 =>
          intro j u hj
          match j, hj with
          | 0, hj => simp at hj; subst hj; simp [Addr.add]
        case c2 => intro u hu; simp at hu; subst hu; rfl
        case c3 => unfold maxLen; omega
        case c4 => omega
        case c5 => simp; omega
        · intro v' w1 hown' hgrow _
          have hB' := own_grown hB hown rfl hgrow
          have HO := Lib.hid (show w1.ownsRow w.heap.size 5 1 v' (k + 1) _ from by have := hown'; rw [← HL.out, ← HNX.out] at this; exact this)
          clear hown' hgrow hown hB
          go_wp2
          go_roundw
          case rel => exact ⟨k + 1, by omega, by go_num, HO.out, hB'⟩
          case measure => simp [intOf]; omega
      | false =>
        have hl : lowZ ((s[k]'hlt).toNat : Int) = ((s[k]'hlt).toNat : Int) := by unfold lowZ; rw [if_neg (by simp [hu])]
        have HL := Lib.hid hl
        have HU := Lib.hid hu
        clear hl hu
        go_wp2_with (first
          | (go_at_call 57; refine (rUpper _ _).mono ?_; rw [HU.out]; rintro e w' ⟨rfl, rfl⟩)
          | (at_builtin; refine wpList_append_own _ rfl _ _ 75 rfl w.heap.size 5 i0 (.int .u8 0) 1 1 Tryz.underlying75 hi hz0 hz1 hz2 rfl (by decide) _ _ _ rfl (hown.alloc _) ⟨_, 0, none⟩ 1 1 [.int .u8 ((s[k]'hlt).toNat : Int)] rfl rfl ?d1 ?d2 ?d3 ?d4 ?d5 ?_))
        case d1 =>
          intro j u hj
          match j, hj with
          | 0, hj => simp at hj; subst hj; simp [Addr.add]
        case d2 => intro u hu; simp at hu; subst hu; rfl
        case d3 => unfold maxLen; omega
        case d4 => omega
        case d5 => simp; omega
        · intro v' w1 hown' hgrow _
          have hB' := own_grown hB hown rfl hgrow
          have HO := Lib.hid (show w1.ownsRow w.heap.size 5 1 v' (k + 1) _ from by have := hown'; rw [← HL.out, ← HNX.out] at this; exact this)
          clear hown' hgrow hown hB
          go_wp2
          go_roundw
          case rel => exact ⟨k + 1, by omega, by go_num, HO.out, hB'⟩
          case measure => simp [intOf]; omega
    · have hl : k = (s.data.toList.map lowU).length := by rw [List.length_map, size_list]; omega
      have hown2 := hown
      rw [hl, List.take_length] at hown2
      have hbk := bytes_back hown2
      have hls : (⟨(s.data.toList.map lowU).toArray⟩ : ByteArray) = lowS s := rfl
      rw [hls] at hbk
      clear hown2 hl hls
      clear hown
      go_wp2
      go_ret
      exact ⟨rfl, hB⟩
end Go.Proofs.YtnfccckodgknjaaGreatDoor

namespace Go.Proofs.YtnfccckodgknjaaGreatDoor
open Go.RowKit
set_option maxHeartbeats 1000000

end Go.Proofs.YtnfccckodgknjaaGreatDoor

namespace Go.Proofs.YtnfccckodgknjaaGreatDoor
open Go.RowKit Go.Shelf Go.Lib
attribute [local go_sem] Oper.semAt_some
set_option maxHeartbeats 1000000
set_option maxRecDepth 100000

end Go.Proofs.YtnfccckodgknjaaGreatDoor

namespace Go.Proofs.YtnfccckodgknjaaGreatDoor
open Go.RowKit
set_option maxHeartbeats 1000000

end Go.Proofs.YtnfccckodgknjaaGreatDoor

namespace Go.Proofs.YtnfccckodgknjaaGreatDoor
open Go.RowKit Go.Shelf Go.Lib
attribute [local go_sem] Oper.semAt_some
set_option maxHeartbeats 1000000
set_option maxRecDepth 100000

end Go.Proofs.YtnfccckodgknjaaGreatDoor

namespace Go.Proofs.YtnfccckodgknjaaGreatDoor
open Go.RowKit
set_option maxHeartbeats 1000000
set_option maxRecDepth 100000

theorem one_cell (w : World) (t : TypeId) (v : Value) : ∀ (j : Nat) (u : Value), [v][j]? = some u → (w.alloc (.cells #[v] t)).cell? ((⟨w.heap.size, 0, none⟩ : Addr).add j) = some u := by
  intro j u hj
  match j, hj with
  | 0, hj => simp at hj; subst hj; simp [Addr.add]
end Go.Proofs.YtnfccckodgknjaaGreatDoor

namespace Go.Proofs.YtnfccckodgknjaaGreatDoor
open Go.RowKit
set_option maxHeartbeats 1000000
set_option maxRecDepth 100000

end Go.Proofs.YtnfccckodgknjaaGreatDoor

namespace Go.Proofs.YtnfccckodgknjaaGreatDoor
open Go.RowKit
set_option maxHeartbeats 1000000
set_option maxRecDepth 100000

end Go.Proofs.YtnfccckodgknjaaGreatDoor

namespace Go.Proofs.YtnfccckodgknjaaGreatDoor
open Go.RowKit
set_option maxHeartbeats 1000000
set_option maxRecDepth 100000

end Go.Proofs.YtnfccckodgknjaaGreatDoor

namespace Go.Proofs.YtnfccckodgknjaaGreatDoor
open Go.RowKit
set_option maxHeartbeats 1000000
set_option maxRecDepth 100000

end Go.Proofs.YtnfccckodgknjaaGreatDoor

namespace Go.Proofs.YtnfccckodgknjaaGreatDoor
open Go.RowKit
set_option maxHeartbeats 2000000

end Go.Proofs.YtnfccckodgknjaaGreatDoor

namespace Go.Proofs.YtnfccckodgknjaaGreatDoor
open Go.RowKit
set_option maxHeartbeats 1000000
set_option maxRecDepth 100000

end Go.Proofs.YtnfccckodgknjaaGreatDoor

namespace Go.Proofs.YtnfccckodgknjaaGreatDoor
open Go.RowKit
set_option maxHeartbeats 2000000
set_option maxRecDepth 100000

/-! ### Rvl -/

/-! ### Rpi -/

/-! ### Rsc -/

/-! ### Rde -/

theorem info_i32 : (Tryz.prog.info? 21).map (fun i => (i.zero, i.size, i.bytes)) = some (some (.int .i32 0), 1, 4) := by kernel_rfl
def i32c (l : List Int) : List Value := l.map fun r => Value.int .i32 r
theorem one_oneI (x : Int) : ∀ u ∈ [Value.int .i32 x], u.oneCell' = true := by
  intro u hu
  simp at hu
  subst hu
  rfl
theorem own_below {W W' : World} {B e size n : Nat} {v : Value} {xs : List Value} (h : W.ownsRow B e size v n xs) (hb : Below W.heap.size W W') : W'.ownsRow B e size v n xs :=
  h.kept (row := none) ⟨hb.os, hb.tape, hb.output, hb.size, fun i hi _ => hb.block i hi⟩ (by
    rcases h.2 with ⟨rfl, _⟩ | ⟨g, cap, cur, rfl, _⟩
    · exact .inl rfl
    · exact .inr (by simp [Value.ownBlock]))

end Go.Proofs.YtnfccckodgknjaaGreatDoor

namespace Go.Proofs.YtnfccckodgknjaaGreatDoor
open Go.RowKit
set_option maxHeartbeats 2000000
set_option maxRecDepth 100000

/-! ### Rby -/

def encZ (n : Int) : List Int := if n < 128 then [n] else if n < 2048 then [192 + n / 64, 128 + n % 64] else if n < 65536 then [224 + n / 4096, 128 + n / 64 % 64, 128 + n % 64] else [240 + n / 262144, 128 + n / 4096 % 64, 128 + n / 64 % 64, 128 + n % 64]
def u8z (l : List Int) : List Value := l.map fun b => Value.int .u8 b

theorem rBytes (r : Int) (h0 : 0 ≤ r) (h1 : r ≤ 1114111) (w : World) :
    Calls Tryz.prog 212 #[.int .i32 r] w fun e w' => ∃ v, e = .returned v ∧ w'.ownsRow w.heap.size 5 1 v (encZ r).length (u8z (encZ r)) ∧ (∃ g, v = .slice (some ⟨g, 0, none⟩) (encZ r).length (encZ r).length) ∧ Below w.heap.size w w' := by
  have q0 : 0 ≤ r / 64 ∧ 0 ≤ r % 64 ∧ r % 64 ≤ 63 ∧ 0 ≤ r / 4096 ∧ 0 ≤ r / 262144 ∧ r / 262144 ≤ 4 ∧ 0 ≤ r / 64 % 64 ∧ r / 64 % 64 ≤ 63 ∧ 0 ≤ r / 4096 % 64 ∧ r / 4096 % 64 ≤ 63 := by omega
  obtain ⟨q1, q2, q3, q4, q5, q6, q7, q8, q9, q10⟩ := q0
  by_cases c1 : r < 128
  · have he : encZ r = [r] := by unfold encZ; rw [if_pos c1]
    rw [he]
    clear he
    go_enter Tryz.func212, Tryz.ntmps212
    go_wp2
    go_ret
    exact ⟨_, rfl, World.ownsRow_lit w _ _ (Nat.le_refl _) (by decide) rfl, ⟨_, rfl⟩, by (repeat' (first | (with_reducible exact Below.refl _ _) | (with_reducible assumption) | (with_reducible refine below_alloc ?_ _) | (with_reducible refine Below.drew ?_) | (with_reducible refine _root_.Go.below_drewN ?_ _) | (with_reducible refine Below.setCell ?_ ?_ _) | go_size | (refine below_next ?_ (by assumption))))⟩
  by_cases c2 : r < 2048
  · have he : encZ r = [192 + r / 64, 128 + r % 64] := by unfold encZ; rw [if_neg c1, if_pos c2]
    have q11 : r / 64 ≤ 31 := by omega
    rw [he]
    clear he
    go_enter Tryz.func212, Tryz.ntmps212
    go_wp2
    go_ret
    exact ⟨_, rfl, World.ownsRow_lit w _ _ (Nat.le_refl _) (by decide) rfl, ⟨_, rfl⟩, by (repeat' (first | (with_reducible exact Below.refl _ _) | (with_reducible assumption) | (with_reducible refine below_alloc ?_ _) | (with_reducible refine Below.drew ?_) | (with_reducible refine _root_.Go.below_drewN ?_ _) | (with_reducible refine Below.setCell ?_ ?_ _) | go_size | (refine below_next ?_ (by assumption))))⟩
  by_cases c3 : r < 65536
  · have he : encZ r = [224 + r / 4096, 128 + r / 64 % 64, 128 + r % 64] := by unfold encZ; rw [if_neg c1, if_neg c2, if_pos c3]
    have q11 : r / 4096 ≤ 15 := by omega
    rw [he]
    clear he
    go_enter Tryz.func212, Tryz.ntmps212
    go_wp2
    go_ret
    exact ⟨_, rfl, World.ownsRow_lit w _ _ (Nat.le_refl _) (by decide) rfl, ⟨_, rfl⟩, by (repeat' (first | (with_reducible exact Below.refl _ _) | (with_reducible assumption) | (with_reducible refine below_alloc ?_ _) | (with_reducible refine Below.drew ?_) | (with_reducible refine _root_.Go.below_drewN ?_ _) | (with_reducible refine Below.setCell ?_ ?_ _) | go_size | (refine below_next ?_ (by assumption))))⟩
  · have he : encZ r = [240 + r / 262144, 128 + r / 4096 % 64, 128 + r / 64 % 64, 128 + r % 64] := by unfold encZ; rw [if_neg c1, if_neg c2, if_neg c3]
    rw [he]
    clear he
    go_enter Tryz.func212, Tryz.ntmps212
    go_wp2
    go_ret
    exact ⟨_, rfl, World.ownsRow_lit w _ _ (Nat.le_refl _) (by decide) rfl, ⟨_, rfl⟩, by (repeat' (first | (with_reducible exact Below.refl _ _) | (with_reducible assumption) | (with_reducible refine below_alloc ?_ _) | (with_reducible refine Below.drew ?_) | (with_reducible refine _root_.Go.below_drewN ?_ _) | (with_reducible refine Below.setCell ?_ ?_ _) | go_size | (refine below_next ?_ (by assumption))))⟩

/-! ### Rtx -/

def encU (r : Int) : List UInt8 := (encZ r).map fun x => UInt8.ofNat x.toNat
theorem encZ_bd (r : Int) (h0 : 0 ≤ r) (h1 : r ≤ 1114111) : ∀ x ∈ encZ r, 0 ≤ x ∧ x ≤ 255 := by
  unfold encZ
  intro x hx
  split at hx
  · simp at hx; omega
  · split at hx
    · simp at hx; omega
    · split at hx
      · simp at hx; omega
      · simp at hx; omega
theorem encU_cells (r : Int) (h0 : 0 ≤ r) (h1 : r ≤ 1114111) : u8c (encU r) = u8z (encZ r) := by
  unfold u8c encU u8z
  rw [List.map_map]
  apply List.map_congr_left
  intro x hx
  obtain ⟨a, b⟩ := encZ_bd r h0 h1 x hx
  show Value.int .u8 ((UInt8.ofNat x.toNat).toNat : Int) = .int .u8 x
  rw [UInt8.toNat_ofNat_of_lt' (show x.toNat < 256 by omega)]
  congr 1
  omega
theorem encZ_len (r : Int) : 1 ≤ (encZ r).length ∧ (encZ r).length ≤ 4 := by
  unfold encZ
  (repeat' split) <;> simp
theorem u8z_one (l : List Int) : ∀ u ∈ u8z l, u.oneCell' = true := by
  intro u hu
  obtain ⟨x, _, rfl⟩ := List.mem_map.mp hu
  rfl

theorem rText (v : Value) (B : Nat) (l : List Int) (hl : ∀ r ∈ l, 0 ≤ r ∧ r ≤ 1114111) (hz : l.length ≤ 100000) (w : World) (hv : w.ownsRow B 21 1 v l.length (i32c l)) :
    Calls Tryz.prog 206 #[v] w fun e w' => e = .returned (.string ⟨(l.flatMap encU).toArray⟩) ∧ Below w.heap.size w w' := by
  obtain ⟨i0, hi, hz0, hz1, hz2⟩ := info_parts info_u8
  obtain ⟨R, hR⟩ : ∃ R, R = l.flatMap encU := ⟨_, rfl⟩
  rw [← hR]
  have HR := Lib.hid hR
  clear hR
  have hcases : (v = .slice none 0 0 ∧ l = []) ∨ ∃ g cap, v = .slice (some ⟨g, 0, none⟩) l.length cap ∧ g < w.heap.size ∧ l.length ≤ cap ∧ ∀ j (hj : j < l.length), w.cell? ⟨g, j, none⟩ = some (.int .i32 l[j]) := by
    rcases hv.2 with ⟨h1, h2⟩ | ⟨g, cap, cur, rfl, _, hg, hc, _⟩
    · exact .inl ⟨h1, List.length_eq_zero_iff.1 h2⟩
    · refine .inr ⟨g, cap, rfl, (Array.getElem?_eq_some_iff.1 hg).1, hc, fun j hj => ?_⟩
      rw [hv.cellAt j (by omega)]
      simp [i32c, hj]
  clear hv
  rcases hcases with ⟨rfl, rfl⟩ | ⟨g, cap, rfl, hg, hcap, hcell⟩
  · go_enter Tryz.func206, Tryz.ntmps206
    have hR : R = [] := HR.out
    subst hR
    have hbk := bytes_back (wr := w) (B := 0) (v := .slice none 0 0) (l := []) (World.ownsRow_nil w 0 5 1)
    go_wp2_with fail
    refine wp_loop_rounds 1 ?_
    rw [rounds_succ]
    go_wp2
    go_ret
    exact ⟨rfl, Below.refl _ _⟩
  · have HCELL := Lib.hid hcell
    have HL := Lib.hid hl
    clear hcell hl
    go_enter Tryz.func206, Tryz.ntmps206
    go_wp2_with fail
    go_loopw [3, 4] (fun v u wr => ∃ (k n : Nat) (pre : List UInt8), u = .int .i64 k ∧ k ≤ l.length ∧ pre.length = n ∧ pre ++ (l.drop k).flatMap encU = R ∧ n ≤ 4 * k ∧ wr.ownsRow w.heap.size 5 1 v n (u8c pre) ∧ Below w.heap.size w wr) (fun _ u _ => l.length - (intOf u).toNat)
    case atStart => exact ⟨0, 0, [], rfl, Nat.zero_le _, rfl, HR.out.symm, by omega, World.ownsRow_nil _ _ _ _, Below.refl _ _⟩
    case round =>
      obtain ⟨k, n, pre, rfl, hk, hln, hpre, hn4, hown, hB⟩ := hrel
      have HLN := Lib.hid hln
      have HP := Lib.hid hpre
      clear hln hpre
      by_cases hlt : k < l.length
      · have hI : (k : Int) < (l.length : Int) := by omega
        have hc : wr.cell? ⟨g, k, none⟩ = some (.int .i32 (l[k]'hlt)) := (hB.cell (p := ⟨g, k, none⟩) hg).trans (HCELL.out k hlt)
        obtain ⟨r0, r1⟩ := HL.out (l[k]'hlt) (List.getElem_mem hlt)
        obtain ⟨x, hx⟩ : ∃ x, x = l[k]'hlt := ⟨_, rfl⟩
        rw [← hx] at hc r0 r1
        have HS : Hid (pre ++ encU x ++ (l.drop (k + 1)).flatMap encU = R) := Lib.hid (by
          rw [← HP.out, List.drop_eq_getElem_cons hlt, List.flatMap_cons, hx]
          simp)
        clear hx
        have HBY := Lib.hid (rBytes x r0 r1 wr)
        have hel := encZ_len x
        have HEC := Lib.hid (encU_cells x r0 r1)
        have HEL : Hid ((encU x).length = (encZ x).length) := Lib.hid (by simp [encU])
        go_wp2_with fail
        refine HBY.out.mono ?_
        rintro e w1 ⟨v2, rfl, own2, ⟨g2, rfl⟩, hb1⟩
        have hb1x := below_next hB hb1
        have own1 := own_below hown hb1
        have hs1 := hb1x.size
        clear hown hb1 hB hc
        go_wp2_with (first | (at_builtin; refine wpList_append_own _ rfl _ _ 75 rfl w.heap.size 5 i0 (.int .u8 0) 1 1 Tryz.underlying75 hi hz0 hz1 hz2 rfl (by decide) _ _ _ rfl own1 ⟨g2, 0, none⟩ (encZ x).length (encZ x).length (u8z (encZ x)) rfl (by simp [u8z]) (own2.cells rfl) (u8z_one _) (by unfold maxLen; omega) (by omega) (by omega) ?_; intro v' w9 hown' hgrow _))
        have hB' : Below w.heap.size w w9 := Below.grown hb1x hgrow hb1x.size (fun j hj => (own1.lt j hj).1)
        have HO : Hid (w9.ownsRow w.heap.size 5 1 v' (n + (encZ x).length) (u8c (pre ++ encU x))) := Lib.hid (by
          have e : u8c (pre ++ encU x) = u8c pre ++ u8z (encZ x) := by rw [← HEC.out]; simp [u8c]
          rw [e]
          exact hown')
        refine ⟨⟨k + 1, n + (encZ x).length, pre ++ encU x, by go_num, by omega, by rw [List.length_append, HLN.out, HEL.out], HS.out, by omega, HO.out, hB'⟩, by simp [intOf]; omega⟩
      · have hl2 : pre = R := by
          have := HP.out
          rw [List.drop_eq_nil_of_le (by omega)] at this
          simpa using this
        have hown2 := hown
        rw [← HLN.out, hl2] at hown2
        have hbk := bytes_back hown2
        clear hown2 hl2
        go_wp2
        go_ret
        exact ⟨rfl, hB⟩

/-! ### Pen -/

end Go.Proofs.YtnfccckodgknjaaGreatDoor

namespace Go.Proofs.YtnfccckodgknjaaGreatDoor
open Go.RowKit
set_option maxRecDepth 100000

/-- The code points of an entry, as the document's reader makes them. -/
def refVal : Int → List UInt8 → List Int
  | n, [] => [n]
  | n, b :: t => if b = 44 then n :: refVal 0 t else refVal (16 * n + hexV b.toNat) t
def okVal : Int → List UInt8 → Bool
  | n, [] => decide (0 ≤ n) && decide (n ≤ 1114111)
  | n, b :: t => if b = 44 then decide (0 ≤ n) && decide (n ≤ 1114111) && okVal 0 t else hexB b.toNat && okVal (16 * n + hexV b.toNat) t
/-- What an entry of the table is like. -/
def fineEnt (e : List UInt8) : Bool := !(nameOf e).isEmpty && (nameOf e).all (fun b => alnB b.toNat || b == 59) && okVal 0 (codesOf e) && ((refVal 0 (codesOf e)).flatMap encU == valL (codesOf e)) && decide ((codesOf e).length ≤ 100) && e.any (fun b => b == 61)
theorem ent_fine_b : (parts 32 NM.data.toList).all fineEnt = true := by decide +kernel
theorem ent_fine : ∀ e ∈ ENT, fineEnt e = true := List.all_eq_true.1 ent_fine_b
theorem ent_parts5 {e : List UInt8} (he : e ∈ ENT) : (0 < (nameOf e).length) ∧ ((nameOf e).all (fun b => alnB b.toNat || b == 59) = true) ∧ (okVal 0 (codesOf e) = true) ∧ ((refVal 0 (codesOf e)).flatMap encU = valL (codesOf e)) ∧ ((codesOf e).length ≤ 100) ∧ e.any (fun b => b == 61) = true := by
  have hf := ent_fine e he
  unfold fineEnt at hf
  rw [Bool.and_eq_true, Bool.and_eq_true, Bool.and_eq_true, Bool.and_eq_true, Bool.and_eq_true, beq_iff_eq, decide_eq_true_eq] at hf
  obtain ⟨⟨⟨⟨⟨h1, h2⟩, h3⟩, h4⟩, h5⟩, h6⟩ := hf
  refine ⟨?_, h2, h3, h4, h5, h6⟩
  cases hn : nameOf e with
  | nil => rw [hn] at h1; exact absurd h1 (by decide)
  | cons b t => simp
theorem hexV_bd {b : UInt8} (h : hexB b.toNat = true) : 0 ≤ hexV b.toNat ∧ hexV b.toNat ≤ 15 := by
  have := hexV_hex (b.toNat : Int)
  rw [h, decide_eq_true_eq] at this
  refine ⟨this, ?_⟩
  unfold hexV digB
  (repeat' split) <;> simp at * <;> omega
theorem okVal_bd : ∀ (t : List UInt8) (n : Int), 0 ≤ n → okVal n t = true → n ≤ 1114111
  | [], n, _, h => by simp [okVal] at h; exact h.2
  | b :: t, n, h0, h => by
    unfold okVal at h
    by_cases hb : b = 44
    · rw [if_pos hb] at h; simp at h; exact h.1.2
    · rw [if_neg hb, Bool.and_eq_true] at h
      have hx := hexV_bd h.1
      have := okVal_bd t _ (by omega) h.2
      omega
theorem refVal_bd : ∀ (t : List UInt8) (n : Int), 0 ≤ n → okVal n t = true → ∀ r ∈ refVal n t, 0 ≤ r ∧ r ≤ 1114111
  | [], n, _, h => by simp [okVal] at h; simp [refVal]; exact h
  | b :: t, n, h0, h => by
    unfold okVal at h
    unfold refVal
    by_cases hb : b = 44
    · rw [if_pos hb] at h ⊢
      rw [Bool.and_eq_true, Bool.and_eq_true] at h
      intro r hr
      rcases List.mem_cons.1 hr with rfl | hr
      · simpa using h.1
      · exact refVal_bd t 0 (by omega) h.2 r hr
    · rw [if_neg hb] at h ⊢
      rw [Bool.and_eq_true] at h
      have hx := hexV_bd h.1
      exact refVal_bd t _ (by omega) h.2
theorem refVal_len : ∀ (t : List UInt8) (n : Int), (refVal n t).length ≤ t.length + 1
  | [], n => by simp [refVal]
  | b :: t, n => by
    unfold refVal
    split
    · have := refVal_len t 0; simp; omega
    · have := refVal_len t (16 * n + hexV b.toNat); simp; omega
end Go.Proofs.YtnfccckodgknjaaGreatDoor

namespace Go.Proofs.YtnfccckodgknjaaGreatDoor
open Go.RowKit
set_option maxRecDepth 100000

def lgStep (s : List UInt8) (a : Nat × List UInt8) (e : List UInt8) : Nat × List UInt8 := if a.1 < (nameOf e).length ∧ (nameOf e).isPrefixOf s = true then ((nameOf e).length, valL (codesOf e)) else a
def lgT (T : List (List UInt8)) (s : List UInt8) : Nat × List UInt8 := T.foldl (lgStep s) (0, [])
noncomputable def lgL (s : List UInt8) : Nat × List UInt8 := lgT ENT s

theorem lgStep_spec (s : List UInt8) : ∀ (T : List (List UInt8)) (a : Nat × List UInt8),
    (T.foldl (lgStep s) a = a ∧ ∀ e ∈ T, nameOf e <+: s → (nameOf e).length ≤ a.1) ∨
    ∃ e ∈ T, nameOf e <+: s ∧ T.foldl (lgStep s) a = ((nameOf e).length, valL (codesOf e)) ∧ a.1 < (nameOf e).length ∧ ∀ e' ∈ T, nameOf e' <+: s → (nameOf e').length ≤ (nameOf e).length
  | [], a => .inl ⟨rfl, by simp⟩
  | e :: T, a => by
    rw [List.foldl_cons]
    by_cases h : a.1 < (nameOf e).length ∧ (nameOf e).isPrefixOf s = true
    · have hs : lgStep s a e = ((nameOf e).length, valL (codesOf e)) := if_pos h
      have hp : nameOf e <+: s := List.isPrefixOf_iff_prefix.1 h.2
      rw [hs]
      rcases lgStep_spec s T ((nameOf e).length, valL (codesOf e)) with ⟨h1, h2⟩ | ⟨e1, he1, h1, h2, h3, h4⟩
      · refine .inr ⟨e, by simp, hp, h1, h.1, ?_⟩
        intro e' he' hp'
        rcases List.mem_cons.1 he' with rfl | he'
        · exact Nat.le_refl _
        · exact h2 e' he' hp'
      · refine .inr ⟨e1, by simp [he1], h1, h2, by have := h.1; simp at h3; omega, ?_⟩
        intro e' he' hp'
        rcases List.mem_cons.1 he' with rfl | he'
        · simp at h3; omega
        · exact h4 e' he' hp'
    · have hs : lgStep s a e = a := if_neg h
      have hn : nameOf e <+: s → (nameOf e).length ≤ a.1 := by
        intro hp
        rcases Nat.lt_or_ge a.1 (nameOf e).length with h' | h'
        · exact absurd ⟨h', List.isPrefixOf_iff_prefix.2 hp⟩ h
        · exact h'
      rw [hs]
      rcases lgStep_spec s T a with ⟨h1, h2⟩ | ⟨e1, he1, h1, h2, h3, h4⟩
      · refine .inl ⟨h1, ?_⟩
        intro e' he' hp'
        rcases List.mem_cons.1 he' with rfl | he'
        · exact hn hp'
        · exact h2 e' he' hp'
      · refine .inr ⟨e1, by simp [he1], h1, h2, h3, ?_⟩
        intro e' he' hp'
        rcases List.mem_cons.1 he' with rfl | he'
        · have := hn hp'; omega
        · exact h4 e' he' hp'

theorem pair_uniq {α : Type} {R : α → α → Prop} : ∀ {l : List α}, l.Pairwise R → ∀ a ∈ l, ∀ b ∈ l, a = b ∨ R a b ∨ R b a
  | [], _, a, ha, _, _ => by simp at ha
  | x :: l, h, a, ha, b, hb => by
    rw [List.pairwise_cons] at h
    rcases List.mem_cons.1 ha with e | ha'
    · rcases List.mem_cons.1 hb with e2 | hb'
      · exact .inl (e.trans e2.symm)
      · exact .inr (.inl (e ▸ h.1 b hb'))
    · rcases List.mem_cons.1 hb with e2 | hb'
      · exact .inr (.inr (e2 ▸ h.1 a ha'))
      · exact pair_uniq h.2 a ha' b hb'
theorem ent_name {a b : List UInt8} (ha : a ∈ ENT) (hb : b ∈ ENT) (h : nameOf a = nameOf b) : a = b := by
  rcases pair_uniq ent_sorted a ha b hb with e | e | e
  · exact e
  · rw [h, ltB_irrefl] at e; exact absurd e (by decide)
  · rw [h, ltB_irrefl] at e; exact absurd e (by decide)
theorem ent_ne {e : List UInt8} (he : e ∈ ENT) : 0 < (nameOf e).length := (ent_parts5 he).1

theorem lg_uniq (T : List (List UInt8)) (hu : ∀ a ∈ T, ∀ b ∈ T, nameOf a = nameOf b → a = b) (hne : ∀ a ∈ T, 0 < (nameOf a).length) {s : List UInt8} {n : Int} {v : List UInt8}
    (h : (n = 0 ∧ v = [] ∧ ∀ e ∈ T, ¬ nameOf e <+: s) ∨ ∃ e ∈ T, nameOf e <+: s ∧ n = (nameOf e).length ∧ v = valL (codesOf e) ∧ ∀ e' ∈ T, nameOf e' <+: s → (nameOf e').length ≤ (nameOf e).length) :
    n = ((lgT T s).1 : Nat) ∧ v = (lgT T s).2 := by
  unfold lgT
  rcases lgStep_spec s T (0, []) with ⟨h1, h2⟩ | ⟨e1, he1, h1, h2, h3, h4⟩
  · rw [h1]
    rcases h with ⟨g1, g2, g3⟩ | ⟨e, he, g1, g2, g3, g4⟩
    · exact ⟨g1, g2⟩
    · have h5 : (nameOf e).length ≤ 0 := h2 e he g1
      have h6 := hne e he
      omega
  · rw [h2]
    rcases h with ⟨g1, g2, g3⟩ | ⟨e, he, g1, g2, g3, g4⟩
    · exact absurd h1 (g3 e1 he1)
    · have l1 := h4 e he g1
      have l2 := g4 e1 he1 h1
      have hlen : (nameOf e).length = (nameOf e1).length := by omega
      have a1 := List.prefix_iff_eq_take.1 g1
      have a2 := List.prefix_iff_eq_take.1 h1
      rw [hlen] at a1
      have := hu e he e1 he1 (a1.trans a2.symm)
      subst this
      exact ⟨g2, g3⟩
theorem lgP_lgL {s : List UInt8} {n : Int} {V : ByteArray} (h : LgP s n V) : n = ((lgL s).1 : Nat) ∧ V.data.toList = (lgL s).2 := by
  refine lg_uniq ENT (fun a ha b hb => ent_name ha hb) (fun a ha => ent_ne ha) ?_
  rcases h with ⟨g1, g2, g3⟩ | ⟨e, he, g1, g2, g3, g4⟩
  · exact .inl ⟨g1, by rw [g2], g3⟩
  · exact .inr ⟨e, he, g1, g2, g3, g4⟩
end Go.Proofs.YtnfccckodgknjaaGreatDoor

namespace Go.Proofs.YtnfccckodgknjaaGreatDoor
open Go.RowKit
set_option maxHeartbeats 1000000
set_option maxRecDepth 100000

end Go.Proofs.YtnfccckodgknjaaGreatDoor

namespace Go.Proofs.YtnfccckodgknjaaGreatDoor
set_option maxRecDepth 100000

def sNotit : List UInt8 := [110, 111, 116, 105, 116, 59]
def sLtb : List UInt8 := [108, 116, 59, 60, 47, 98, 62]
theorem two_b : (lgT (parts 32 NM.data.toList) sNotit == (3, [194, 172]) && lgT (parts 32 NM.data.toList) sLtb == (3, [60])) = true := by decide +kernel
theorem two_p : lgL sNotit = (3, [194, 172]) ∧ lgL sLtb = (3, [60]) := by
  have h := two_b
  simp only [Bool.and_eq_true, beq_iff_eq] at h
  exact h
end Go.Proofs.YtnfccckodgknjaaGreatDoor
