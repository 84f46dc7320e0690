/-
  The document's own prefix test.
  The document's own encoder, and what it says of the decoder.
  TextValid: the walk.
  The encodings of numbers, and whether they are whole. No walk in sight.
  TextScalars: the walk.
  The frame of a row whose arguments reach cells: nothing that was there has turned.
-/
import Derived.Test.YtheiehbfbgjgpabDoorKnw
import Derived.Test.YtheiehbfbgjgpabDoorRlo
import Derived.Test.YtheiehbfbgjgpabDoorRdd
import Derived.Test.YtheiehbfbgjgpabDoorRvw
import Derived.Test.YtheiehbfbgjgpabDoorFrm
namespace Go.Proofs.YtheiehbfbgjgpabDoor
open Go.RowKit Go.Lib
set_option maxHeartbeats 1000000
set_option maxRecDepth 100000

theorem pre_cut (s p : ByteArray) : ((s.extract 0 p.size).toList == p.toList) = p.data.toList.isPrefixOf s.data.toList := by
  rw [Bool.eq_iff_iff, List.isPrefixOf_iff_prefix, List.prefix_iff_eq_take, beq_iff_eq, ByteArray.toList_eq, ByteArray.toList_eq, Lib.extract_data, List.drop_zero, Nat.sub_zero, size_list]
  exact ⟨fun h => h.symm, fun h => h.symm⟩
theorem pre_long {s p : ByteArray} (h : ¬ p.size ≤ s.size) : p.data.toList.isPrefixOf s.data.toList = false := by
  rw [Bool.eq_false_iff]
  intro e
  have := (List.isPrefixOf_iff_prefix.1 e).length_le
  rw [size_list, size_list] at this
  exact h this

theorem rBegins1 (s p : ByteArray) (w : World) :
    Calls Tryd.prog 47 #[.string s, .string p] w fun e w' => e = .returned (.bool (p.data.toList.isPrefixOf s.data.toList)) ∧ w' = w := by
  by_cases hl : p.size ≤ s.size
  · have hI : (p.size : Int) ≤ (s.size : Int) := by omega
    have HE := Lib.hid (pre_cut s p)
    go_enter Tryd.func47, Tryd.ntmps47
    go_wp2
    go_ret
    exact ⟨ret_bool HE.out, rfl⟩
  · have hI : (s.size : Int) < (p.size : Int) := by omega
    have HE := Lib.hid (pre_long hl)
    go_enter Tryd.func47, Tryd.ntmps47
    go_wp2
    go_ret
    exact ⟨ret_bool HE.out.symm, rfl⟩
end Go.Proofs.YtheiehbfbgjgpabDoor

namespace Go.Proofs.YtheiehbfbgjgpabDoor
open Go.RowKit
set_option maxHeartbeats 2000000
set_option maxRecDepth 100000

/-! ### Rby -/

def encZ (n : Int) : List Int := if n < 128 then [n] else if n < 2048 then [192 + n / 64, 128 + n % 64] else if n < 65536 then [224 + n / 4096, 128 + n / 64 % 64, 128 + n % 64] else [240 + n / 262144, 128 + n / 4096 % 64, 128 + n / 64 % 64, 128 + n % 64]
def u8z (l : List Int) : List Value := l.map fun b => Value.int .u8 b

theorem rBytes (r : Int) (h0 : 0 ≤ r) (h1 : r ≤ 1114111) (w : World) :
    Calls Tryd.prog 12 #[.int .i32 r] w fun e w' => ∃ v, e = .returned v ∧ w'.ownsRow w.heap.size 5 1 v (encZ r).length (u8z (encZ r)) ∧ (∃ g, v = .slice (some ⟨g, 0, none⟩) (encZ r).length (encZ r).length) ∧ Below w.heap.size w w' := by
  have q0 : 0 ≤ r / 64 ∧ 0 ≤ r % 64 ∧ r % 64 ≤ 63 ∧ 0 ≤ r / 4096 ∧ 0 ≤ r / 262144 ∧ r / 262144 ≤ 4 ∧ 0 ≤ r / 64 % 64 ∧ r / 64 % 64 ≤ 63 ∧ 0 ≤ r / 4096 % 64 ∧ r / 4096 % 64 ≤ 63 := by omega
  obtain ⟨q1, q2, q3, q4, q5, q6, q7, q8, q9, q10⟩ := q0
  by_cases c1 : r < 128
  · have he : encZ r = [r] := by unfold encZ; rw [if_pos c1]
    rw [he]
    clear he
    go_enter Tryd.func12, Tryd.ntmps12
    go_wp2
    go_ret
    exact ⟨_, rfl, World.ownsRow_lit w _ _ (Nat.le_refl _) (by decide) rfl, ⟨_, rfl⟩, by (repeat' (first | (with_reducible exact Below.refl _ _) | (with_reducible assumption) | (with_reducible refine below_alloc ?_ _) | (with_reducible refine Below.drew ?_) | (with_reducible refine below_drewN ?_ _) | (with_reducible refine Below.setCell ?_ ?_ _) | go_size | (refine below_next ?_ (by assumption))))⟩
  by_cases c2 : r < 2048
  · have he : encZ r = [192 + r / 64, 128 + r % 64] := by unfold encZ; rw [if_neg c1, if_pos c2]
    have q11 : r / 64 ≤ 31 := by omega
    rw [he]
    clear he
    go_enter Tryd.func12, Tryd.ntmps12
    go_wp2
    go_ret
    exact ⟨_, rfl, World.ownsRow_lit w _ _ (Nat.le_refl _) (by decide) rfl, ⟨_, rfl⟩, by (repeat' (first | (with_reducible exact Below.refl _ _) | (with_reducible assumption) | (with_reducible refine below_alloc ?_ _) | (with_reducible refine Below.drew ?_) | (with_reducible refine below_drewN ?_ _) | (with_reducible refine Below.setCell ?_ ?_ _) | go_size | (refine below_next ?_ (by assumption))))⟩
  by_cases c3 : r < 65536
  · have he : encZ r = [224 + r / 4096, 128 + r / 64 % 64, 128 + r % 64] := by unfold encZ; rw [if_neg c1, if_neg c2, if_pos c3]
    have q11 : r / 4096 ≤ 15 := by omega
    rw [he]
    clear he
    go_enter Tryd.func12, Tryd.ntmps12
    go_wp2
    go_ret
    exact ⟨_, rfl, World.ownsRow_lit w _ _ (Nat.le_refl _) (by decide) rfl, ⟨_, rfl⟩, by (repeat' (first | (with_reducible exact Below.refl _ _) | (with_reducible assumption) | (with_reducible refine below_alloc ?_ _) | (with_reducible refine Below.drew ?_) | (with_reducible refine below_drewN ?_ _) | (with_reducible refine Below.setCell ?_ ?_ _) | go_size | (refine below_next ?_ (by assumption))))⟩
  · have he : encZ r = [240 + r / 262144, 128 + r / 4096 % 64, 128 + r / 64 % 64, 128 + r % 64] := by unfold encZ; rw [if_neg c1, if_neg c2, if_neg c3]
    rw [he]
    clear he
    go_enter Tryd.func12, Tryd.ntmps12
    go_wp2
    go_ret
    exact ⟨_, rfl, World.ownsRow_lit w _ _ (Nat.le_refl _) (by decide) rfl, ⟨_, rfl⟩, by (repeat' (first | (with_reducible exact Below.refl _ _) | (with_reducible assumption) | (with_reducible refine below_alloc ?_ _) | (with_reducible refine Below.drew ?_) | (with_reducible refine below_drewN ?_ _) | (with_reducible refine Below.setCell ?_ ?_ _) | go_size | (refine below_next ?_ (by assumption))))⟩

/-! ### Rtx -/

def encU (r : Int) : List UInt8 := (encZ r).map fun x => UInt8.ofNat x.toNat
theorem encZ_bd (r : Int) (h0 : 0 ≤ r) (h1 : r ≤ 1114111) : ∀ x ∈ encZ r, 0 ≤ x ∧ x ≤ 255 := by
  unfold encZ
  intro x hx
  split at hx
  · simp at hx; omega
  · split at hx
    · simp at hx; omega
    · split at hx
      · simp at hx; omega
      · simp at hx; omega
theorem encU_cells (r : Int) (h0 : 0 ≤ r) (h1 : r ≤ 1114111) : u8c (encU r) = u8z (encZ r) := by
  unfold u8c encU u8z
  rw [List.map_map]
  apply List.map_congr_left
  intro x hx
  obtain ⟨a, b⟩ := encZ_bd r h0 h1 x hx
  show Value.int .u8 ((UInt8.ofNat x.toNat).toNat : Int) = .int .u8 x
  rw [UInt8.toNat_ofNat_of_lt' (show x.toNat < 256 by omega)]
  congr 1
  omega
theorem encZ_len (r : Int) : 1 ≤ (encZ r).length ∧ (encZ r).length ≤ 4 := by
  unfold encZ
  (repeat' split) <;> simp
theorem u8z_one (l : List Int) : ∀ u ∈ u8z l, u.oneCell' = true := by
  intro u hu
  obtain ⟨x, _, rfl⟩ := List.mem_map.mp hu
  rfl

theorem rText (v : Value) (B : Nat) (l : List Int) (hl : ∀ r ∈ l, 0 ≤ r ∧ r ≤ 1114111) (hz : l.length ≤ 100000) (w : World) (hv : w.ownsRow B 21 1 v l.length (i32c l)) :
    Calls Tryd.prog 77 #[v] w fun e w' => e = .returned (.string ⟨(l.flatMap encU).toArray⟩) ∧ Below w.heap.size w w' := by
  obtain ⟨i0, hi, hz0, hz1, hz2⟩ := info_parts info_u8
  obtain ⟨R, hR⟩ : ∃ R, R = l.flatMap encU := ⟨_, rfl⟩
  rw [← hR]
  have HR := Lib.hid hR
  clear hR
  have hcases : (v = .slice none 0 0 ∧ l = []) ∨ ∃ g cap, v = .slice (some ⟨g, 0, none⟩) l.length cap ∧ g < w.heap.size ∧ l.length ≤ cap ∧ ∀ j (hj : j < l.length), w.cell? ⟨g, j, none⟩ = some (.int .i32 l[j]) := by
    rcases hv.2 with ⟨h1, h2⟩ | ⟨g, cap, cur, rfl, _, hg, hc, _⟩
    · exact .inl ⟨h1, List.length_eq_zero_iff.1 h2⟩
    · refine .inr ⟨g, cap, rfl, (Array.getElem?_eq_some_iff.1 hg).1, hc, fun j hj => ?_⟩
      rw [hv.cellAt j (by omega)]
      simp [i32c, hj]
  clear hv
  rcases hcases with ⟨rfl, rfl⟩ | ⟨g, cap, rfl, hg, hcap, hcell⟩
  · go_enter Tryd.func77, Tryd.ntmps77
    have hR : R = [] := HR.out
    subst hR
    have hbk := bytes_back (wr := w) (B := 0) (v := .slice none 0 0) (l := []) (World.ownsRow_nil w 0 5 1)
    go_wp2_with fail
    refine wp_loop_rounds 1 ?_
    rw [rounds_succ]
    go_wp2
    go_ret
    exact ⟨rfl, Below.refl _ _⟩
  · have HCELL := Lib.hid hcell
    have HL := Lib.hid hl
    clear hcell hl
    go_enter Tryd.func77, Tryd.ntmps77
    go_wp2_with fail
    go_loopw [3, 4] (fun v u wr => ∃ (k n : Nat) (pre : List UInt8), u = .int .i64 k ∧ k ≤ l.length ∧ pre.length = n ∧ pre ++ (l.drop k).flatMap encU = R ∧ n ≤ 4 * k ∧ wr.ownsRow w.heap.size 5 1 v n (u8c pre) ∧ Below w.heap.size w wr) (fun _ u _ => l.length - (intOf u).toNat)
    case atStart => exact ⟨0, 0, [], rfl, Nat.zero_le _, rfl, HR.out.symm, by omega, World.ownsRow_nil _ _ _ _, Below.refl _ _⟩
    case round =>
      obtain ⟨k, n, pre, rfl, hk, hln, hpre, hn4, hown, hB⟩ := hrel
      have HLN := Lib.hid hln
      have HP := Lib.hid hpre
      clear hln hpre
      by_cases hlt : k < l.length
      · have hI : (k : Int) < (l.length : Int) := by omega
        have hc : wr.cell? ⟨g, k, none⟩ = some (.int .i32 (l[k]'hlt)) := (hB.cell (p := ⟨g, k, none⟩) hg).trans (HCELL.out k hlt)
        obtain ⟨r0, r1⟩ := HL.out (l[k]'hlt) (List.getElem_mem hlt)
        obtain ⟨x, hx⟩ : ∃ x, x = l[k]'hlt := ⟨_, rfl⟩
        rw [← hx] at hc r0 r1
        have HS : Hid (pre ++ encU x ++ (l.drop (k + 1)).flatMap encU = R) := Lib.hid (by
          rw [← HP.out, List.drop_eq_getElem_cons hlt, List.flatMap_cons, hx]
          simp)
        clear hx
        have HBY := Lib.hid (rBytes x r0 r1 wr)
        have hel := encZ_len x
        have HEC := Lib.hid (encU_cells x r0 r1)
        have HEL : Hid ((encU x).length = (encZ x).length) := Lib.hid (by simp [encU])
        go_wp2_with fail
        refine HBY.out.mono ?_
        rintro e w1 ⟨v2, rfl, own2, ⟨g2, rfl⟩, hb1⟩
        have hb1x := below_next hB hb1
        have own1 := own_below hown hb1
        have hs1 := hb1x.size
        clear hown hb1 hB hc
        go_wp2_with (first | (at_builtin; refine wpList_append_own _ rfl _ _ 25 rfl w.heap.size 5 i0 (.int .u8 0) 1 1 Tryd.underlying25 hi hz0 hz1 hz2 rfl (by decide) _ _ _ rfl own1 ⟨g2, 0, none⟩ (encZ x).length (encZ x).length (u8z (encZ x)) rfl (by simp [u8z]) (own2.cells rfl) (u8z_one _) (by unfold maxLen; omega) (by omega) (by omega) ?_; intro v' w9 hown' hgrow _))
        have hB' : Below w.heap.size w w9 := Below.grown hb1x hgrow hb1x.size (fun j hj => (own1.lt j hj).1)
        have HO : Hid (w9.ownsRow w.heap.size 5 1 v' (n + (encZ x).length) (u8c (pre ++ encU x))) := Lib.hid (by
          have e : u8c (pre ++ encU x) = u8c pre ++ u8z (encZ x) := by rw [← HEC.out]; simp [u8c]
          rw [e]
          exact hown')
        refine ⟨⟨k + 1, n + (encZ x).length, pre ++ encU x, by go_num, by omega, by rw [List.length_append, HLN.out, HEL.out], HS.out, by omega, HO.out, hB'⟩, by simp [intOf]; omega⟩
      · have hl2 : pre = R := by
          have := HP.out
          rw [List.drop_eq_nil_of_le (by omega)] at this
          simpa using this
        have hown2 := hown
        rw [← HLN.out, hl2] at hown2
        have hbk := bytes_back hown2
        clear hown2 hl2
        go_wp2
        go_ret
        exact ⟨rfl, hB⟩

/-! ### Pen -/

theorem encU_of (r : Int) (l : List UInt8) (h : encZ r = l.map fun b => (b.toNat : Int)) : encU r = l := by
  unfold encU
  rw [h, List.map_map]
  conv => rhs; rw [← List.map_id l]
  apply List.map_congr_left
  intro b _
  show UInt8.ofNat ((b.toNat : Int)).toNat = b
  rw [Int.toNat_natCast, UInt8.ofNat_toNat]

theorem secB_bd (a x : Int) (h : (secB a x && moreB x) = true) : 128 ≤ x ∧ x ≤ 191 ∧ (a = 224 → 160 ≤ x) ∧ (a = 240 → 144 ≤ x) ∧ (a = 244 → x ≤ 143) ∧ (a = 237 → x ≤ 159) := by
  rw [Bool.and_eq_true] at h
  obtain ⟨h1, h2⟩ := h
  simp [moreB] at h2
  refine ⟨h2.1, h2.2, ?_, ?_, ?_, ?_⟩
  · rintro rfl; rw [secB_224] at h1; simp at h1; omega
  · rintro rfl; rw [secB_240] at h1; simp at h1; omega
  · rintro rfl; rw [secB_244] at h1; simp at h1; omega
  · rintro rfl; rw [secB_237] at h1; simp at h1; omega

theorem enc_piece (b : UInt8) (t : List UInt8) (L : Nat) (hw : wantZ (b.toNat : Int) = (L : Int)) (hL : ¬ L = 0) (ht : t.length + 1 = L) (hc : contB (b.toNat : Int) t 1 = true) :
    encU (scN ((b.toNat : Int) - offL L) t) = b :: t ∧ 0 ≤ scN ((b.toNat : Int) - offL L) t ∧ scN ((b.toNat : Int) - offL L) t ≤ 1114111 := by
  have hl := b.toNat_lt
  have hcases : (L = 1 ∧ (b.toNat : Int) < 128) ∨ (L = 2 ∧ 194 ≤ (b.toNat : Int) ∧ (b.toNat : Int) ≤ 223) ∨ (L = 3 ∧ 224 ≤ (b.toNat : Int) ∧ (b.toNat : Int) ≤ 239) ∨ (L = 4 ∧ 240 ≤ (b.toNat : Int) ∧ (b.toNat : Int) ≤ 244) := by
    unfold wantZ at hw
    split at hw
    · exact .inl ⟨by omega, by omega⟩
    · split at hw
      · exact .inr (.inl ⟨by omega, by omega, by omega⟩)
      · split at hw
        · exact .inr (.inr (.inl ⟨by omega, by omega, by omega⟩))
        · split at hw
          · exact .inr (.inr (.inr ⟨by omega, by omega, by omega⟩))
          · omega
  rcases hcases with ⟨rfl, h1⟩ | ⟨rfl, h1, h2⟩ | ⟨rfl, h1, h2⟩ | ⟨rfl, h1, h2⟩
  · have : t = [] := List.length_eq_zero_iff.1 (by omega)
    subst this
    have e : scN ((b.toNat : Int) - offL 1) [] = (b.toNat : Int) := by show (b.toNat : Int) - 0 = _; omega
    rw [e]
    refine ⟨encU_of _ _ ?_, by omega, by omega⟩
    unfold encZ
    rw [if_pos h1]
    rfl
  · obtain ⟨x, rfl⟩ : ∃ x, t = [x] := List.length_eq_one_iff.1 (by omega)
    rw [cb_one] at hc
    simp only [contB, Bool.and_true, Bool.and_eq_true] at hc
    obtain ⟨x0, x1, _⟩ := secB_bd _ _ (show (secB (b.toNat : Int) (x.toNat : Int) && moreB (x.toNat : Int)) = true by rw [hc.1, hc.2]; rfl)
    have e : scN ((b.toNat : Int) - offL 2) [x] = 64 * ((b.toNat : Int) - 192) + (x.toNat : Int) - 128 := rfl
    rw [e]
    obtain ⟨r, hr⟩ : ∃ r, r = 64 * ((b.toNat : Int) - 192) + (x.toNat : Int) - 128 := ⟨_, rfl⟩
    rw [← hr]
    refine ⟨encU_of _ _ ?_, by omega, by omega⟩
    unfold encZ
    rw [if_neg (by omega), if_pos (by omega)]
    have a1 : 192 + r / 64 = (b.toNat : Int) := by omega
    have a2 : 128 + r % 64 = (x.toNat : Int) := by omega
    rw [a1, a2]
    rfl
  · obtain ⟨x, y, rfl⟩ : ∃ x y, t = [x, y] := by
      rcases t with _ | ⟨x, _ | ⟨y, _ | ⟨z, t⟩⟩⟩ <;> simp at ht
      exact ⟨x, y, rfl⟩
    rw [cb_one, cb_more _ _ _ _ (by omega)] at hc
    simp only [contB, Bool.and_true, Bool.and_eq_true] at hc
    obtain ⟨⟨s1, m1⟩, hy⟩ := hc
    obtain ⟨x0, x1, x2, _⟩ := secB_bd _ _ (show (secB (b.toNat : Int) (x.toNat : Int) && moreB (x.toNat : Int)) = true by rw [s1, m1]; rfl)
    simp [moreB] at hy
    have e : scN ((b.toNat : Int) - offL 3) [x, y] = 64 * (64 * ((b.toNat : Int) - 224) + (x.toNat : Int) - 128) + (y.toNat : Int) - 128 := rfl
    rw [e]
    obtain ⟨r, hr⟩ : ∃ r, r = 64 * (64 * ((b.toNat : Int) - 224) + (x.toNat : Int) - 128) + (y.toNat : Int) - 128 := ⟨_, rfl⟩
    rw [← hr]
    have x3 : (b.toNat : Int) = 224 ∨ 225 ≤ (b.toNat : Int) := by omega
    have lo : 2048 ≤ r := by
      rcases x3 with h | h
      · have := x2 h; omega
      · omega
    refine ⟨encU_of _ _ ?_, by omega, by omega⟩
    unfold encZ
    rw [if_neg (by omega), if_neg (by omega), if_pos (by omega)]
    have a1 : 224 + r / 4096 = (b.toNat : Int) := by omega
    have a2 : 128 + r / 64 % 64 = (x.toNat : Int) := by omega
    have a3 : 128 + r % 64 = (y.toNat : Int) := by omega
    rw [a1, a2, a3]
    rfl
  · obtain ⟨x, y, z, rfl⟩ : ∃ x y z, t = [x, y, z] := by
      rcases t with _ | ⟨x, _ | ⟨y, _ | ⟨z, _ | ⟨u, t⟩⟩⟩⟩ <;> simp at ht
      exact ⟨x, y, z, rfl⟩
    rw [cb_one, cb_more _ _ _ _ (by omega), cb_more _ _ _ _ (by omega)] at hc
    simp only [contB, Bool.and_true, Bool.and_eq_true] at hc
    obtain ⟨⟨s1, m1⟩, hy, hz⟩ := hc
    obtain ⟨x0, x1, _, x2, x4, _⟩ := secB_bd _ _ (show (secB (b.toNat : Int) (x.toNat : Int) && moreB (x.toNat : Int)) = true by rw [s1, m1]; rfl)
    simp [moreB] at hy hz
    have e : scN ((b.toNat : Int) - offL 4) [x, y, z] = 64 * (64 * (64 * ((b.toNat : Int) - 240) + (x.toNat : Int) - 128) + (y.toNat : Int) - 128) + (z.toNat : Int) - 128 := rfl
    rw [e]
    obtain ⟨r, hr⟩ : ∃ r, r = 64 * (64 * (64 * ((b.toNat : Int) - 240) + (x.toNat : Int) - 128) + (y.toNat : Int) - 128) + (z.toNat : Int) - 128 := ⟨_, rfl⟩
    rw [← hr]
    have x3 : (b.toNat : Int) = 240 ∨ 241 ≤ (b.toNat : Int) := by omega
    have x5 : (b.toNat : Int) = 244 ∨ (b.toNat : Int) ≤ 243 := by omega
    have lo : 65536 ≤ r := by
      rcases x3 with h | h
      · have := x2 h; omega
      · omega
    have up : r ≤ 1114111 := by
      rcases x5 with h | h
      · have := x4 h; omega
      · omega
    refine ⟨encU_of _ _ ?_, by omega, up⟩
    unfold encZ
    rw [if_neg (by omega), if_neg (by omega), if_neg (by omega)]
    have a1 : 240 + r / 262144 = (b.toNat : Int) := by omega
    have a2 : 128 + r / 4096 % 64 = (x.toNat : Int) := by omega
    have a3 : 128 + r / 64 % 64 = (y.toNat : Int) := by omega
    have a4 : 128 + r % 64 = (z.toNat : Int) := by omega
    rw [a1, a2, a3, a4]
    rfl

theorem rune_piece (b : UInt8) (t : List UInt8) : encU (runeOf ((b :: t).take (measTab encT b t).1, (measTab encT b t).2)) = okP ((b :: t).take (measTab encT b t).1, (measTab encT b t).2) ∧
    0 ≤ runeOf ((b :: t).take (measTab encT b t).1, (measTab encT b t).2) ∧ runeOf ((b :: t).take (measTab encT b t).1, (measTab encT b t).2) ≤ 1114111 := by
  have hp := measTab_pos encT b t
  obtain ⟨f1, f2⟩ := first_whole b t
  cases hok : (measTab encT b t).2 with
  | false => exact ⟨rfl, show (0 : Int) ≤ 65533 by decide, show (65533 : Int) ≤ 1114111 by decide⟩
  | true =>
    have f3 := f2 hok
    rw [hok, ← f3] at f1
    have f4 := f1.symm
    rw [Int.toNat_natCast] at f4
    simp only [Bool.and_eq_true] at f4
    generalize (measTab encT b t).1 = L at hp f3 f4
    obtain ⟨j, rfl⟩ : ∃ j, L = j + 1 := ⟨L - 1, by omega⟩
    have hlen : (t.take j).length + 1 = j + 1 := by rw [List.length_take]; omega
    have h := enc_piece b (t.take j) (j + 1) f3.symm (by omega) hlen f4.2
    have e : runeOf ((b :: t).take (j + 1), true) = scN ((b.toNat : Int) - offL (j + 1)) (t.take j) := by
      show scN ((b.toNat : Int) - offL (1 + (t.take j).length)) (t.take j) = _
      rw [Nat.add_comm 1, hlen]
    rw [e]
    exact h
theorem runes_all : ∀ (n : Nat) (l : List UInt8), l.length ≤ n → (runesL l).flatMap encU = decL l ∧ ∀ r ∈ runesL l, 0 ≤ r ∧ r ≤ 1114111
  | _, [], _ => ⟨rfl, by intro r hr; simp [runesL, piecesL, piecesF] at hr⟩
  | 0, b :: t, h => by simp at h
  | n + 1, b :: t, h => by
    have hp := measTab_pos encT b t
    obtain ⟨h1, h2, h3⟩ := rune_piece b t
    obtain ⟨i1, i2⟩ := runes_all n ((b :: t).drop (measTab encT b t).1) (by simp at h ⊢; omega)
    rw [runesL_cons]
    refine ⟨?_, ?_⟩
    · rw [List.flatMap_cons, h1, i1]
      unfold decL
      conv => rhs; rw [piecesL_cons, List.flatMap_cons]
    · intro r hr
      rw [List.mem_cons] at hr
      rcases hr with rfl | hr
      · exact ⟨h2, h3⟩
      · exact i2 r hr
end Go.Proofs.YtheiehbfbgjgpabDoor

namespace Go.Proofs.YtheiehbfbgjgpabDoor
open Go.RowKit
set_option maxHeartbeats 1000000
set_option maxRecDepth 100000

theorem all_okV (s : ByteArray) : ((piecesB s).all fun x => x.1.2) = okV s.data.toList := by
  unfold piecesB okV
  rw [List.all_map]
  rfl
theorem okV_iff (l : List UInt8) : okV l = true ↔ Whole1 l := by
  unfold okV Whole1
  rw [List.all_eq_true]
theorem okV_dec (s : ByteArray) : okV (decS s).data.toList = true := by
  rw [okV_iff, decS_decL]
  exact whole_dec _
theorem dec_eq (s : ByteArray) : ((decS s).toList == s.toList) = okV s.data.toList := by
  rw [Lib.toList_data, Lib.toList_data, decS_decL, Bool.eq_iff_iff, beq_iff_eq, okV_iff]
  constructor
  · intro h
    rw [← h]
    exact whole_dec _
  · exact whole_same

end Go.Proofs.YtheiehbfbgjgpabDoor

namespace Go.Proofs.YtheiehbfbgjgpabDoor
open Go.RowKit
set_option maxHeartbeats 1000000

theorem piece_ok (b : UInt8) (t : List UInt8) (n : Nat) (hn : wantZ (b.toNat : Int) = (n : Int)) (h0 : ¬ n = 0) (h1 : n ≤ 1 + t.length) (hc : contB (b.toNat : Int) (t.take (n - 1)) 1 = true) : piecesL (b :: t) = ((b :: t).take n, true) :: piecesL ((b :: t).drop n) := by
  have h := first_whole b t
  have h2 : (measTab encT b t).2 = true := by
    rw [h.1, hn, Int.toNat_natCast, hc]
    simp
    omega
  have h3 := h.2 h2
  rw [hn] at h3
  have h4 : (measTab encT b t).1 = n := by omega
  rw [piecesL_cons, h2, h4]

theorem u8of (z : Int) (h0 : 0 ≤ z) (h1 : z ≤ 255) : ((UInt8.ofNat z.toNat).toNat : Int) = z := by
  rw [UInt8.toNat_ofNat_of_lt' (show z.toNat < 256 by omega)]
  omega
/-- A scalar value. -/
def ScZ (r : Int) : Prop := 0 ≤ r ∧ r ≤ 1114111 ∧ (r ≤ 55295 ∨ 57344 ≤ r)
def scB (r : Int) : Bool := decide (0 ≤ r) && decide (r ≤ 55295) || decide (57344 ≤ r) && decide (r ≤ 1114111)

theorem enc_form (r : Int) (h0 : 0 ≤ r) (h1 : r ≤ 2097151) :
    (r < 128 ∧ ∃ u, encU r = [u] ∧ (u.toNat : Int) = r) ∨ (128 ≤ r ∧ r < 2048 ∧ ∃ u v, encU r = [u, v] ∧ (u.toNat : Int) = 192 + r / 64 ∧ (v.toNat : Int) = 128 + r % 64) ∨
    (2048 ≤ r ∧ r < 65536 ∧ ∃ u v x, encU r = [u, v, x] ∧ (u.toNat : Int) = 224 + r / 4096 ∧ (v.toNat : Int) = 128 + r / 64 % 64 ∧ (x.toNat : Int) = 128 + r % 64) ∨
    (65536 ≤ r ∧ ∃ u v x y, encU r = [u, v, x, y] ∧ (u.toNat : Int) = 240 + r / 262144 ∧ (v.toNat : Int) = 128 + r / 4096 % 64 ∧ (x.toNat : Int) = 128 + r / 64 % 64 ∧ (y.toNat : Int) = 128 + r % 64) := by
  unfold encU encZ
  by_cases c1 : r < 128
  · exact .inl ⟨c1, _, by rw [if_pos c1]; rfl, u8of _ h0 (by omega)⟩
  by_cases c2 : r < 2048
  · refine .inr (.inl ⟨by omega, c2, _, _, by rw [if_neg c1, if_pos c2]; rfl, u8of _ (by omega) (by omega), u8of _ (by omega) (by omega)⟩)
  by_cases c3 : r < 65536
  · refine .inr (.inr (.inl ⟨by omega, c3, _, _, _, by rw [if_neg c1, if_neg c2, if_pos c3]; rfl, u8of _ (by omega) (by omega), u8of _ (by omega) (by omega), u8of _ (by omega) (by omega)⟩))
  · refine .inr (.inr (.inr ⟨by omega, _, _, _, _, by rw [if_neg c1, if_neg c2, if_neg c3]; rfl, u8of _ (by omega) (by omega), u8of _ (by omega) (by omega), u8of _ (by omega) (by omega), u8of _ (by omega) (by omega)⟩))

theorem moreB_in {c : Int} (h0 : 128 ≤ c) (h1 : c ≤ 191) : moreB c = true := by simp [moreB, h0, h1]
theorem secB_in {a c : Int} (h0 : 128 ≤ c) (h1 : c ≤ 191) (h2 : a = 224 → 160 ≤ c) (h3 : a = 237 → c ≤ 159) (h4 : a = 240 → 144 ≤ c) (h5 : a = 244 → c ≤ 143) : secB a c = true := by
  by_cases e1 : a = 224
  · subst e1; rw [secB_224]; simp; have := h2 rfl; omega
  by_cases e2 : a = 237
  · subst e2; rw [secB_237]; simp; have := h3 rfl; omega
  by_cases e3 : a = 240
  · subst e3; rw [secB_240]; simp; have := h4 rfl; omega
  by_cases e4 : a = 244
  · subst e4; rw [secB_244]; simp; have := h5 rfl; omega
  rw [secB_oth a c e1 e2 e3 e4]
  exact moreB_in h0 h1

theorem enc_whole (r : Int) (h : ScZ r) (t : List UInt8) : piecesL (encU r ++ t) = (encU r, true) :: piecesL t := by
  obtain ⟨h0, h1, h2⟩ := h
  rcases enc_form r h0 (by omega) with ⟨c, u, e, hu⟩ | ⟨c0, c1, u, v, e, hu, hv⟩ | ⟨c0, c1, u, v, x, e, hu, hv, hx⟩ | ⟨c0, u, v, x, y, e, hu, hv, hx, hy⟩
  · rw [e]
    have := piece_ok u t 1 (by unfold wantZ; rw [if_pos (by omega)]; rfl) (by decide) (by omega) rfl
    simpa using this
  · rw [e]
    have hw : wantZ (u.toNat : Int) = (2 : Nat) := by unfold wantZ; rw [if_neg (by omega), if_pos (by omega)]; rfl
    have hc : contB (u.toNat : Int) ((v :: t).take (2 - 1)) 1 = true := by
      show contB (u.toNat : Int) [v] 1 = true
      rw [cb_one, secB_in (by omega) (by omega) (by omega) (by omega) (by omega) (by omega), moreB_in (by omega) (by omega)]
      rfl
    have := piece_ok u (v :: t) 2 hw (by decide) (by simp; omega) hc
    simpa using this
  · rw [e]
    have hw : wantZ (u.toNat : Int) = (3 : Nat) := by unfold wantZ; rw [if_neg (by omega), if_neg (by omega), if_pos (by omega)]; rfl
    have hc : contB (u.toNat : Int) ((v :: x :: t).take (3 - 1)) 1 = true := by
      show contB (u.toNat : Int) [v, x] 1 = true
      rw [cb_one, cb_more _ _ _ _ (by omega), secB_in (by omega) (by omega) (by omega) (by omega) (by omega) (by omega), moreB_in (by omega) (by omega), moreB_in (by omega) (by omega)]
      rfl
    have := piece_ok u (v :: x :: t) 3 hw (by decide) (by simp; omega) hc
    simpa using this
  · rw [e]
    have hw : wantZ (u.toNat : Int) = (4 : Nat) := by unfold wantZ; rw [if_neg (by omega), if_neg (by omega), if_neg (by omega), if_pos (by omega)]; rfl
    have hc : contB (u.toNat : Int) ((v :: x :: y :: t).take (4 - 1)) 1 = true := by
      show contB (u.toNat : Int) [v, x, y] 1 = true
      rw [cb_one, cb_more _ _ _ _ (by omega), cb_more _ _ _ _ (by omega), secB_in (by omega) (by omega) (by omega) (by omega) (by omega) (by omega), moreB_in (by omega) (by omega), moreB_in (by omega) (by omega), moreB_in (by omega) (by omega)]
      rfl
    have := piece_ok u (v :: x :: y :: t) 4 hw (by decide) (by simp; omega) hc
    simpa using this

theorem enc_bad (r : Int) (h0 : 0 ≤ r) (h1 : r ≤ 2097151) (h : ¬ ScZ r) (t : List UInt8) : okV (encU r ++ t) = false := by
  have hr : (55296 ≤ r ∧ r ≤ 57343) ∨ 1114112 ≤ r := by
    unfold ScZ at h
    omega
  rcases enc_form r h0 h1 with ⟨c, u, e, hu⟩ | ⟨c0, c1, u, v, e, hu, hv⟩ | ⟨c0, c1, u, v, x, e, hu, hv, hx⟩ | ⟨c0, u, v, x, y, e, hu, hv, hx, hy⟩
  · omega
  · omega
  · rw [e]
    have hw : wantZ (u.toNat : Int) = (3 : Nat) := by unfold wantZ; rw [if_neg (by omega), if_neg (by omega), if_pos (by omega)]; rfl
    refine okV_bad u (v :: x :: t) (.inr ?_)
    rw [hw, Int.toNat_natCast]
    show contB (u.toNat : Int) [v, x] 1 = false
    have hu2 : (u.toNat : Int) = 237 := by omega
    rw [cb_one, hu2, secB_237]
    have : decide ((v.toNat : Int) ≤ 159) = false := by simp; omega
    rw [this]
    simp
  · rw [e]
    by_cases hu2 : (u.toNat : Int) = 244
    · have hw : wantZ (u.toNat : Int) = (4 : Nat) := by unfold wantZ; rw [if_neg (by omega), if_neg (by omega), if_neg (by omega), if_pos (by omega)]; rfl
      refine okV_bad u (v :: x :: y :: t) (.inr ?_)
      rw [hw, Int.toNat_natCast]
      show contB (u.toNat : Int) [v, x, y] 1 = false
      rw [cb_one, hu2, secB_244]
      have : decide ((v.toNat : Int) ≤ 143) = false := by simp; omega
      rw [this]
      simp
    · refine okV_bad u (v :: x :: y :: t) (.inl (.inl ?_))
      unfold wantZ
      rw [if_neg (by omega), if_neg (by omega), if_neg (by omega), if_neg (by omega)]

theorem encs_whole : ∀ l : List Int, (∀ r ∈ l, ScZ r) → okV (l.flatMap encU) = true ∧ (piecesL (l.flatMap encU)).length = l.length
  | [], _ => ⟨rfl, rfl⟩
  | r :: l, h => by
    obtain ⟨i1, i2⟩ := encs_whole l fun x hx => h x (by simp [hx])
    unfold okV at i1 ⊢
    rw [List.flatMap_cons, enc_whole r (h r (by simp)), List.all_cons, i1, List.length_cons, List.length_cons, i2]
    exact ⟨rfl, rfl⟩
theorem encs_bad : ∀ l : List Int, (∀ r ∈ l, 0 ≤ r ∧ r ≤ 2097151) → (∃ r ∈ l, ¬ ScZ r) → okV (l.flatMap encU) = false
  | [], _, h => by obtain ⟨r, hr, _⟩ := h; simp at hr
  | r :: l, h, hb => by
    rw [List.flatMap_cons]
    obtain ⟨h0, h1⟩ := h r (by simp)
    by_cases hr : ScZ r
    · have ih := encs_bad l (fun x hx => h x (by simp [hx])) (by
        obtain ⟨x, hx, hn⟩ := hb
        rcases List.mem_cons.1 hx with rfl | hx
        · exact absurd hr hn
        · exact ⟨x, hx, hn⟩)
      unfold okV at ih ⊢
      rw [enc_whole r hr, List.all_cons, ih]
      rfl
    · exact enc_bad r h0 h1 hr _
end Go.Proofs.YtheiehbfbgjgpabDoor

namespace Go.Proofs.YtheiehbfbgjgpabDoor
open Go.RowKit
set_option maxHeartbeats 2000000
set_option maxRecDepth 100000

theorem rScalarN (r : Int) (w : World) : Calls Tryd.prog 11 #[.int .i32 r] w fun e w' => e = .returned (.bool (scB r)) ∧ w' = w := by
  go_enter Tryd.func11, Tryd.ntmps11
  go_wp2
  all_goals go_ret
  all_goals refine ⟨?_, rfl⟩
  all_goals (first | (simp [scB, *]; done) | (simp [scB, *]; omega))

theorem rBytesN (r : Int) (h0 : 0 ≤ r) (h1 : r ≤ 2097151) (w : World) :
    Calls Tryd.prog 12 #[.int .i32 r] w fun e w' => ∃ v, e = .returned v ∧ w'.ownsRow w.heap.size 5 1 v (encU r).length (u8c (encU r)) ∧ Below w.heap.size w w' := by
  have q0 : 0 ≤ r / 64 ∧ 0 ≤ r % 64 ∧ r % 64 ≤ 63 ∧ 0 ≤ r / 4096 ∧ 0 ≤ r / 262144 ∧ r / 262144 ≤ 7 ∧ 0 ≤ r / 64 % 64 ∧ r / 64 % 64 ≤ 63 ∧ 0 ≤ r / 4096 % 64 ∧ r / 4096 % 64 ≤ 63 := by omega
  obtain ⟨q1, q2, q3, q4, q5, q6, q7, q8, q9, q10⟩ := q0
  rcases enc_form r h0 h1 with ⟨c, u, e, hu⟩ | ⟨c0, c1, u, v, e, hu, hv⟩ | ⟨c0, c1, u, v, x, e, hu, hv, hx⟩ | ⟨c0, u, v, x, y, e, hu, hv, hx, hy⟩
  · rw [e]
    have he : u8c [u] = [.int .u8 r] := by simp [u8c, hu]
    rw [he]
    clear e he hu
    go_enter Tryd.func12, Tryd.ntmps12
    go_wp2
    go_ret
    exact ⟨_, rfl, World.ownsRow_lit w _ _ (Nat.le_refl _) (by decide) rfl, by (repeat' (first | (with_reducible exact Below.refl _ _) | (with_reducible assumption) | (with_reducible refine below_alloc ?_ _) | (with_reducible refine Below.drew ?_) | (with_reducible refine below_drewN ?_ _) | (with_reducible refine Below.setCell ?_ ?_ _) | go_size | (refine below_next ?_ (by assumption))))⟩
  · rw [e]
    have he : u8c [u, v] = [.int .u8 (192 + r / 64), .int .u8 (128 + r % 64)] := by simp [u8c, hu, hv]
    have q11 : r / 64 ≤ 31 := by omega
    rw [he]
    clear e he hu hv
    go_enter Tryd.func12, Tryd.ntmps12
    go_wp2
    go_ret
    exact ⟨_, rfl, World.ownsRow_lit w _ _ (Nat.le_refl _) (by decide) rfl, by (repeat' (first | (with_reducible exact Below.refl _ _) | (with_reducible assumption) | (with_reducible refine below_alloc ?_ _) | (with_reducible refine Below.drew ?_) | (with_reducible refine below_drewN ?_ _) | (with_reducible refine Below.setCell ?_ ?_ _) | go_size | (refine below_next ?_ (by assumption))))⟩
  · rw [e]
    have he : u8c [u, v, x] = [.int .u8 (224 + r / 4096), .int .u8 (128 + r / 64 % 64), .int .u8 (128 + r % 64)] := by simp [u8c, hu, hv, hx]
    have q11 : r / 4096 ≤ 15 := by omega
    rw [he]
    clear e he hu hv hx
    go_enter Tryd.func12, Tryd.ntmps12
    go_wp2
    go_ret
    exact ⟨_, rfl, World.ownsRow_lit w _ _ (Nat.le_refl _) (by decide) rfl, by (repeat' (first | (with_reducible exact Below.refl _ _) | (with_reducible assumption) | (with_reducible refine below_alloc ?_ _) | (with_reducible refine Below.drew ?_) | (with_reducible refine below_drewN ?_ _) | (with_reducible refine Below.setCell ?_ ?_ _) | go_size | (refine below_next ?_ (by assumption))))⟩
  · rw [e]
    have he : u8c [u, v, x, y] = [.int .u8 (240 + r / 262144), .int .u8 (128 + r / 4096 % 64), .int .u8 (128 + r / 64 % 64), .int .u8 (128 + r % 64)] := by simp [u8c, hu, hv, hx, hy]
    rw [he]
    clear e he hu hv hx hy
    go_enter Tryd.func12, Tryd.ntmps12
    go_wp2
    go_ret
    exact ⟨_, rfl, World.ownsRow_lit w _ _ (Nat.le_refl _) (by decide) rfl, by (repeat' (first | (with_reducible exact Below.refl _ _) | (with_reducible assumption) | (with_reducible refine below_alloc ?_ _) | (with_reducible refine Below.drew ?_) | (with_reducible refine below_drewN ?_ _) | (with_reducible refine Below.setCell ?_ ?_ _) | go_size | (refine below_next ?_ (by assumption))))⟩

/-- The bytes of a list of numbers. -/
def encS (l : List Int) : ByteArray := ⟨(l.flatMap encU).toArray⟩
theorem encS_size (l : List Int) : (encS l).size ≤ 4 * l.length := by
  rw [← size_list]
  show (l.flatMap encU).length ≤ _
  induction l with
  | nil => simp
  | cons r l ih =>
    rw [List.flatMap_cons, List.length_append, List.length_cons]
    have : (encU r).length ≤ 4 := by
      have := encZ_len r
      simp [encU]
      omega
    omega
theorem encS_snoc (l : List Int) (r : Int) : encS (l ++ [r]) = encS l ++ ⟨(encU r).toArray⟩ := by
  apply list_bytes
  rw [ByteArray.data_append, Array.toList_append]
  show (l ++ [r]).flatMap encU = l.flatMap encU ++ encU r
  simp

theorem take_snocI (l : List Int) (k : Nat) (h : k < l.length) : l.take (k + 1) = l.take k ++ [l[k]] := by
  rw [List.take_succ_eq_append_getElem h]
theorem fine_of (l : List Int) (h : l.all scB = true) : ∀ r ∈ l, ScZ r := by
  intro r hr
  have := List.all_eq_true.1 h r hr
  simp [scB] at this
  unfold ScZ
  omega
theorem bad_of (l : List Int) (h : l.all scB = false) : ∃ r ∈ l, ¬ ScZ r := by
  rw [List.all_eq_false] at h
  obtain ⟨r, hr, hn⟩ := h
  refine ⟨r, hr, ?_⟩
  intro hs
  apply hn
  unfold ScZ at hs
  simp [scB]
  omega

theorem scalars_small (ad : Option Addr) (cap : Nat) (l : List Int) (hl : l.length ≤ 1000) (m : Int) (w : World) (hm : Ml m w) (hc : ∀ j (h : j < l.length), ∃ g o, ad = some ⟨g, o, none⟩ ∧ w.cell? ⟨g, o + j, none⟩ = some (.int .i64 l[j])) :
    Calls Tryd.prog 3 #[.slice ad l.length cap] w fun e w' => e = .returned (.bool true) ∧ Below w.heap.size w w' := by
  have HM := Lib.hid hm
  have HC := Lib.hid hc
  have hll : (l.length : Int) ≤ 1000 := by omega
  clear hm hc
  go_enter Tryd.func3, Tryd.ntmps3
  go_wp2_with fail
  go_loopw [3, 4, 5] (fun sv fv i wr => ∃ k : Nat, k ≤ l.length ∧ i = .int .i64 k ∧ sv = .string (encS (l.take k)) ∧ fv = .bool ((l.take k).all scB) ∧ (∀ r ∈ l.take k, 0 ≤ r ∧ r ≤ 2097151) ∧ Below w.heap.size w wr) (fun _ _ i _ => l.length - (intOf i).toNat)
  case atStart => exact ⟨0, Nat.zero_le _, rfl, rfl, rfl, by simp, Below.refl _ _⟩
  case round =>
    obtain ⟨k, hk, rfl, rfl, rfl, hin, hB⟩ := hrel
    have HIN := Lib.hid hin
    clear hin
    by_cases hlt : k < l.length
    · have hI : (k : Int) < (l.length : Int) := by omega
      obtain ⟨g, o, rfl, hc0⟩ := HC.out k hlt
      have hcell : wr.cell? ⟨g, o + k, none⟩ = some (.int .i64 l[k]) := (hB.cell (World.block_lt_of_cell? _ _ hc0)).trans hc0
      clear hc0
      have HSN := Lib.hid (take_snocI l k hlt)
      have hsz := encS_size (l.take k)
      have hsz2 : (encS (l.take k)).size ≤ 4000 := by rw [List.length_take] at hsz; omega
      clear hsz
      obtain ⟨n, hn⟩ : ∃ n, n = l[k] := ⟨_, rfl⟩
      rw [← hn] at hcell HSN
      clear hn
      generalize l.take k = T at *
      by_cases h0 : n < 0
      · go_wp2_with fail
        refine (known m _ (carry HM.out hB)).mono ?_
        rintro e w5 ⟨rfl, hb5⟩
        go_wp2_with fail
        go_ret
        exact ⟨rfl, below_next hB hb5⟩
      by_cases h1 : 2097151 < n
      · have h2 : 0 ≤ n := by omega
        clear h0
        go_wp2_with fail
        refine (known m _ (carry HM.out hB)).mono ?_
        rintro e w5 ⟨rfl, hb5⟩
        go_wp2_with fail
        go_ret
        exact ⟨rfl, below_next hB hb5⟩
      · have h2 : 0 ≤ n := by omega
        have h3 : n ≤ 2097151 := by omega
        clear h0 h1
        have HS := Lib.hid (rScalarN n)
        have HBY := Lib.hid (rBytesN n h2 h3)
        have hle : (⟨(encU n).toArray⟩ : ByteArray).size ≤ 4 := by
          have := encZ_len n
          rw [← size_list]
          show (encU n).length ≤ 4
          simp [encU]
          omega
        have HE : Hid (encS T ++ ⟨(encU n).toArray⟩ = encS (l.take (k + 1))) := Lib.hid (by rw [HSN.out, encS_snoc])
        have HA : Hid ((l.take (k + 1)).all scB = (T.all scB && scB n)) := Lib.hid (by rw [HSN.out]; simp)
        have HI2 : Hid (∀ r ∈ l.take (k + 1), 0 ≤ r ∧ r ≤ 2097151) := Lib.hid (by
          rw [HSN.out]
          intro r hr
          rcases List.mem_append.1 hr with hr | hr
          · exact HIN.out r hr
          · rw [List.mem_singleton.1 hr]; exact ⟨h2, h3⟩)
        cases hf : T.all scB with
        | true =>
          rw [hf, Bool.true_and] at HA
          clear hf
          go_wp2_with fail
          refine (HS.out _).mono ?_
          rintro e w1 ⟨rfl, rfl⟩
          go_wp2_with fail
          refine (HBY.out _).mono ?_
          rintro e w2 ⟨v, rfl, own2, hb2⟩
          have hbk := bytes_back own2
          clear own2
          go_wp2_with fail
          go_roundw
          case rel => exact ⟨k + 1, by omega, by go_num, by rw [HE.out], by rw [HA.out], HI2.out, below_next hB hb2⟩
          case measure => simp [intOf]; omega
        | false =>
          rw [hf, Bool.false_and] at HA
          clear hf
          go_wp2_with fail
          refine (HBY.out _).mono ?_
          rintro e w2 ⟨v, rfl, own2, hb2⟩
          have hbk := bytes_back own2
          clear own2
          go_wp2_with fail
          go_roundw
          case rel => exact ⟨k + 1, by omega, by go_num, by rw [HE.out], by rw [HA.out], HI2.out, below_next hB hb2⟩
          case measure => simp [intOf]; omega
    · have hkl : l.take k = l := List.take_of_length_le (by omega)
      rw [hkl]
      have hall := HIN.out
      rw [hkl] at hall
      have HALL := Lib.hid hall
      have hz := encS_size l
      have hz2 : (encS l).size ≤ 4000 := by omega
      clear hkl hall hz
      have hI : ¬ (k : Int) < (l.length : Int) := by omega
      have k1 := Lib.hid (decode (encS l) (by omega))
      have k2 := Lib.hid (valid (encS l) (by omega))
      have hd3 := decS_size3 (encS l)
      have k3 := Lib.hid (valid (decS (encS l)) (by omega))
      have k4 := Lib.hid (count (encS l) (by omega))
      rw [all_okV, okV_dec] at k3
      rw [all_okV] at k2
      have HQ := Lib.hid (dec_eq (encS l))
      cases hf : l.all scB with
      | true =>
        obtain ⟨e1, e2⟩ := encs_whole l (fine_of l hf)
        have e1' : okV (encS l).data.toList = true := e1
        have e2' : (piecesB (encS l)).length = l.length := (piecesB_length _).trans e2
        rw [e1'] at k2
        rw [e2'] at k4
        have hq : ((decS (encS l)).toList == (encS l).toList) = true := by rw [HQ.out, e1']
        clear e1 e2 e1' e2' hf hd3
        generalize decS (encS l) = d at k1 k3 hq
        generalize encS l = s at *
        go_wp2_with fail
        refine (k1.out _).mono ?_
        rintro e w1 ⟨rfl, hb1⟩
        have hb1 := below_next hB hb1
        go_wp2_with fail
        refine (k2.out _).mono ?_
        rintro e w2 ⟨rfl, hb2⟩
        have hb2 := below_next hb1 hb2
        go_wp2_with fail
        refine (k4.out _).mono ?_
        rintro e w3 ⟨rfl, hb3⟩
        have hb3 := below_next hb2 hb3
        go_wp2_with fail
        refine (known m _ (carry HM.out hb3)).mono ?_
        rintro e w4 ⟨rfl, hb4⟩
        have hb4 := below_next hb3 hb4
        go_wp2_with fail
        go_ret
        exact ⟨rfl, hb4⟩
      | false =>
        have e1' : okV (encS l).data.toList = false := encs_bad l HALL.out (bad_of l hf)
        rw [e1'] at k2
        have hq : ((decS (encS l)).toList == (encS l).toList) = false := by rw [HQ.out, e1']
        have hq2 : ((decS (encS l)).toList != (encS l).toList) = true := by rw [bne, hq]; rfl
        clear e1' hf hd3
        generalize decS (encS l) = d at k1 k3 hq hq2
        generalize encS l = s at *
        go_wp2_with fail
        refine (k1.out _).mono ?_
        rintro e w1 ⟨rfl, hb1⟩
        have hb1 := below_next hB hb1
        go_wp2_with fail
        refine (k2.out _).mono ?_
        rintro e w2 ⟨rfl, hb2⟩
        have hb2 := below_next hb1 hb2
        go_wp2_with fail
        refine (k3.out _).mono ?_
        rintro e w3 ⟨rfl, hb3⟩
        have hb3 := below_next hb2 hb3
        go_wp2_with fail
        refine (known m _ (carry HM.out hb3)).mono ?_
        rintro e w4 ⟨rfl, hb4⟩
        have hb4 := below_next hb3 hb4
        go_wp2_with fail
        go_ret
        exact ⟨rfl, hb4⟩

theorem scalars_big (ad : Option Addr) (cap len : Nat) (hl : 1000 < len) (m : Int) (w : World) (hm : Ml m w) :
    Calls Tryd.prog 3 #[.slice ad len cap] w fun e w' => e = .returned (.bool true) ∧ Below w.heap.size w w' := by
  have HM := Lib.hid hm
  have hll : (1000 : Int) < (len : Int) := by omega
  clear hm
  go_enter Tryd.func3, Tryd.ntmps3
  go_wp2_with fail
  refine (known m _ HM.out).mono ?_
  rintro e w5 ⟨rfl, hb5⟩
  go_wp2_with fail
  go_ret
  exact ⟨rfl, hb5⟩

theorem textScalars (ad : Option Addr) (cap : Nat) (l : List Int) (m : Int) (w : World) (hm : Ml m w) (hc : ∀ j (h : j < l.length), ∃ g o, ad = some ⟨g, o, none⟩ ∧ w.cell? ⟨g, o + j, none⟩ = some (.int .i64 l[j])) :
    Calls Tryd.prog 3 #[.slice ad l.length cap] w fun e w' => e = .returned (.bool true) ∧ Below w.heap.size w w' := by
  by_cases hl : l.length ≤ 1000
  · exact scalars_small ad cap l hl m w hm hc
  · exact scalars_big ad cap l.length (by omega) m w hm
end Go.Proofs.YtheiehbfbgjgpabDoor

namespace Go.Proofs.YtheiehbfbgjgpabDoor
open Go.ChangeShapes Go.WideShapes Go.ChangeAt Go.RowKit Go.WideElems
set_option maxRecDepth 100000

theorem laidOutP : laidOutB Tryd.prog = true := by kernel_rfl

theorem post_cells {H : Type} {enc : TypeId × Value → H} {P : Program} {f : Func} {s : ChangeSpec} {apart fresh handsOn again : Bool} {W W' : World} {args : Array Value} {v : Value} {ds gs : List (DataW H)} {before pa pv : List MemPlace}
    (hW : DataW.Whole enc P f.params.toList s.vars apart W args.toList ds gs before)
    (hres : ∀ (b : Nat) (sp : Nat → Bool) (hd : Bool), DataW.TrodAll enc P W' b sp hd f.resultTypes.toList (v.resultList f.resultTypes.size) (s.fn H (ds ++ gs)).results [])
    (hargs : ∀ sp : Nat → Bool, (∀ p ∈ before, sp p.block = true) → DataW.TrodAll enc P W' 0 sp true f.params.toList args.toList (s.fn H (ds ++ gs)).args pa)
    (hvars : ∀ sp : Nat → Bool, (∀ p ∈ before, sp p.block = true) → DataW.TrodVars enc P W' sp s.vars (s.fn H (ds ++ gs)).vars pv)
    (hps : before = pa ++ pv) (hb : Below W.heap.size W W')
    (hok : ∀ (j : Nat) (t : TypeId) (r : Value), f.resultTypes[j]? = some t → (v.resultList f.resultTypes.size)[j]? = some r → Value.okWide P W' .any 0 t r) :
    s.post enc P f apart fresh handsOn again W args v W' := by
  have hlt : ∀ p ∈ before, p.block < W.heap.size := hW.lt
  have hold : ∀ p ∈ before, (fun b => decide (b < W.heap.size)) p.block = true := fun p hp => by simpa using hlt p hp
  refine ⟨ds, gs, before, [], pa, pv, hW, hres _ _ _, hargs _ hold, hvars _ hold, World.keptBut_mono (fun p hp => by cases hp) (hb.frame (· ∈ ([] : List MemPlace))), fun _ => ?_⟩
  obtain ⟨_, _, _, _, _, hz, hn⟩ := hW
  refine ⟨hok, _, _, ([] ++ pa) ++ pv, ⟨[] ++ pa, pv, trodAll_append (hargs _ (fun _ _ => rfl)) (hres _ _ _), hvars _ (fun _ _ => rfl), rfl, ?_, ?_⟩, ?_⟩
  · intro b off hp
    have hm : MemPlace.cell b off ∈ before := by rw [hps]; simpa using hp
    rw [hb.frozen (p := ⟨b, off, none⟩) (hlt _ hm)]
    exact hz b off hm
  · intro ha
    have := hn ha
    rw [hps] at this
    simpa using this
  · intro p hp _
    rw [hps]
    simpa using hp
end Go.Proofs.YtheiehbfbgjgpabDoor
