/-
  The document's own encoder, and what it says of the decoder.
  What the entries of the table are like: one look by the kernel.
  The longest name as a function of the table; what the table's entries are like. No walk in sight.
  The document's own reading of the table: where entries and names end, and their values.
  The document's own searches of the table.
  The examples of references: two kernel looks at the table.
  Names that are read whatever follows: three kernel looks at the table.
-/
import Derived.Test.YtbacdfceiofahaaGreatDoorY31
import Derived.Test.YtbacdfceiofahaaGreatDoorY28
import Derived.Test.YtbacdfceiofahaaGreatDoorY29
namespace Go.Proofs.YtbacdfceiofahaaGreatDoor
open Go.RowKit
set_option maxHeartbeats 2000000
set_option maxRecDepth 100000

/-! ### Rby -/

def encZ (n : Int) : List Int := if n < 128 then [n] else if n < 2048 then [192 + n / 64, 128 + n % 64] else if n < 65536 then [224 + n / 4096, 128 + n / 64 % 64, 128 + n % 64] else [240 + n / 262144, 128 + n / 4096 % 64, 128 + n / 64 % 64, 128 + n % 64]
def u8z (l : List Int) : List Value := l.map fun b => Value.int .u8 b

theorem rBytes (r : Int) (h0 : 0 ≤ r) (h1 : r ≤ 1114111) (w : World) :
    Calls Tryz.prog 195 #[.int .i32 r] w fun e w' => ∃ v, e = .returned v ∧ w'.ownsRow w.heap.size 5 1 v (encZ r).length (u8z (encZ r)) ∧ (∃ g, v = .slice (some ⟨g, 0, none⟩) (encZ r).length (encZ r).length) ∧ Below w.heap.size w w' := by
  have q0 : 0 ≤ r / 64 ∧ 0 ≤ r % 64 ∧ r % 64 ≤ 63 ∧ 0 ≤ r / 4096 ∧ 0 ≤ r / 262144 ∧ r / 262144 ≤ 4 ∧ 0 ≤ r / 64 % 64 ∧ r / 64 % 64 ≤ 63 ∧ 0 ≤ r / 4096 % 64 ∧ r / 4096 % 64 ≤ 63 := by omega
  obtain ⟨q1, q2, q3, q4, q5, q6, q7, q8, q9, q10⟩ := q0
  by_cases c1 : r < 128
  · have he : encZ r = [r] := by unfold encZ; rw [if_pos c1]
    rw [he]
    clear he
    go_enter Tryz.func195, Tryz.ntmps195
    go_wp2
    go_ret
    exact ⟨_, rfl, World.ownsRow_lit w _ _ (Nat.le_refl _) (by decide) rfl, ⟨_, rfl⟩, by (repeat' (first | (with_reducible exact Below.refl _ _) | (with_reducible assumption) | (with_reducible refine below_alloc ?_ _) | (with_reducible refine Below.drew ?_) | (with_reducible refine _root_.Go.below_drewN ?_ _) | (with_reducible refine Below.setCell ?_ ?_ _) | go_size | (refine below_next ?_ (by assumption))))⟩
  by_cases c2 : r < 2048
  · have he : encZ r = [192 + r / 64, 128 + r % 64] := by unfold encZ; rw [if_neg c1, if_pos c2]
    have q11 : r / 64 ≤ 31 := by omega
    rw [he]
    clear he
    go_enter Tryz.func195, Tryz.ntmps195
    go_wp2
    go_ret
    exact ⟨_, rfl, World.ownsRow_lit w _ _ (Nat.le_refl _) (by decide) rfl, ⟨_, rfl⟩, by (repeat' (first | (with_reducible exact Below.refl _ _) | (with_reducible assumption) | (with_reducible refine below_alloc ?_ _) | (with_reducible refine Below.drew ?_) | (with_reducible refine _root_.Go.below_drewN ?_ _) | (with_reducible refine Below.setCell ?_ ?_ _) | go_size | (refine below_next ?_ (by assumption))))⟩
  by_cases c3 : r < 65536
  · have he : encZ r = [224 + r / 4096, 128 + r / 64 % 64, 128 + r % 64] := by unfold encZ; rw [if_neg c1, if_neg c2, if_pos c3]
    have q11 : r / 4096 ≤ 15 := by omega
    rw [he]
    clear he
    go_enter Tryz.func195, Tryz.ntmps195
    go_wp2
    go_ret
    exact ⟨_, rfl, World.ownsRow_lit w _ _ (Nat.le_refl _) (by decide) rfl, ⟨_, rfl⟩, by (repeat' (first | (with_reducible exact Below.refl _ _) | (with_reducible assumption) | (with_reducible refine below_alloc ?_ _) | (with_reducible refine Below.drew ?_) | (with_reducible refine _root_.Go.below_drewN ?_ _) | (with_reducible refine Below.setCell ?_ ?_ _) | go_size | (refine below_next ?_ (by assumption))))⟩
  · have he : encZ r = [240 + r / 262144, 128 + r / 4096 % 64, 128 + r / 64 % 64, 128 + r % 64] := by unfold encZ; rw [if_neg c1, if_neg c2, if_neg c3]
    rw [he]
    clear he
    go_enter Tryz.func195, Tryz.ntmps195
    go_wp2
    go_ret
    exact ⟨_, rfl, World.ownsRow_lit w _ _ (Nat.le_refl _) (by decide) rfl, ⟨_, rfl⟩, by (repeat' (first | (with_reducible exact Below.refl _ _) | (with_reducible assumption) | (with_reducible refine below_alloc ?_ _) | (with_reducible refine Below.drew ?_) | (with_reducible refine _root_.Go.below_drewN ?_ _) | (with_reducible refine Below.setCell ?_ ?_ _) | go_size | (refine below_next ?_ (by assumption))))⟩

/-! ### Rtx -/

def encU (r : Int) : List UInt8 := (encZ r).map fun x => UInt8.ofNat x.toNat
theorem encZ_bd (r : Int) (h0 : 0 ≤ r) (h1 : r ≤ 1114111) : ∀ x ∈ encZ r, 0 ≤ x ∧ x ≤ 255 := by
  unfold encZ
  intro x hx
  split at hx
  · simp at hx; omega
  · split at hx
    · simp at hx; omega
    · split at hx
      · simp at hx; omega
      · simp at hx; omega
theorem encU_cells (r : Int) (h0 : 0 ≤ r) (h1 : r ≤ 1114111) : u8c (encU r) = u8z (encZ r) := by
  unfold u8c encU u8z
  rw [List.map_map]
  apply List.map_congr_left
  intro x hx
  obtain ⟨a, b⟩ := encZ_bd r h0 h1 x hx
  show Value.int .u8 ((UInt8.ofNat x.toNat).toNat : Int) = .int .u8 x
  rw [UInt8.toNat_ofNat_of_lt' (show x.toNat < 256 by omega)]
  congr 1
  omega
theorem encZ_len (r : Int) : 1 ≤ (encZ r).length ∧ (encZ r).length ≤ 4 := by
  unfold encZ
  (repeat' split) <;> simp
theorem u8z_one (l : List Int) : ∀ u ∈ u8z l, u.oneCell' = true := by
  intro u hu
  obtain ⟨x, _, rfl⟩ := List.mem_map.mp hu
  rfl

theorem rText (v : Value) (B : Nat) (l : List Int) (hl : ∀ r ∈ l, 0 ≤ r ∧ r ≤ 1114111) (hz : l.length ≤ 100000) (w : World) (hv : w.ownsRow B 21 1 v l.length (i32c l)) :
    Calls Tryz.prog 272 #[v] w fun e w' => e = .returned (.string ⟨(l.flatMap encU).toArray⟩) ∧ Below w.heap.size w w' := by
  obtain ⟨i0, hi, hz0, hz1, hz2⟩ := info_parts info_u8
  obtain ⟨R, hR⟩ : ∃ R, R = l.flatMap encU := ⟨_, rfl⟩
  rw [← hR]
  have HR := Lib.hid hR
  clear hR
  have hcases : (v = .slice none 0 0 ∧ l = []) ∨ ∃ g cap, v = .slice (some ⟨g, 0, none⟩) l.length cap ∧ g < w.heap.size ∧ l.length ≤ cap ∧ ∀ j (hj : j < l.length), w.cell? ⟨g, j, none⟩ = some (.int .i32 l[j]) := by
    rcases hv.2 with ⟨h1, h2⟩ | ⟨g, cap, cur, rfl, _, hg, hc, _⟩
    · exact .inl ⟨h1, List.length_eq_zero_iff.1 h2⟩
    · refine .inr ⟨g, cap, rfl, (Array.getElem?_eq_some_iff.1 hg).1, hc, fun j hj => ?_⟩
      rw [hv.cellAt j (by omega)]
      simp [i32c, hj]
  clear hv
  rcases hcases with ⟨rfl, rfl⟩ | ⟨g, cap, rfl, hg, hcap, hcell⟩
  · go_enter Tryz.func272, Tryz.ntmps272
    have hR : R = [] := HR.out
    subst hR
    have hbk := bytes_back (wr := w) (B := 0) (v := .slice none 0 0) (l := []) (World.ownsRow_nil w 0 5 1)
    go_wp2_with fail
    refine wp_loop_rounds 1 ?_
    rw [rounds_succ]
    go_wp2
    go_ret
    exact ⟨rfl, Below.refl _ _⟩
  · have HCELL := Lib.hid hcell
    have HL := Lib.hid hl
    clear hcell hl
    go_enter Tryz.func272, Tryz.ntmps272
    go_wp2_with fail
    go_loopw [3, 4] (fun v u wr => ∃ (k n : Nat) (pre : List UInt8), u = .int .i64 k ∧ k ≤ l.length ∧ pre.length = n ∧ pre ++ (l.drop k).flatMap encU = R ∧ n ≤ 4 * k ∧ wr.ownsRow w.heap.size 5 1 v n (u8c pre) ∧ Below w.heap.size w wr) (fun _ u _ => l.length - (intOf u).toNat)
    case atStart => exact ⟨0, 0, [], rfl, Nat.zero_le _, rfl, HR.out.symm, by omega, World.ownsRow_nil _ _ _ _, Below.refl _ _⟩
    case round =>
      obtain ⟨k, n, pre, rfl, hk, hln, hpre, hn4, hown, hB⟩ := hrel
      have HLN := Lib.hid hln
      have HP := Lib.hid hpre
      clear hln hpre
      by_cases hlt : k < l.length
      · have hI : (k : Int) < (l.length : Int) := by omega
        have hc : wr.cell? ⟨g, k, none⟩ = some (.int .i32 (l[k]'hlt)) := (hB.cell (p := ⟨g, k, none⟩) hg).trans (HCELL.out k hlt)
        obtain ⟨r0, r1⟩ := HL.out (l[k]'hlt) (List.getElem_mem hlt)
        obtain ⟨x, hx⟩ : ∃ x, x = l[k]'hlt := ⟨_, rfl⟩
        rw [← hx] at hc r0 r1
        have HS : Hid (pre ++ encU x ++ (l.drop (k + 1)).flatMap encU = R) := Lib.hid (by
          rw [← HP.out, List.drop_eq_getElem_cons hlt, List.flatMap_cons, hx]
          simp)
        clear hx
        have HBY := Lib.hid (rBytes x r0 r1 wr)
        have hel := encZ_len x
        have HEC := Lib.hid (encU_cells x r0 r1)
        have HEL : Hid ((encU x).length = (encZ x).length) := Lib.hid (by simp [encU])
        go_wp2_with fail
        refine HBY.out.mono ?_
        rintro e w1 ⟨v2, rfl, own2, ⟨g2, rfl⟩, hb1⟩
        have hb1x := below_next hB hb1
        have own1 := own_below hown hb1
        have hs1 := hb1x.size
        clear hown hb1 hB hc
        go_wp2_with (first | (at_builtin; refine wpList_append_own _ rfl _ _ 102 rfl w.heap.size 5 i0 (.int .u8 0) 1 1 Tryz.underlying102 hi hz0 hz1 hz2 rfl (by decide) _ _ _ rfl own1 ⟨g2, 0, none⟩ (encZ x).length (encZ x).length (u8z (encZ x)) rfl (by simp [u8z]) (own2.cells rfl) (u8z_one _) (by unfold maxLen; omega) (by omega) (by omega) ?_; intro v' w9 hown' hgrow _))
        have hB' : Below w.heap.size w w9 := Below.grown hb1x hgrow hb1x.size (fun j hj => (own1.lt j hj).1)
        have HO : Hid (w9.ownsRow w.heap.size 5 1 v' (n + (encZ x).length) (u8c (pre ++ encU x))) := Lib.hid (by
          have e : u8c (pre ++ encU x) = u8c pre ++ u8z (encZ x) := by rw [← HEC.out]; simp [u8c]
          rw [e]
          exact hown')
        refine ⟨⟨k + 1, n + (encZ x).length, pre ++ encU x, by go_num, by omega, by rw [List.length_append, HLN.out, HEL.out], HS.out, by omega, HO.out, hB'⟩, by simp [intOf]; omega⟩
      · have hl2 : pre = R := by
          have := HP.out
          rw [List.drop_eq_nil_of_le (by omega)] at this
          simpa using this
        have hown2 := hown
        rw [← HLN.out, hl2] at hown2
        have hbk := bytes_back hown2
        clear hown2 hl2
        go_wp2
        go_ret
        exact ⟨rfl, hB⟩

/-! ### Pen -/

theorem encU_of (r : Int) (l : List UInt8) (h : encZ r = l.map fun b => (b.toNat : Int)) : encU r = l := by
  unfold encU
  rw [h, List.map_map]
  conv => rhs; rw [← List.map_id l]
  apply List.map_congr_left
  intro b _
  show UInt8.ofNat ((b.toNat : Int)).toNat = b
  rw [Int.toNat_natCast, UInt8.ofNat_toNat]

theorem secB_bd (a x : Int) (h : (secB a x && moreB x) = true) : 128 ≤ x ∧ x ≤ 191 ∧ (a = 224 → 160 ≤ x) ∧ (a = 240 → 144 ≤ x) ∧ (a = 244 → x ≤ 143) ∧ (a = 237 → x ≤ 159) := by
  rw [Bool.and_eq_true] at h
  obtain ⟨h1, h2⟩ := h
  simp [moreB] at h2
  refine ⟨h2.1, h2.2, ?_, ?_, ?_, ?_⟩
  · rintro rfl; rw [secB_224] at h1; simp at h1; omega
  · rintro rfl; rw [secB_240] at h1; simp at h1; omega
  · rintro rfl; rw [secB_244] at h1; simp at h1; omega
  · rintro rfl; rw [secB_237] at h1; simp at h1; omega

theorem enc_piece (b : UInt8) (t : List UInt8) (L : Nat) (hw : wantZ (b.toNat : Int) = (L : Int)) (hL : ¬ L = 0) (ht : t.length + 1 = L) (hc : contB (b.toNat : Int) t 1 = true) :
    encU (scN ((b.toNat : Int) - offL L) t) = b :: t ∧ 0 ≤ scN ((b.toNat : Int) - offL L) t ∧ scN ((b.toNat : Int) - offL L) t ≤ 1114111 := by
  have hl := b.toNat_lt
  have hcases : (L = 1 ∧ (b.toNat : Int) < 128) ∨ (L = 2 ∧ 194 ≤ (b.toNat : Int) ∧ (b.toNat : Int) ≤ 223) ∨ (L = 3 ∧ 224 ≤ (b.toNat : Int) ∧ (b.toNat : Int) ≤ 239) ∨ (L = 4 ∧ 240 ≤ (b.toNat : Int) ∧ (b.toNat : Int) ≤ 244) := by
    unfold wantZ at hw
    split at hw
    · exact .inl ⟨by omega, by omega⟩
    · split at hw
      · exact .inr (.inl ⟨by omega, by omega, by omega⟩)
      · split at hw
        · exact .inr (.inr (.inl ⟨by omega, by omega, by omega⟩))
        · split at hw
          · exact .inr (.inr (.inr ⟨by omega, by omega, by omega⟩))
          · omega
  rcases hcases with ⟨rfl, h1⟩ | ⟨rfl, h1, h2⟩ | ⟨rfl, h1, h2⟩ | ⟨rfl, h1, h2⟩
  · have : t = [] := List.length_eq_zero_iff.1 (by omega)
    subst this
    have e : scN ((b.toNat : Int) - offL 1) [] = (b.toNat : Int) := by show (b.toNat : Int) - 0 = _; omega
    rw [e]
    refine ⟨encU_of _ _ ?_, by omega, by omega⟩
    unfold encZ
    rw [if_pos h1]
    rfl
  · obtain ⟨x, rfl⟩ : ∃ x, t = [x] := List.length_eq_one_iff.1 (by omega)
    rw [cb_one] at hc
    simp only [contB, Bool.and_true, Bool.and_eq_true] at hc
    obtain ⟨x0, x1, _⟩ := secB_bd _ _ (show (secB (b.toNat : Int) (x.toNat : Int) && moreB (x.toNat : Int)) = true by rw [hc.1, hc.2]; rfl)
    have e : scN ((b.toNat : Int) - offL 2) [x] = 64 * ((b.toNat : Int) - 192) + (x.toNat : Int) - 128 := rfl
    rw [e]
    obtain ⟨r, hr⟩ : ∃ r, r = 64 * ((b.toNat : Int) - 192) + (x.toNat : Int) - 128 := ⟨_, rfl⟩
    rw [← hr]
    refine ⟨encU_of _ _ ?_, by omega, by omega⟩
    unfold encZ
    rw [if_neg (by omega), if_pos (by omega)]
    have a1 : 192 + r / 64 = (b.toNat : Int) := by omega
    have a2 : 128 + r % 64 = (x.toNat : Int) := by omega
    rw [a1, a2]
    rfl
  · obtain ⟨x, y, rfl⟩ : ∃ x y, t = [x, y] := by
      rcases t with _ | ⟨x, _ | ⟨y, _ | ⟨z, t⟩⟩⟩ <;> simp at ht
      exact ⟨x, y, rfl⟩
    rw [cb_one, cb_more _ _ _ _ (by omega)] at hc
    simp only [contB, Bool.and_true, Bool.and_eq_true] at hc
    obtain ⟨⟨s1, m1⟩, hy⟩ := hc
    obtain ⟨x0, x1, x2, _⟩ := secB_bd _ _ (show (secB (b.toNat : Int) (x.toNat : Int) && moreB (x.toNat : Int)) = true by rw [s1, m1]; rfl)
    simp [moreB] at hy
    have e : scN ((b.toNat : Int) - offL 3) [x, y] = 64 * (64 * ((b.toNat : Int) - 224) + (x.toNat : Int) - 128) + (y.toNat : Int) - 128 := rfl
    rw [e]
    obtain ⟨r, hr⟩ : ∃ r, r = 64 * (64 * ((b.toNat : Int) - 224) + (x.toNat : Int) - 128) + (y.toNat : Int) - 128 := ⟨_, rfl⟩
    rw [← hr]
    have x3 : (b.toNat : Int) = 224 ∨ 225 ≤ (b.toNat : Int) := by omega
    have lo : 2048 ≤ r := by
      rcases x3 with h | h
      · have := x2 h; omega
      · omega
    refine ⟨encU_of _ _ ?_, by omega, by omega⟩
    unfold encZ
    rw [if_neg (by omega), if_neg (by omega), if_pos (by omega)]
    have a1 : 224 + r / 4096 = (b.toNat : Int) := by omega
    have a2 : 128 + r / 64 % 64 = (x.toNat : Int) := by omega
    have a3 : 128 + r % 64 = (y.toNat : Int) := by omega
    rw [a1, a2, a3]
    rfl
  · obtain ⟨x, y, z, rfl⟩ : ∃ x y z, t = [x, y, z] := by
      rcases t with _ | ⟨x, _ | ⟨y, _ | ⟨z, _ | ⟨u, t⟩⟩⟩⟩ <;> simp at ht
      exact ⟨x, y, z, rfl⟩
    rw [cb_one, cb_more _ _ _ _ (by omega), cb_more _ _ _ _ (by omega)] at hc
    simp only [contB, Bool.and_true, Bool.and_eq_true] at hc
    obtain ⟨⟨s1, m1⟩, hy, hz⟩ := hc
    obtain ⟨x0, x1, _, x2, x4, _⟩ := secB_bd _ _ (show (secB (b.toNat : Int) (x.toNat : Int) && moreB (x.toNat : Int)) = true by rw [s1, m1]; rfl)
    simp [moreB] at hy hz
    have e : scN ((b.toNat : Int) - offL 4) [x, y, z] = 64 * (64 * (64 * ((b.toNat : Int) - 240) + (x.toNat : Int) - 128) + (y.toNat : Int) - 128) + (z.toNat : Int) - 128 := rfl
    rw [e]
    obtain ⟨r, hr⟩ : ∃ r, r = 64 * (64 * (64 * ((b.toNat : Int) - 240) + (x.toNat : Int) - 128) + (y.toNat : Int) - 128) + (z.toNat : Int) - 128 := ⟨_, rfl⟩
    rw [← hr]
    have x3 : (b.toNat : Int) = 240 ∨ 241 ≤ (b.toNat : Int) := by omega
    have x5 : (b.toNat : Int) = 244 ∨ (b.toNat : Int) ≤ 243 := by omega
    have lo : 65536 ≤ r := by
      rcases x3 with h | h
      · have := x2 h; omega
      · omega
    have up : r ≤ 1114111 := by
      rcases x5 with h | h
      · have := x4 h; omega
      · omega
    refine ⟨encU_of _ _ ?_, by omega, up⟩
    unfold encZ
    rw [if_neg (by omega), if_neg (by omega), if_neg (by omega)]
    have a1 : 240 + r / 262144 = (b.toNat : Int) := by omega
    have a2 : 128 + r / 4096 % 64 = (x.toNat : Int) := by omega
    have a3 : 128 + r / 64 % 64 = (y.toNat : Int) := by omega
    have a4 : 128 + r % 64 = (z.toNat : Int) := by omega
    rw [a1, a2, a3, a4]
    rfl

theorem rune_piece (b : UInt8) (t : List UInt8) : encU (runeOf ((b :: t).take (measTab encT b t).1, (measTab encT b t).2)) = okP ((b :: t).take (measTab encT b t).1, (measTab encT b t).2) ∧
    0 ≤ runeOf ((b :: t).take (measTab encT b t).1, (measTab encT b t).2) ∧ runeOf ((b :: t).take (measTab encT b t).1, (measTab encT b t).2) ≤ 1114111 := by
  have hp := measTab_pos encT b t
  obtain ⟨f1, f2⟩ := first_whole b t
  cases hok : (measTab encT b t).2 with
  | false => exact ⟨rfl, show (0 : Int) ≤ 65533 by decide, show (65533 : Int) ≤ 1114111 by decide⟩
  | true =>
    have f3 := f2 hok
    rw [hok, ← f3] at f1
    have f4 := f1.symm
    rw [Int.toNat_natCast] at f4
    simp only [Bool.and_eq_true] at f4
    generalize (measTab encT b t).1 = L at hp f3 f4
    obtain ⟨j, rfl⟩ : ∃ j, L = j + 1 := ⟨L - 1, by omega⟩
    have hlen : (t.take j).length + 1 = j + 1 := by rw [List.length_take]; omega
    have h := enc_piece b (t.take j) (j + 1) f3.symm (by omega) hlen f4.2
    have e : runeOf ((b :: t).take (j + 1), true) = scN ((b.toNat : Int) - offL (j + 1)) (t.take j) := by
      show scN ((b.toNat : Int) - offL (1 + (t.take j).length)) (t.take j) = _
      rw [Nat.add_comm 1, hlen]
    rw [e]
    exact h
theorem runes_all : ∀ (n : Nat) (l : List UInt8), l.length ≤ n → (runesL l).flatMap encU = decL l ∧ ∀ r ∈ runesL l, 0 ≤ r ∧ r ≤ 1114111
  | _, [], _ => ⟨rfl, by intro r hr; simp [runesL, piecesL, piecesF] at hr⟩
  | 0, b :: t, h => by simp at h
  | n + 1, b :: t, h => by
    have hp := measTab_pos encT b t
    obtain ⟨h1, h2, h3⟩ := rune_piece b t
    obtain ⟨i1, i2⟩ := runes_all n ((b :: t).drop (measTab encT b t).1) (by simp at h ⊢; omega)
    rw [runesL_cons]
    refine ⟨?_, ?_⟩
    · rw [List.flatMap_cons, h1, i1]
      unfold decL
      conv => rhs; rw [piecesL_cons, List.flatMap_cons]
    · intro r hr
      rw [List.mem_cons] at hr
      rcases hr with rfl | hr
      · exact ⟨h2, h3⟩
      · exact i2 r hr
end Go.Proofs.YtbacdfceiofahaaGreatDoor

namespace Go.Proofs.YtbacdfceiofahaaGreatDoor
open Go.RowKit
set_option maxRecDepth 100000

/-- The code points of an entry, as the document's reader makes them. -/
def refVal : Int → List UInt8 → List Int
  | n, [] => [n]
  | n, b :: t => if b = 44 then n :: refVal 0 t else refVal (16 * n + hexV b.toNat) t
def okVal : Int → List UInt8 → Bool
  | n, [] => decide (0 ≤ n) && decide (n ≤ 1114111)
  | n, b :: t => if b = 44 then decide (0 ≤ n) && decide (n ≤ 1114111) && okVal 0 t else hexB b.toNat && okVal (16 * n + hexV b.toNat) t
/-- What an entry of the table is like. -/
def fineEnt (e : List UInt8) : Bool := !(nameOf e).isEmpty && (nameOf e).all (fun b => alnB b.toNat || b == 59) && okVal 0 (codesOf e) && ((refVal 0 (codesOf e)).flatMap encU == valL (codesOf e)) && decide ((codesOf e).length ≤ 100) && e.any (fun b => b == 61)
theorem ent_fine_b : (parts 32 NM.data.toList).all fineEnt = true := by decide +kernel
theorem ent_fine : ∀ e ∈ ENT, fineEnt e = true := List.all_eq_true.1 ent_fine_b
theorem ent_parts5 {e : List UInt8} (he : e ∈ ENT) : (0 < (nameOf e).length) ∧ ((nameOf e).all (fun b => alnB b.toNat || b == 59) = true) ∧ (okVal 0 (codesOf e) = true) ∧ ((refVal 0 (codesOf e)).flatMap encU = valL (codesOf e)) ∧ ((codesOf e).length ≤ 100) ∧ e.any (fun b => b == 61) = true := by
  have hf := ent_fine e he
  unfold fineEnt at hf
  rw [Bool.and_eq_true, Bool.and_eq_true, Bool.and_eq_true, Bool.and_eq_true, Bool.and_eq_true, beq_iff_eq, decide_eq_true_eq] at hf
  obtain ⟨⟨⟨⟨⟨h1, h2⟩, h3⟩, h4⟩, h5⟩, h6⟩ := hf
  refine ⟨?_, h2, h3, h4, h5, h6⟩
  cases hn : nameOf e with
  | nil => rw [hn] at h1; exact absurd h1 (by decide)
  | cons b t => simp
theorem hexV_bd {b : UInt8} (h : hexB b.toNat = true) : 0 ≤ hexV b.toNat ∧ hexV b.toNat ≤ 15 := by
  have := hexV_hex (b.toNat : Int)
  rw [h, decide_eq_true_eq] at this
  refine ⟨this, ?_⟩
  unfold hexV digB
  (repeat' split) <;> simp at * <;> omega
theorem okVal_bd : ∀ (t : List UInt8) (n : Int), 0 ≤ n → okVal n t = true → n ≤ 1114111
  | [], n, _, h => by simp [okVal] at h; exact h.2
  | b :: t, n, h0, h => by
    unfold okVal at h
    by_cases hb : b = 44
    · rw [if_pos hb] at h; simp at h; exact h.1.2
    · rw [if_neg hb, Bool.and_eq_true] at h
      have hx := hexV_bd h.1
      have := okVal_bd t _ (by omega) h.2
      omega
theorem refVal_bd : ∀ (t : List UInt8) (n : Int), 0 ≤ n → okVal n t = true → ∀ r ∈ refVal n t, 0 ≤ r ∧ r ≤ 1114111
  | [], n, _, h => by simp [okVal] at h; simp [refVal]; exact h
  | b :: t, n, h0, h => by
    unfold okVal at h
    unfold refVal
    by_cases hb : b = 44
    · rw [if_pos hb] at h ⊢
      rw [Bool.and_eq_true, Bool.and_eq_true] at h
      intro r hr
      rcases List.mem_cons.1 hr with rfl | hr
      · simpa using h.1
      · exact refVal_bd t 0 (by omega) h.2 r hr
    · rw [if_neg hb] at h ⊢
      rw [Bool.and_eq_true] at h
      have hx := hexV_bd h.1
      exact refVal_bd t _ (by omega) h.2
theorem refVal_len : ∀ (t : List UInt8) (n : Int), (refVal n t).length ≤ t.length + 1
  | [], n => by simp [refVal]
  | b :: t, n => by
    unfold refVal
    split
    · have := refVal_len t 0; simp; omega
    · have := refVal_len t (16 * n + hexV b.toNat); simp; omega
end Go.Proofs.YtbacdfceiofahaaGreatDoor

namespace Go.Proofs.YtbacdfceiofahaaGreatDoor
open Go.RowKit
set_option maxRecDepth 100000

def lgStep (s : List UInt8) (a : Nat × List UInt8) (e : List UInt8) : Nat × List UInt8 := if a.1 < (nameOf e).length ∧ (nameOf e).isPrefixOf s = true then ((nameOf e).length, valL (codesOf e)) else a
def lgT (T : List (List UInt8)) (s : List UInt8) : Nat × List UInt8 := T.foldl (lgStep s) (0, [])
noncomputable def lgL (s : List UInt8) : Nat × List UInt8 := lgT ENT s

theorem lgStep_spec (s : List UInt8) : ∀ (T : List (List UInt8)) (a : Nat × List UInt8),
    (T.foldl (lgStep s) a = a ∧ ∀ e ∈ T, nameOf e <+: s → (nameOf e).length ≤ a.1) ∨
    ∃ e ∈ T, nameOf e <+: s ∧ T.foldl (lgStep s) a = ((nameOf e).length, valL (codesOf e)) ∧ a.1 < (nameOf e).length ∧ ∀ e' ∈ T, nameOf e' <+: s → (nameOf e').length ≤ (nameOf e).length
  | [], a => .inl ⟨rfl, by simp⟩
  | e :: T, a => by
    rw [List.foldl_cons]
    by_cases h : a.1 < (nameOf e).length ∧ (nameOf e).isPrefixOf s = true
    · have hs : lgStep s a e = ((nameOf e).length, valL (codesOf e)) := if_pos h
      have hp : nameOf e <+: s := List.isPrefixOf_iff_prefix.1 h.2
      rw [hs]
      rcases lgStep_spec s T ((nameOf e).length, valL (codesOf e)) with ⟨h1, h2⟩ | ⟨e1, he1, h1, h2, h3, h4⟩
      · refine .inr ⟨e, by simp, hp, h1, h.1, ?_⟩
        intro e' he' hp'
        rcases List.mem_cons.1 he' with rfl | he'
        · exact Nat.le_refl _
        · exact h2 e' he' hp'
      · refine .inr ⟨e1, by simp [he1], h1, h2, by have := h.1; simp at h3; omega, ?_⟩
        intro e' he' hp'
        rcases List.mem_cons.1 he' with rfl | he'
        · simp at h3; omega
        · exact h4 e' he' hp'
    · have hs : lgStep s a e = a := if_neg h
      have hn : nameOf e <+: s → (nameOf e).length ≤ a.1 := by
        intro hp
        rcases Nat.lt_or_ge a.1 (nameOf e).length with h' | h'
        · exact absurd ⟨h', List.isPrefixOf_iff_prefix.2 hp⟩ h
        · exact h'
      rw [hs]
      rcases lgStep_spec s T a with ⟨h1, h2⟩ | ⟨e1, he1, h1, h2, h3, h4⟩
      · refine .inl ⟨h1, ?_⟩
        intro e' he' hp'
        rcases List.mem_cons.1 he' with rfl | he'
        · exact hn hp'
        · exact h2 e' he' hp'
      · refine .inr ⟨e1, by simp [he1], h1, h2, h3, ?_⟩
        intro e' he' hp'
        rcases List.mem_cons.1 he' with rfl | he'
        · have := hn hp'; omega
        · exact h4 e' he' hp'

theorem pair_uniq {α : Type} {R : α → α → Prop} : ∀ {l : List α}, l.Pairwise R → ∀ a ∈ l, ∀ b ∈ l, a = b ∨ R a b ∨ R b a
  | [], _, a, ha, _, _ => by simp at ha
  | x :: l, h, a, ha, b, hb => by
    rw [List.pairwise_cons] at h
    rcases List.mem_cons.1 ha with e | ha'
    · rcases List.mem_cons.1 hb with e2 | hb'
      · exact .inl (e.trans e2.symm)
      · exact .inr (.inl (e ▸ h.1 b hb'))
    · rcases List.mem_cons.1 hb with e2 | hb'
      · exact .inr (.inr (e2 ▸ h.1 a ha'))
      · exact pair_uniq h.2 a ha' b hb'
theorem ent_name {a b : List UInt8} (ha : a ∈ ENT) (hb : b ∈ ENT) (h : nameOf a = nameOf b) : a = b := by
  rcases pair_uniq ent_sorted a ha b hb with e | e | e
  · exact e
  · rw [h, ltB_irrefl] at e; exact absurd e (by decide)
  · rw [h, ltB_irrefl] at e; exact absurd e (by decide)
theorem ent_ne {e : List UInt8} (he : e ∈ ENT) : 0 < (nameOf e).length := (ent_parts5 he).1

theorem lg_uniq (T : List (List UInt8)) (hu : ∀ a ∈ T, ∀ b ∈ T, nameOf a = nameOf b → a = b) (hne : ∀ a ∈ T, 0 < (nameOf a).length) {s : List UInt8} {n : Int} {v : List UInt8}
    (h : (n = 0 ∧ v = [] ∧ ∀ e ∈ T, ¬ nameOf e <+: s) ∨ ∃ e ∈ T, nameOf e <+: s ∧ n = (nameOf e).length ∧ v = valL (codesOf e) ∧ ∀ e' ∈ T, nameOf e' <+: s → (nameOf e').length ≤ (nameOf e).length) :
    n = ((lgT T s).1 : Nat) ∧ v = (lgT T s).2 := by
  unfold lgT
  rcases lgStep_spec s T (0, []) with ⟨h1, h2⟩ | ⟨e1, he1, h1, h2, h3, h4⟩
  · rw [h1]
    rcases h with ⟨g1, g2, g3⟩ | ⟨e, he, g1, g2, g3, g4⟩
    · exact ⟨g1, g2⟩
    · have h5 : (nameOf e).length ≤ 0 := h2 e he g1
      have h6 := hne e he
      omega
  · rw [h2]
    rcases h with ⟨g1, g2, g3⟩ | ⟨e, he, g1, g2, g3, g4⟩
    · exact absurd h1 (g3 e1 he1)
    · have l1 := h4 e he g1
      have l2 := g4 e1 he1 h1
      have hlen : (nameOf e).length = (nameOf e1).length := by omega
      have a1 := List.prefix_iff_eq_take.1 g1
      have a2 := List.prefix_iff_eq_take.1 h1
      rw [hlen] at a1
      have := hu e he e1 he1 (a1.trans a2.symm)
      subst this
      exact ⟨g2, g3⟩
theorem lgP_lgL {s : List UInt8} {n : Int} {V : ByteArray} (h : LgP s n V) : n = ((lgL s).1 : Nat) ∧ V.data.toList = (lgL s).2 := by
  refine lg_uniq ENT (fun a ha b hb => ent_name ha hb) (fun a ha => ent_ne ha) ?_
  rcases h with ⟨g1, g2, g3⟩ | ⟨e, he, g1, g2, g3, g4⟩
  · exact .inl ⟨g1, by rw [g2], g3⟩
  · exact .inr ⟨e, he, g1, g2, g3, g4⟩
end Go.Proofs.YtbacdfceiofahaaGreatDoor

namespace Go.Proofs.YtbacdfceiofahaaGreatDoor
open Go.RowKit
set_option maxHeartbeats 2000000
set_option maxRecDepth 100000

def nR (c : UInt8) (l : List UInt8) : Nat := (l.takeWhile fun b => b != c).length
theorem nR_nil (c : UInt8) : nR c [] = 0 := rfl
theorem nR_yes {c b : UInt8} (t : List UInt8) (h : b = c) : nR c (b :: t) = 0 := by simp [nR, h]
theorem nR_no {c b : UInt8} (t : List UInt8) (h : b ≠ c) : nR c (b :: t) = nR c t + 1 := by simp [nR, h]
theorem nR_le (c : UInt8) (l : List UInt8) : nR c l ≤ l.length := (List.takeWhile_sublist _).length_le

theorem rWord (at_ : Nat) (h : at_ ≤ 29726) (w : World) :
    Calls Tryz.prog 249 #[.int .i64 at_] w fun e w' => e = .returned (.int .i64 (at_ + nR 32 (NM.data.toList.drop at_) : Nat)) ∧ w' = w := by
  have hsz := nm_size
  go_enter Tryz.func249, Tryz.ntmps249
  generalize hN : (ByteArray.mk (List.toArray (List.append _ _))) = N
  have HN : NM = N := by rw [← hN]; rfl
  clear hN
  rw [HN] at hsz ⊢
  clear HN
  have HSZ := Lib.hid hsz
  have hsi : (N.size : Int) = 29726 := by omega
  clear hsz
  obtain ⟨R, hR⟩ : ∃ R, R = at_ + nR 32 (N.data.toList.drop at_) := ⟨_, rfl⟩
  rw [← hR]
  have HR := Lib.hid hR
  clear hR
  go_wp2_with fail
  go_loop [0] (fun i => ∃ k : Nat, k ≤ 29726 ∧ i = .int .i64 k ∧ k + nR 32 (N.data.toList.drop k) = R) (fun i => 29726 - (intOf i).toNat)
  case atStart => exact ⟨at_, h, rfl, HR.out.symm⟩
  case round =>
    obtain ⟨k, hk, rfl, hr⟩ := hrel
    have HRR := Lib.hid hr
    clear hr
    by_cases hlt : k < 29726
    · have hlt2 : k < N.size := by rw [HSZ.out]; exact hlt
      have hI : (k : Int) < (N.size : Int) := by omega
      have hI2 : (k : Int) < 29726 := by omega
      have HD := Lib.hid (drop_byte N k hlt2)
      by_cases hb : N[k]'hlt2 = 32
      · have hq : (((N[k]'hlt2).toNat : Int) != 32) = false := by rw [hb]; rfl
        have HF : Hid (k = R) := Lib.hid (by rw [← HRR.out, HD.out, nR_yes _ hb]; rfl)
        clear hb
        go_wp2_with fail
        go_ret
        exact ⟨ret_int (by rw [HF.out]), rfl⟩
      · have hq : (((N[k]'hlt2).toNat : Int) != 32) = true := by
          rw [bne_iff_ne]
          intro e
          exact hb (UInt8.toNat_inj.mp (by show _ = 32; omega))
        have HF : Hid (k + 1 + nR 32 (N.data.toList.drop (k + 1)) = R) := Lib.hid (by rw [← HRR.out, HD.out, nR_no _ hb]; omega)
        clear hb
        go_wp2_with fail
        go_round
        case rel => exact ⟨k + 1, by omega, by go_num, HF.out⟩
        case measure => simp [intOf]; omega
    · have hI : ¬ (k : Int) < (N.size : Int) := by omega
      have hI2 : ¬ (k : Int) < 29726 := by omega
      have HF : Hid (k = R) := Lib.hid (by rw [← HRR.out, drop_end N k (by rw [HSZ.out]; omega)]; rfl)
      go_wp2_with fail
      go_ret
      exact ⟨ret_int (by rw [HF.out]), rfl⟩

theorem rSign (from_ to_ : Nat) (hft : from_ ≤ to_) (ht : to_ ≤ 29726) (w : World) :
    Calls Tryz.prog 250 #[.int .i64 from_, .int .i64 to_] w fun e w' => e = .returned (.int .i64 (from_ + nR 61 (cutAt NM.data.toList from_ to_) : Nat)) ∧ w' = w := by
  have hsz := nm_size
  go_enter Tryz.func250, Tryz.ntmps250
  generalize hN : (ByteArray.mk (List.toArray (List.append _ _))) = N
  have HN : NM = N := by rw [← hN]; rfl
  clear hN
  rw [HN] at hsz ⊢
  clear HN
  have HSZ := Lib.hid hsz
  have hsi : (N.size : Int) = 29726 := by omega
  clear hsz
  obtain ⟨R, hR⟩ : ∃ R, R = from_ + nR 61 (cutAt N.data.toList from_ to_) := ⟨_, rfl⟩
  rw [← hR]
  have HR := Lib.hid hR
  clear hR
  go_wp2_with fail
  go_loop [0] (fun i => ∃ k : Nat, k ≤ to_ ∧ i = .int .i64 k ∧ k + nR 61 (cutAt N.data.toList k to_) = R) (fun i => to_ - (intOf i).toNat)
  case atStart => exact ⟨from_, hft, rfl, HR.out.symm⟩
  case round =>
    obtain ⟨k, hk, rfl, hr⟩ := hrel
    have HRR := Lib.hid hr
    clear hr
    by_cases hlt : k < to_
    · have hlt2 : k < N.size := by rw [HSZ.out]; omega
      have hI : (k : Int) < (N.size : Int) := by omega
      have hI2 : (k : Int) < (to_ : Int) := by omega
      have hI3 : (k : Int) < 29726 := by omega
      have hD : cutAt N.data.toList k to_ = N[k]'hlt2 :: cutAt N.data.toList (k + 1) to_ := by
        unfold cutAt
        have hl2 : k < (N.data.toList.take to_).length := by rw [List.length_take, size_list]; omega
        rw [List.drop_eq_getElem_cons hl2, List.getElem_take]
        rfl
      have HD := Lib.hid hD
      clear hD
      by_cases hb : N[k]'hlt2 = 61
      · have hq : (((N[k]'hlt2).toNat : Int) != 61) = false := by rw [hb]; rfl
        have HF : Hid (k = R) := Lib.hid (by rw [← HRR.out, HD.out, nR_yes _ hb]; rfl)
        clear hb
        go_wp2_with fail
        go_ret
        exact ⟨ret_int (by rw [HF.out]), rfl⟩
      · have hq : (((N[k]'hlt2).toNat : Int) != 61) = true := by
          rw [bne_iff_ne]
          intro e
          exact hb (UInt8.toNat_inj.mp (by show _ = 61; omega))
        have HF : Hid (k + 1 + nR 61 (cutAt N.data.toList (k + 1) to_) = R) := Lib.hid (by rw [← HRR.out, HD.out, nR_no _ hb]; omega)
        clear hb
        go_wp2_with fail
        go_round
        case rel => exact ⟨k + 1, by omega, by go_num, HF.out⟩
        case measure => simp [intOf]; omega
    · have hI : ¬ (k : Int) < (to_ : Int) := by omega
      have HF : Hid (k = R) := Lib.hid (by
        rw [← HRR.out]
        unfold cutAt
        rw [List.drop_eq_nil_of_le (by rw [List.length_take]; omega)]
        rfl)
      go_wp2_with fail
      go_ret
      exact ⟨ret_int (by rw [HF.out]), rfl⟩

theorem own_form2 {w : World} {B e size n : Nat} {v : Value} {xs : List Value} (h : w.ownsRow B e size v n xs) : ∃ a c, v = .slice a n c := by
  rcases h.2 with ⟨rfl, rfl⟩ | ⟨g, cap, cur, rfl, _⟩
  · exact ⟨_, _, rfl⟩
  · exact ⟨_, _, rfl⟩

theorem rValue (s : ByteArray) (hs : s.size ≤ 100) (hok : okVal 0 s.data.toList = true) (w : World) :
    Calls Tryz.prog 251 #[.string s] w fun e w' => e = .returned (.string ⟨((refVal 0 s.data.toList).flatMap encU).toArray⟩) ∧ Below w.heap.size w w' := by
  obtain ⟨i0, hi, hz0, hz1, hz2⟩ := info_parts info_i32
  have hbd := refVal_bd s.data.toList 0 (by omega) hok
  have hln := refVal_len s.data.toList 0
  rw [size_list] at hln
  obtain ⟨R, hR⟩ : ∃ R, R = refVal 0 s.data.toList := ⟨_, rfl⟩
  rw [← hR] at hbd hln ⊢
  have HR := Lib.hid hR
  have HBD := Lib.hid hbd
  clear hR hbd
  go_enter Tryz.func251, Tryz.ntmps251
  go_wp2_with fail
  go_loopw [3, 4, 5] (fun v nv iv wr => ∃ (k n : Nat) (z : Int) (pre : List Int), k ≤ s.size + 1 ∧ iv = .int .i64 k ∧ nv = .int .i64 z ∧ 0 ≤ z ∧ pre.length = n ∧ n ≤ k ∧ (k ≤ s.size → pre ++ refVal z (s.data.toList.drop k) = R ∧ okVal z (s.data.toList.drop k) = true) ∧ (s.size < k → pre = R) ∧ wr.ownsRow w.heap.size 21 1 v n (i32c pre) ∧ Below w.heap.size w wr) (fun _ _ iv _ => s.size + 1 - (intOf iv).toNat)
  case atStart => exact ⟨0, 0, 0, [], Nat.zero_le _, rfl, rfl, by omega, rfl, Nat.le_refl _, fun _ => ⟨HR.out.symm, by simpa using hok⟩, fun h => absurd h (by omega), World.ownsRow_nil _ _ _ _, Below.refl _ _⟩
  case round =>
    obtain ⟨k, n, z, pre, hk, rfl, rfl, hz, hln2, hnk, hrest, hend, hown, hB⟩ := hrel
    have HLN := Lib.hid hln2
    have HREST := Lib.hid hrest
    have HEND := Lib.hid hend
    have hsz := hB.size
    clear hln2 hrest hend
    by_cases hle : k ≤ s.size
    · have hI : (k : Int) ≤ (s.size : Int) := by omega
      obtain ⟨h1, h2⟩ := HREST.out hle
      have hzu := okVal_bd _ z hz h2
      by_cases hlt : k < s.size
      · have hI2 : (k : Int) < (s.size : Int) := by omega
        have hne : ((k : Int) == (s.size : Int)) = false := by rw [beq_eq_false_iff_ne]; omega
        rw [drop_byte s k hlt] at h1 h2
        by_cases hb : s[k]'hlt = 44
        · have hq : (((s[k]'hlt).toNat : Int) == 44) = true := by rw [hb]; rfl
          rw [refVal, if_pos hb] at h1
          rw [okVal, if_pos hb, Bool.and_eq_true] at h2
          have HN : Hid ((pre ++ [z]) ++ refVal 0 (s.data.toList.drop (k + 1)) = R ∧ okVal 0 (s.data.toList.drop (k + 1)) = true) := Lib.hid ⟨by rw [← h1]; simp, h2.2⟩
          clear h1 h2 hb
          go_wp2_with (first | (at_builtin; refine wpList_append_own _ rfl _ _ 116 rfl w.heap.size 21 i0 (.int .i32 0) 1 4 Tryz.underlying116 hi hz0 hz1 hz2 rfl (by decide) _ _ _ rfl (hown.alloc _) ⟨_, 0, none⟩ 1 1 [.int .i32 z] rfl rfl (one_cell _ _ _) (one_oneI _) (by unfold maxLen; omega) (by omega) (by simp; omega) ?_; intro v' w9 hown' hgrow _))
          have hB' := own_grown hB hown rfl hgrow
          have HO : Hid (w9.ownsRow w.heap.size 21 1 v' (n + 1) (i32c (pre ++ [z]))) := Lib.hid (by
            have := hown'
            simpa [i32c] using this)
          clear hown' hgrow
          go_wp2
          go_roundw
          case rel => exact ⟨k + 1, n + 1, 0, pre ++ [z], by omega, by go_num, rfl, by omega, by have := HLN.out; simp; omega, by omega, fun _ => HN.out, fun h => absurd h (by omega), HO.out, hB'⟩
          case measure => simp [intOf]; omega
        · have hq : (((s[k]'hlt).toNat : Int) == 44) = false := by
            rw [beq_eq_false_iff_ne]
            intro e
            exact hb (UInt8.toNat_inj.mp (by show _ = 44; omega))
          rw [refVal, if_neg hb] at h1
          rw [okVal, if_neg hb, Bool.and_eq_true] at h2
          have hx := hexV_bd h2.1
          have HN : Hid (pre ++ refVal (16 * z + hexV (s[k]'hlt).toNat) (s.data.toList.drop (k + 1)) = R ∧ okVal (16 * z + hexV (s[k]'hlt).toNat) (s.data.toList.drop (k + 1)) = true) := Lib.hid ⟨h1, h2.2⟩
          have HH := Lib.hid (rHex ((s[k]'hlt).toNat : Int))
          obtain ⟨hx0, hx1⟩ := hx
          clear h1 h2 hb
          generalize hexV (s[k]'hlt).toNat = x at HN HH hx0 hx1
          go_wp2_with fail
          refine (HH.out _).mono ?_
          rintro e w' ⟨rfl, rfl⟩
          go_wp2_with fail
          go_roundw
          case rel => exact ⟨k + 1, n, 16 * z + x, pre, by omega, by go_num, rfl, by omega, HLN.out, by omega, fun _ => HN.out, fun h => absurd h (by omega), hown, hB⟩
          case measure => simp [intOf]; omega
      · have hks : ((k : Int) == (s.size : Int)) = true := by rw [beq_iff_eq]; omega
        rw [drop_end s k (by omega)] at h1
        have HN : Hid (pre ++ [z] = R) := Lib.hid h1
        clear h1 h2
        go_wp2_with (first | (at_builtin; refine wpList_append_own _ rfl _ _ 116 rfl w.heap.size 21 i0 (.int .i32 0) 1 4 Tryz.underlying116 hi hz0 hz1 hz2 rfl (by decide) _ _ _ rfl (hown.alloc _) ⟨_, 0, none⟩ 1 1 [.int .i32 z] rfl rfl (one_cell _ _ _) (one_oneI _) (by unfold maxLen; omega) (by omega) (by simp; omega) ?_; intro v' w9 hown' hgrow _))
        have hB' := own_grown hB hown rfl hgrow
        have HO : Hid (w9.ownsRow w.heap.size 21 1 v' (n + 1) (i32c (pre ++ [z]))) := Lib.hid (by
          have := hown'
          simpa [i32c] using this)
        clear hown' hgrow
        go_wp2
        go_roundw
        case rel => exact ⟨k + 1, n + 1, 0, pre ++ [z], by omega, by go_num, rfl, by omega, by have := HLN.out; simp; omega, by omega, fun h => absurd h (by omega), fun _ => HN.out, HO.out, hB'⟩
        case measure => simp [intOf]; omega
    · have hI : (s.size : Int) < (k : Int) := by omega
      have hR2 := HEND.out (by omega)
      have hown2 := hown
      rw [← HLN.out, hR2] at hown2
      have HT := Lib.hid (rText _ w.heap.size R HBD.out (by omega) wr hown2)
      obtain ⟨a, c, hac⟩ := own_form2 hown2
      subst hac
      clear hown2 hown hR2
      go_wp2_with fail
      refine HT.out.mono ?_
      rintro e w5 ⟨rfl, hb5⟩
      go_wp2_with fail
      go_ret
      exact ⟨rfl, below_next hB hb5⟩
end Go.Proofs.YtbacdfceiofahaaGreatDoor

namespace Go.Proofs.YtbacdfceiofahaaGreatDoor
open Go.RowKit
set_option maxHeartbeats 2000000
set_option maxRecDepth 100000

/-- The first part, and the others. -/
theorem parts_cons (l : List UInt8) : parts 32 l = l.take (nR 32 l) :: (if nR 32 l = l.length then [] else parts 32 (l.drop (nR 32 l + 1))) := by
  induction l with
  | nil => rfl
  | cons b t ih =>
    by_cases hb : b = 32
    · subst hb
      rw [nR_yes _ rfl, if_neg (by simp)]
      rfl
    · rw [nR_no _ hb, List.take_succ_cons, List.length_cons, List.drop_succ_cons]
      rw [parts, if_neg (by simpa using hb), ih]
      simp
theorem cut_take (l : List UInt8) (a n : Nat) : cutAt l a (a + n) = (l.drop a).take n := by
  unfold cutAt
  rw [List.drop_take, Nat.add_sub_cancel_left]
theorem name_take (e : List UInt8) : e.take (nR 61 e) = nameOf e ∧ (nameOf e).length = nR 61 e := by
  unfold nR nameOf
  exact ⟨(List.prefix_iff_eq_take.1 (List.takeWhile_prefix _)).symm, rfl⟩
theorem codes_drop (e : List UInt8) (h : e.any (fun b => b == 61) = true) : nR 61 e < e.length ∧ e.drop (nR 61 e + 1) = codesOf e := by
  induction e with
  | nil => simp at h
  | cons b t ih =>
    by_cases hb : b = 61
    · subst hb
      rw [nR_yes _ rfl]
      exact ⟨by simp, rfl⟩
    · have hb2 : (b == 61) = false := by simpa using hb
      rw [List.any_cons, hb2, Bool.false_or] at h
      obtain ⟨h1, h2⟩ := ih h
      rw [nR_no _ hb, List.length_cons, List.drop_succ_cons]
      refine ⟨by omega, h2.trans ?_⟩
      have : (b != 61) = true := by simpa using hb
      simp [codesOf, this]

/-- What is left of the table at an offset. -/
structure AtEnt (a : Nat) (rest : List (List UInt8)) : Prop where
  here : (a < 29726 ∧ rest = parts 32 (NM.data.toList.drop a)) ∨ (29726 ≤ a ∧ rest = [])
  mem : ∀ x ∈ rest, x ∈ ENT
theorem atEnt_start : AtEnt 0 ENT := ⟨.inl ⟨by omega, rfl⟩, fun _ h => h⟩
theorem atEnt_end {a : Nat} {rest : List (List UInt8)} (h : AtEnt a rest) (ha : ¬ a < 29726) : rest = [] := by
  rcases h.here with ⟨h1, _⟩ | ⟨_, h1⟩
  · exact absurd h1 ha
  · exact h1
theorem atEnt_step {a : Nat} {rest : List (List UInt8)} (h : AtEnt a rest) (ha : a < 29726) : ∃ (e : List UInt8) (r : List (List UInt8)), rest = e :: r ∧ e ∈ ENT ∧ e.length = nR 32 (NM.data.toList.drop a) ∧
    cutAt NM.data.toList a (a + e.length) = e ∧ a + e.length ≤ 29726 ∧ AtEnt (a + e.length + 1) r := by
  rcases h.here with ⟨_, h1⟩ | ⟨h1, _⟩
  · have hl := nm_length
    have hle := nR_le 32 (NM.data.toList.drop a)
    rw [List.length_drop, hl] at hle
    rw [parts_cons] at h1
    have hlen : ((NM.data.toList.drop a).take (nR 32 (NM.data.toList.drop a))).length = nR 32 (NM.data.toList.drop a) := by
      rw [List.length_take, List.length_drop, hl]; omega
    refine ⟨_, _, h1, h.mem _ (by rw [h1]; simp), hlen, by rw [hlen, cut_take], by rw [hlen]; omega, ?_⟩
    rw [hlen]
    refine ⟨?_, fun x hx => h.mem x (by rw [h1]; exact List.mem_cons_of_mem _ hx)⟩
    by_cases he : nR 32 (NM.data.toList.drop a) = (NM.data.toList.drop a).length
    · rw [if_pos he]
      rw [List.length_drop, hl] at he
      exact .inr ⟨by omega, rfl⟩
    · rw [if_neg he]
      rw [List.length_drop, hl] at he
      refine .inl ⟨?_, by rw [List.drop_drop, Nat.add_assoc]⟩
      rcases Nat.lt_or_ge (a + nR 32 (NM.data.toList.drop a) + 1) 29726 with h2 | h2
      · exact h2
      · exfalso
        have h4 := nm_last_b
        rw [List.getLast?_eq_getElem?, hl] at h4
        have h5 : (NM.data.toList.drop a)[nR 32 (NM.data.toList.drop a)]? = some 32 := by
          have key : ∀ l : List UInt8, nR 32 l ≠ l.length → l[nR 32 l]? = some 32 := by
            intro l
            induction l with
            | nil => intro h; simp [nR_nil] at h
            | cons b t ih =>
              intro h
              by_cases hb : b = 32
              · subst hb; rw [nR_yes _ rfl]; rfl
              · rw [nR_no _ hb] at h ⊢
                rw [List.getElem?_cons_succ]
                exact ih (by simpa using h)
          exact key _ (by rw [List.length_drop, hl]; exact he)
        rw [List.getElem?_drop, show a + nR 32 (NM.data.toList.drop a) = 29726 - 1 by omega] at h5
        rw [h5] at h4
        simp at h4
  · omega

theorem rLongest (s : ByteArray) (w : World) :
    Calls Tryz.prog 214 #[.string s] w fun e w' => ∃ V : ByteArray, e = .returned (.tuple #[.int .i64 (lgL s.data.toList).1, .string V]) ∧ V.data.toList = (lgL s.data.toList).2 ∧ Below w.heap.size w w' := by
  have hsz := nm_size
  have HW := Lib.hid rWord
  have HSG := Lib.hid rSign
  go_enter Tryz.func214, Tryz.ntmps214
  generalize hN : (ByteArray.mk (List.toArray (List.append _ _))) = N
  have HN : NM = N := by rw [← hN]; rfl
  clear hN
  rw [HN] at hsz
  have HSZ := Lib.hid hsz
  have hsi : (N.size : Int) = 29726 := by omega
  have HNN := Lib.hid HN
  clear hsz HN
  go_wp2_with fail
  go_loopw [4, 5, 6] (fun nv vv av wr => ∃ (a n : Nat) (V : ByteArray) (rest : List (List UInt8)), av = .int .i64 a ∧ nv = .int .i64 n ∧ vv = .string V ∧ a ≤ 29727 ∧ n ≤ 29727 ∧ AtEnt a rest ∧ rest.foldl (lgStep s.data.toList) (n, V.data.toList) = lgL s.data.toList ∧ Below w.heap.size w wr) (fun _ _ av _ => 29727 - (intOf av).toNat)
  case atStart => exact ⟨0, 0, ⟨#[]⟩, ENT, rfl, rfl, rfl, by omega, by omega, atEnt_start, rfl, Below.refl _ _⟩
  case round =>
    obtain ⟨a, n, V, rest, rfl, rfl, rfl, ha, hn, hat, hfold, hB⟩ := hrel
    by_cases hlt : a < 29726
    · have hI : (a : Int) < 29726 := by omega
      obtain ⟨e, r, rfl, hmem, hel, hcut, hle, hnext⟩ := atEnt_step hat hlt
      obtain ⟨p1, p2, p3, p4, p5, p6⟩ := ent_parts5 hmem
      obtain ⟨c1, c2⟩ := codes_drop e p6
      obtain ⟨t1, t2⟩ := name_take e
      rw [List.foldl_cons] at hfold
      have HF := Lib.hid hfold
      obtain ⟨T, hT⟩ : ∃ T, T = a + e.length := ⟨_, rfl⟩
      obtain ⟨K, hK⟩ : ∃ K, K = a + (nameOf e).length := ⟨_, rfl⟩
      have hw1 := Lib.hid (HW.out a (by omega))
      rw [← hel, ← hT] at hw1
      have hs1 := Lib.hid (HSG.out a T (by omega) (by omega))
      rw [hT, hcut, ← t2, ← hT, ← hK] at hs1
      have hKT : K < T := by omega
      have haK : a ≤ K := by omega
      have hT6 : T ≤ 29726 := by omega
      have hcutK : (N.extract a K).data.toList = nameOf e := by
        rw [← HNN.out, nm_slice, hK, cut_take, t2]
        have h1 := congrArg (List.take (nR 61 e)) hcut
        rw [cut_take, List.take_take, Nat.min_eq_left (by omega)] at h1
        exact h1.trans t1
      have hcutT : (N.extract (K + 1) T).data.toList = codesOf e := by
        rw [← HNN.out, nm_slice, ← c2]
        have h1 := congrArg (List.drop (nR 61 e + 1)) hcut
        unfold cutAt at h1 ⊢
        rw [List.drop_drop] at h1
        rw [hT, hK, t2, ← h1, Nat.add_assoc]
      have hvs : (N.extract (K + 1) T).size ≤ 100 := by rw [← size_list, hcutT]; exact p5
      have HB2 := Lib.hid (rBegins1 s (N.extract a K))
      rw [hcutK] at HB2
      have HV := Lib.hid (rValue (N.extract (K + 1) T) hvs (by rw [hcutT]; exact p3))
      rw [hcutT, p4] at HV
      have HNX := Lib.hid hnext
      rw [← hT] at HNX
      have i1 : (K : Int) < (T : Int) := by omega
      have i2 : (T : Int) ≤ 29726 := by omega
      have i3 : (a : Int) ≤ (K : Int) := by omega
      have i4 : (K : Int) ≤ 29726 := by omega
      have i5 : (K : Int) + 1 ≤ (T : Int) := by omega
      have HLK : Hid ((nameOf e).length = K - a) := Lib.hid (by omega)
      have hnk : n < (nameOf e).length ↔ (n : Int) < (K : Int) - (a : Int) := by omega
      have HNK := Lib.hid hnk
      clear hfold hel hcut hle hnext p1 p2 p3 p4 p5 p6 c1 c2 t1 t2 hT hK hcutK hcutT hnk hmem
      by_cases hgt : (n : Int) < (K : Int) - (a : Int)
      · cases hp : (nameOf e).isPrefixOf s.data.toList with
        | true =>
          rw [hp] at HB2
          have HS : Hid (r.foldl (lgStep s.data.toList) (K - a, valL (codesOf e)) = lgL s.data.toList) := Lib.hid (by
            rw [← HF.out, lgStep, if_pos ⟨HNK.out.2 hgt, hp⟩, HLK.out])
          clear hp
          go_wp2_with fail
          refine (hw1.out _).mono ?_
          rintro e1 w1 ⟨rfl, rfl⟩
          go_wp2_with fail
          refine (hs1.out _).mono ?_
          rintro e2 w2 ⟨rfl, rfl⟩
          go_wp2_with fail
          refine (HB2.out _).mono ?_
          rintro e2 w2 ⟨rfl, rfl⟩
          go_wp2_with fail
          refine (HV.out _).mono ?_
          rintro e2 w2 ⟨rfl, hb2⟩
          go_wp2_with fail
          go_roundw
          case rel => exact ⟨T + 1, K - a, ⟨(valL (codesOf e)).toArray⟩, r, by go_num, by go_num, rfl, by omega, by omega, HNX.out, HS.out, below_next hB hb2⟩
          case measure => simp [intOf]; omega
        | false =>
          rw [hp] at HB2
          have HS : Hid (r.foldl (lgStep s.data.toList) (n, V.data.toList) = lgL s.data.toList) := Lib.hid (by
            rw [← HF.out, lgStep, if_neg (by simp [hp])])
          clear hp
          go_wp2_with fail
          refine (hw1.out _).mono ?_
          rintro e1 w1 ⟨rfl, rfl⟩
          go_wp2_with fail
          refine (hs1.out _).mono ?_
          rintro e2 w2 ⟨rfl, rfl⟩
          go_wp2_with fail
          refine (HB2.out _).mono ?_
          rintro e2 w2 ⟨rfl, rfl⟩
          go_wp2_with fail
          go_roundw
          case rel => exact ⟨T + 1, n, V, r, by go_num, rfl, rfl, by omega, hn, HNX.out, HS.out, hB⟩
          case measure => simp [intOf]; omega
      · have HS : Hid (r.foldl (lgStep s.data.toList) (n, V.data.toList) = lgL s.data.toList) := Lib.hid (by
          rw [← HF.out, lgStep, if_neg (fun h => hgt (HNK.out.1 h.1))])
        have hd : decide ((n : Int) < (K : Int) - (a : Int)) = false := by simpa using hgt
        clear hgt i1 i2 i3 i4 i5
        go_wp2_with fail
        refine (hw1.out _).mono ?_
        rintro e1 w1 ⟨rfl, rfl⟩
        go_wp2_with fail
        refine (hs1.out _).mono ?_
        rintro e2 w2 ⟨rfl, rfl⟩
        go_wp2_with fail
        go_roundw
        case rel => exact ⟨T + 1, n, V, r, by go_num, rfl, rfl, by omega, hn, HNX.out, HS.out, hB⟩
        case measure => simp [intOf]; omega
    · have hI : ¬ (a : Int) < 29726 := by omega
      rw [atEnt_end hat hlt] at hfold
      have HF : Hid ((n, V.data.toList) = lgL s.data.toList) := Lib.hid hfold
      clear hfold
      go_wp2_with fail
      go_ret2
      exact ⟨V, by rw [← HF.out]; rfl, by rw [← HF.out], hB⟩
end Go.Proofs.YtbacdfceiofahaaGreatDoor

namespace Go.Proofs.YtbacdfceiofahaaGreatDoor
set_option maxRecDepth 100000

def sNotit : List UInt8 := [110, 111, 116, 105, 116, 59]
def sLtb : List UInt8 := [108, 116, 59, 60, 47, 98, 62]
theorem two_b : (lgT (parts 32 NM.data.toList) sNotit == (3, [194, 172]) && lgT (parts 32 NM.data.toList) sLtb == (3, [60])) = true := by decide +kernel
theorem two_p : lgL sNotit = (3, [194, 172]) ∧ lgL sLtb = (3, [60]) := by
  have h := two_b
  simp only [Bool.and_eq_true, beq_iff_eq] at h
  exact h
end Go.Proofs.YtbacdfceiofahaaGreatDoor

namespace Go.Proofs.YtbacdfceiofahaaGreatDoor
set_option maxRecDepth 100000

def onlyN (n val : List UInt8) (T : List (List UInt8)) : Bool := T.any (fun e => nameOf e == n) && T.all (fun e => !(n.isPrefixOf (nameOf e)) || (nameOf e == n && valL (codesOf e) == val))
theorem q3_b : (onlyN [97, 109, 112, 59] [38] (parts 32 NM.data.toList) && onlyN [113, 117, 111, 116, 59] [34] (parts 32 NM.data.toList) && onlyN [110, 98, 115, 112, 59] [194, 160] (parts 32 NM.data.toList)) = true := by decide +kernel
theorem only_T (T : List (List UInt8)) (n val : List UInt8) (hn : 0 < n.length) (h : onlyN n val T = true) (r : List UInt8) : lgT T (n ++ r) = (n.length, val) := by
  unfold onlyN at h
  rw [Bool.and_eq_true] at h
  obtain ⟨hany, hall⟩ := h
  obtain ⟨e, he, hen⟩ := List.any_eq_true.1 hany
  rw [beq_iff_eq] at hen
  have hpe : nameOf e <+: n ++ r := by rw [hen]; exact List.prefix_append n r
  unfold lgT
  rcases lgStep_spec (n ++ r) T (0, []) with ⟨h1, h2⟩ | ⟨e1, he1, hp, h1, _, h3⟩
  · have := h2 e he hpe
    rw [hen] at this
    exact absurd this (by show ¬ n.length ≤ 0; omega)
  · have hl := h3 e he hpe
    rw [hen] at hl
    have hpp : n <+: nameOf e1 := List.prefix_of_prefix_length_le (List.prefix_append n r) hp hl
    have ha := List.all_eq_true.1 hall e1 he1
    rw [List.isPrefixOf_iff_prefix.2 hpp] at ha
    simp only [Bool.not_true, Bool.false_or, Bool.and_eq_true, beq_iff_eq] at ha
    rw [h1, ha.1, ha.2]
theorem lg_amp (r : List UInt8) : lgL ([97, 109, 112, 59] ++ r) = (4, [38]) := by
  have h := q3_b
  simp only [Bool.and_eq_true] at h
  exact only_T ENT _ _ (by decide) h.1.1 r
theorem lg_quot (r : List UInt8) : lgL ([113, 117, 111, 116, 59] ++ r) = (5, [34]) := by
  have h := q3_b
  simp only [Bool.and_eq_true] at h
  exact only_T ENT _ _ (by decide) h.1.2 r
theorem lg_nbsp (r : List UInt8) : lgL ([110, 98, 115, 112, 59] ++ r) = (5, [194, 160]) := by
  have h := q3_b
  simp only [Bool.and_eq_true] at h
  exact only_T ENT _ _ (by decide) h.2 r
end Go.Proofs.YtbacdfceiofahaaGreatDoor
