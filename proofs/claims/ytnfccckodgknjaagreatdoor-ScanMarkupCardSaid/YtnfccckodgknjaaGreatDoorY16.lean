/-
  pieces: the sequence of the pieces of a string.
  strings.Builder, written: the contracts at this program.
-/
import Derived.RangeFuncNested
import Derived.RangeFuncBound
import Derived.RangeFuncCalls
import Derived.RangeFuncLeaves
import Derived.Shelf.Abstract
import Derived.Shelf.RegionOpen
import Derived.WalkKit
import Derived.OwnWalkIn
import Derived.TacticsInMore
import Derived.LoopNIn
import Derived.LoopIn
import Derived.Test.YtnfccckodgknjaaGreatDoorY03
import Derived.Test.YtnfccckodgknjaaGreatDoorY15
import Derived.Test.YtnfccckodgknjaaGreatDoorShelf
import Derived.Shelf.Strings.BuilderRune
namespace Go.Proofs.YtnfccckodgknjaaGreatDoor
open Go.RowKit Go.Shelf
attribute [local go_sem] Oper.semAt_some
set_option maxHeartbeats 1000000
set_option maxRecDepth 100000

/-- The pieces, from the left. -/
def piecesF : Nat → List UInt8 → List (List UInt8 × Bool)
  | 0, _ => []
  | _, [] => []
  | k + 1, b :: t => ((b :: t).take (measTab encT b t).1, (measTab encT b t).2) :: piecesF k ((b :: t).drop (measTab encT b t).1)
def piecesL (l : List UInt8) : List (List UInt8 × Bool) := piecesF l.length l

theorem measRest_pos (R : List (Int × Int)) : ∀ (l : List UInt8) (n : Nat), n ≤ (measRest R l n).1 ∧ (measRest R l n).1 ≤ n + l.length := by
  induction R with
  | nil => intro l n; cases l <;> simp [measRest]
  | cons p R ih =>
    obtain ⟨lo, hi⟩ := p
    intro l n
    cases l with
    | nil => simp [measRest]
    | cons b t =>
      unfold measRest
      split
      · have := ih t (n + 1); simp only [List.length_cons]; omega
      · simp
theorem measTab_pos (T : List (Int × Int × List (Int × Int))) (b : UInt8) (t : List UInt8) : 1 ≤ (measTab T b t).1 ∧ (measTab T b t).1 ≤ 1 + t.length := by
  induction T with
  | nil => simp [measTab]
  | cons p T ih =>
    obtain ⟨lo, hi, rs⟩ := p
    unfold measTab
    split
    · exact measRest_pos rs t 1
    · exact ih

theorem piecesF_fuel : ∀ (k m : Nat) (l : List UInt8), l.length ≤ k → l.length ≤ m → piecesF k l = piecesF m l
  | 0, 0, _, _, _ => rfl
  | 0, m + 1, l, h, _ => by
    have : l = [] := List.length_eq_zero_iff.1 (by omega)
    subst this; rfl
  | k + 1, 0, l, _, h => by
    have : l = [] := List.length_eq_zero_iff.1 (by omega)
    subst this; rfl
  | k + 1, m + 1, [], _, _ => rfl
  | k + 1, m + 1, b :: t, h1, h2 => by
    have hp := measTab_pos encT b t
    unfold piecesF
    rw [piecesF_fuel k m _ (by simp at h1 ⊢; omega) (by simp at h2 ⊢; omega)]

theorem piecesL_cons (b : UInt8) (t : List UInt8) : piecesL (b :: t) = ((b :: t).take (measTab encT b t).1, (measTab encT b t).2) :: piecesL ((b :: t).drop (measTab encT b t).1) := by
  have hp := measTab_pos encT b t
  show piecesF (t.length + 1) (b :: t) = _
  unfold piecesF piecesL
  rw [piecesF_fuel t.length _ _ (by simp; omega) (Nat.le_refl _)]

/-- A piece: at most four bytes. -/
abbrev Pc : Type := { x : ByteArray × Bool // x.1.size ≤ 4 }
def packP (p : List UInt8 × Bool) : Pc := ⟨(⟨(p.1.take 4).toArray⟩, p.2), by show (p.1.take 4).toArray.size ≤ 4; simp; omega⟩
def piecesB (s : ByteArray) : List Pc := (piecesL s.data.toList).map packP

theorem measRest_le (R : List (Int × Int)) : ∀ (l : List UInt8) (n : Nat), (measRest R l n).1 ≤ n + R.length := by
  induction R with
  | nil => intro l n; cases l <;> simp [measRest]
  | cons p R ih =>
    obtain ⟨lo, hi⟩ := p
    intro l n
    cases l with
    | nil => simp [measRest]
    | cons b t =>
      unfold measRest
      split
      · have := ih t (n + 1); simp only [List.length_cons]; omega
      · simp
theorem measTab_le (b : UInt8) (t : List UInt8) : ∀ T : List (Int × Int × List (Int × Int)), (∀ x ∈ T, x.2.2.length ≤ 3) → (measTab T b t).1 ≤ 4
  | [], _ => by simp [measTab]
  | (lo, hi, rs) :: T, h => by
    unfold measTab
    split
    · have h1 := measRest_le rs t 1
      have h2 := h (lo, hi, rs) (by simp)
      simp only at h2
      omega
    · exact measTab_le b t T (fun x hx => h x (List.mem_cons_of_mem _ hx))
theorem measEnc_le (b : UInt8) (t : List UInt8) : (measTab encT b t).1 ≤ 4 := measTab_le b t encT (by decide)

theorem piecesB_nil (r : ByteArray) (h : ¬ 0 < r.size) : piecesB r = [] := by
  have : r.data.toList = [] := List.length_eq_zero_iff.1 (by rw [Array.length_toList]; have : r.data.size = r.size := rfl; omega)
  unfold piecesB piecesL
  rw [this]; rfl
theorem piecesB_cons (r : ByteArray) (h : 0 < r.size) : ∃ x : Pc, x.1.1 = r.extract 0 (measTab encT (r[0]'h) (r.data.toList.drop 1)).1 ∧ x.1.2 = (measTab encT (r[0]'h) (r.data.toList.drop 1)).2 ∧
    piecesB r = x :: piecesB (r.extract (measTab encT (r[0]'h) (r.data.toList.drop 1)).1 r.size) := by
  have e : r.data.toList = r[0]'h :: r.data.toList.drop 1 := by
    have := drop_byte r 0 h
    simpa using this
  have h4 := measEnc_le (r[0]'h) (r.data.toList.drop 1)
  generalize hm : measTab encT (r[0]'h) (r.data.toList.drop 1) = m at h4
  refine ⟨packP (r.data.toList.take m.1, m.2), ?_, rfl, ?_⟩
  · show (⟨((r.data.toList.take m.1).take 4).toArray⟩ : ByteArray) = _
    rw [List.take_take, Nat.min_eq_right h4]
    have e1 : (r.extract 0 m.1).data.toList = r.data.toList.take m.1 := by rw [Lib.extract_data]; simp
    rw [← e1]
  · unfold piecesB
    have e2 : (r.extract m.1 r.size).data.toList = r.data.toList.drop m.1 := by
      rw [Lib.extract_data]
      exact List.take_of_length_le (by rw [List.length_drop, Array.length_toList]; exact Nat.le_refl _)
    rw [e2]
    conv => lhs; rw [e]
    rw [piecesL_cons, hm, List.map_cons, ← e]

theorem pieces_in (n : Nat) (hn : 1 ≤ n) (l Bn Bx : Nat) (s : ByteArray) (hs : s.size ≤ maxLen) (J Jx : List Pc → World → Prop) (W : World) (hJ : AbidesFrom W.heap.size J)
    (hY : ∀ pre x W1, J pre W1 → pre.length < (piecesB s).length → YieldAt Fence.wide (n - 1) Tryz.prog l #[.string x.1.1, .bool x.1.2] W1 fun e W' =>
      (e = .returned (.bool true) ∧ J (pre ++ [x]) W' ∧ CellsKept Bx W1 W') ∨ (e = .returned (.bool false) ∧ Jx (pre ++ [x]) W'))
    (hc : W.cell? ⟨Bn, 0, none⟩ = some (.string s)) (hxl : Bx < W.heap.size) (h0 : J [] W) :
    CallsIn Fence.wide n Tryz.prog 200 #[.func (.yield l) #[] #[], .pointer (some ⟨Bn, 0, none⟩)] W fun e W' => (∃ v, e = .returned v) ∧
      ((∃ xs, xs = piecesB s ∧ J xs W') ∨ (∃ pre, pre <+: piecesB s ∧ Jx pre W')) := by
  refine callsIn_of_wp Tryz.func200 rfl trivial ?_ rfl
  simp only [Tryz.ntmps200, List.size_toArray, List.length_cons, List.length_nil, Nat.reduceAdd, Nat.reduceSub, Array.replicate_succ, Array.replicate_zero, List.push_toArray, List.append_toArray, List.nil_append, List.cons_append]
  have hlt := World.block_lt_of_cell? _ _ hc
  gi_wp2_with (refine ⟨trivial, ?_⟩; gi_at_call 201; refine (callsIn_wide.2 (encodings _)).mono ?_; rintro e W1 ⟨T, rfl, hT, hb⟩; have hc1 := (hb.cell (p := ⟨Bn, 0, none⟩) hlt).trans hc)
  have hJ1 : J [] W1 := hJ _ _ _ none h0 ⟨hb.os, hb.tape, hb.output, hb.size, fun i hi _ => hb.block i hi⟩ (fun r e => by cases e)
  clear hc1 hc
  gi_loopw [4] (fun v wr => ∃ (pre : List Pc) (r : ByteArray), v = .string r ∧ pre ++ piecesB r = piecesB s ∧ r.size ≤ s.size ∧ TabW W.heap.size wr T ∧ J pre wr ∧ W.heap.size ≤ wr.heap.size)
    (fun v _ => match v with | .string r => r.size | _ => 0)
  case atStart => exact ⟨[], s, rfl, rfl, Nat.le_refl _, hT, hJ1, hb.size⟩
  case round =>
    obtain ⟨pre, r, rfl, hp, hr, hTr, hJr, hsr⟩ := hrel
    by_cases h0 : 0 < r.size
    · have hne := toList_ne h0
      have hne3 : r.toList.isEmpty = false := by simpa using hne
      have hme := measure r (by omega) h0 W.heap.size T wr hTr
      have hpc := piecesB_cons r h0
      have hpos := measTab_pos encT (r[0]'h0) (r.data.toList.drop 1)
      rw [List.length_drop, Array.length_toList, show r.data.size = r.size from rfl] at hpos
      obtain ⟨x, hx1, hx2, hpc⟩ := hpc
      generalize measTab encT (r[0]'h0) (r.data.toList.drop 1) = m at hme hpc hpos hx1 hx2
      obtain ⟨N, c⟩ := m
      simp only at hx1 hx2 hpc
      have HPC := Lib.hid hpc
      have HP := Lib.hid hp
      have HME := Lib.hid hme
      obtain ⟨hp1, hp2⟩ : 1 ≤ N ∧ N ≤ r.size := ⟨hpos.1, by omega⟩
      have HX1 := Lib.hid hx1
      have HX2 := Lib.hid hx2
      clear hme hpc hpos hp hx1 hx2
      have hlen : pre.length < (piecesB s).length := by
        have := congrArg List.length HP.out
        rw [HPC.out, List.length_append, List.length_cons] at this
        omega
      gi_wp2_with (refine ⟨trivial, ?_⟩; gi_at_call 202; refine (callsIn_wide.2 HME.out).mono ?_; rintro e w2 ⟨rfl, hb2⟩; have hJ2 := hJ _ _ _ none hJr ⟨hb2.os, hb2.tape, hb2.output, hb2.size, fun i hi _ => hb2.block i hi⟩ (fun r e => by cases e); obtain ⟨fn, tmps, assign, body, hy, hR⟩ := hY pre x w2 hJ2 hlen; rw [HX1.out, HX2.out] at hy)
      refine hR.mono ?_
      rintro e W3 (⟨rfl, hJ3, hk3⟩ | ⟨rfl, hJx3⟩)
      · have hT3 := (hTr.kept hb2).cells hxl hk3
        have hz3 := Nat.le_trans (Nat.le_trans hsr hb2.size) hk3.size
        gi_wp2
        go_roundw
        case rel =>
          refine ⟨pre ++ [x], r.extract N r.size, rfl, ?_, ?_, hT3, hJ3, hz3⟩
          · rw [← HP.out, HPC.out]; simp
          · rw [ByteArray.size_extract]; omega
        case measure => simp [ByteArray.size_extract]; omega
      · gi_wp2
        refine bodyPost_ret (results_none rfl _ _ _) rfl ?_
        refine ⟨⟨_, rfl⟩, .inr ⟨pre ++ [x], ⟨piecesB (r.extract N r.size), ?_⟩, hJx3⟩⟩
        rw [← HP.out, HPC.out]; simp
    · have he := toList_e h0
      have hpe := piecesB_nil r h0
      rw [hpe, List.append_nil] at hp
      have HP := Lib.hid hp
      clear hp hpe
      gi_wp2
      go_end0
      exact ⟨⟨_, rfl⟩, .inl ⟨_, rfl, by rw [← HP.out]; exact hJr⟩⟩

theorem pieces_stops (n : Nat) (hn : 1 ≤ n) (Bn Bx : Nat) (s : ByteArray) (hs : s.size ≤ maxLen) (w : World) (hc : w.cell? ⟨Bn, 0, none⟩ = some (.string s)) (hxl : Bx < w.heap.size) :
    SeqStopsK Fence.wide n Tryz.prog 200 #[.pointer (some ⟨Bn, 0, none⟩)] (fun x : Pc => #[.string x.1.1, .bool x.1.2]) (CellsKept Bx) (fun xs => xs = piecesB s) (fun pre => pre <+: piecesB s) (piecesB s).length w :=
  fun l J Jx W hW hJ _ hY h0 => pieces_in n hn l Bn Bx s hs J Jx W hJ hY ((hW.cell (p := ⟨Bn, 0, none⟩) (World.block_lt_of_cell? _ _ hc)).trans hc) (Nat.lt_of_lt_of_le hxl hW.size) h0

theorem pieces_call (s : ByteArray) (w : World) :
    Calls Tryz.prog 154 #[.string s] w fun e w' => ∃ Bn, e = .returned (.func (.func 200) #[] #[.pointer (some ⟨Bn, 0, none⟩)]) ∧ w'.cell? ⟨Bn, 0, none⟩ = some (.string s) ∧ Below w.heap.size w w' := by
  go_enter Tryz.func154, Tryz.ntmps154
  go_wp2
  go_ret
  exact ⟨_, rfl, by simp [go_sem], by (repeat' (first | (with_reducible exact Below.refl _ _) | (with_reducible assumption) | (with_reducible refine below_alloc ?_ _) | (with_reducible refine Below.drew ?_) | (with_reducible refine _root_.Go.below_drewN ?_ _) | (with_reducible refine Below.setCell ?_ ?_ _) | go_size | (refine below_next ?_ (by assumption))))⟩

theorem cellsK_b {B : Nat} (W : World) (l : Nat) (o o' : Obj) (h : W.heap[l]? = some o) (hc : o.isCells = false) : CellsKept B W (W.putObj l o') :=
  ⟨by simp, fun k c t fz hk _ _ => by
    rw [World.putObj_heap_other (fun e => by subst e; rw [h] at hk; cases hk; simp [Obj.isCells] at hc)]
    exact hk⟩
end Go.Proofs.YtnfccckodgknjaaGreatDoor

namespace Go.Proofs.YtnfccckodgknjaaGreatDoor
open Go.RowKit Go.Shelf Go.Lib

theorem writeString (B b : Nat) (bs : List Value) (s : ByteArray) (w : World) (h : IsBuilderF 115 5 B b bs w) (hlen : bs.length + s.size ≤ 140737488355328) (hBw : B ≤ w.heap.size) :
    Calls Tryz.prog 155 #[.pointer (some ⟨b, 0, none⟩), .string s] w fun e w' =>
      e = .returned (.tuple #[.int .i64 s.size, .nilIface]) ∧ IsBuilderF 115 5 B b (bs ++ strCells s) w' ∧ Below B w w' ∧ OthersKept 5 (some b) w w' :=
  Calls.mono (Any.Builder_WriteString_k { Tryz.lays155 with } Tryz.Builder_Extra_155 B b bs s w h hlen hBw) (fun _ _ ⟨h1, h2, h3, h4⟩ => ⟨h1, .inr h2, h3, h4⟩)

def lays168_ren : Go.Shelf.Ren := ⟨fun | 168 => 245 | 240 => 198 | 242 => 256 | 276 => 231 | 278 => 262 | n => n, Tryz.lays155_ren.t, fun n => n⟩
theorem lays168 : Go.Proofs.Lays.n168 Tryz.prog lays168_ren := {
  mixed := by kernel_rfl
  f168 := Tryz.func245.trans (congrArg some (by kernel_rfl))
  f240 := Tryz.func198.trans (congrArg some (by kernel_rfl))
  f242 := Tryz.func256.trans (congrArg some (by kernel_rfl))
  f276 := Tryz.func231.trans (congrArg some (by kernel_rfl))
  f278 := Tryz.func262.trans (congrArg some (by kernel_rfl))
  t0 := Tryz.lays155.t0, a0 := Tryz.lays155.a0, z0 := Tryz.lays155.z0, v0 := Tryz.lays155.v0
  t3 := Tryz.lays155.t3, a3 := Tryz.lays155.a3, z3 := Tryz.lays155.z3, v3 := Tryz.lays155.v3
  t4 := Tryz.lays155.t4, a4 := Tryz.lays155.a4, z4 := Tryz.lays155.z4, v4 := Tryz.lays155.v4
  t5 := Tryz.lays155.t5, a5 := Tryz.lays155.a5, z5 := Tryz.lays155.z5, v5 := Tryz.lays155.v5
  t9 := Tryz.lays155.t9, a9 := Tryz.lays155.a9, z9 := Tryz.lays155.z9, v9 := Tryz.lays155.v9
  t20 := Tryz.lays155.t20, a20 := Tryz.lays155.a20, z20 := Tryz.lays155.z20, v20 := Tryz.lays155.v20
  t21 := Tryz.lays155.t21, a21 := Tryz.lays155.a21, z21 := Tryz.lays155.z21, v21 := Tryz.lays155.v21
  t37 := Tryz.lays155.t37, a37 := Tryz.lays155.a37, z37 := Tryz.lays155.z37, v37 := Tryz.lays155.v37
  t46 := Tryz.lays155.t46, a46 := Tryz.lays155.a46, z46 := Tryz.lays155.z46, v46 := Tryz.lays155.v46
  t51 := Tryz.lays155.t51, a51 := Tryz.lays155.a51, z51 := Tryz.lays155.z51, v51 := Tryz.lays155.v51
  t70 := Tryz.lays155.t70, a70 := Tryz.lays155.a70, z70 := Tryz.lays155.z70, v70 := Tryz.lays155.v70
  t72 := Tryz.lays155.t72, a72 := Tryz.lays155.a72, z72 := Tryz.lays155.z72, v72 := Tryz.lays155.v72
  t75 := Tryz.lays155.t75, a75 := Tryz.lays155.a75, z75 := Tryz.lays155.z75, v75 := Tryz.lays155.v75
  t164 := Tryz.lays155.t164, a164 := Tryz.lays155.a164, z164 := Tryz.lays155.z164, v164 := Tryz.lays155.v164 }
theorem extra168 : Builder.Extra Tryz.prog lays168_ren := {
  sizeBuilder := by kernel_rfl
  liesBuilder := by kernel_rfl
  t5 := Tryz.underlying5
  a5 := Tryz.isAgg5
  z5 := Tryz.sizeOf5
  v5 := Tryz.zeroValue5
  infoByte := by kernel_rfl
  cellsByte := by kernel_rfl
  sizeByte := by kernel_rfl
  neB5 := by decide }

theorem writeRune (B b : Nat) (bs : List Value) (r : Int) (hr0 : -2147483648 ≤ r) (hr1 : r ≤ 2147483647) (w : World) (h : IsBuilderF 115 5 B b bs w) (hlen : bs.length + 4 ≤ 140737488355328) (hBw : B ≤ w.heap.size) :
    Calls Tryz.prog 245 #[.pointer (some ⟨b, 0, none⟩), .int .i32 r] w fun e w' =>
      e = .returned (.tuple #[.int .i64 (runeCells r).length, .nilIface]) ∧ IsBuilderF 115 5 B b (bs ++ runeCells r) w' ∧ Below B w w' ∧ OthersKept 5 (some b) w w' :=
  Calls.mono (Any.Builder_WriteRune_k lays168 extra168 B b bs r hr0 hr1 w h hlen hBw) (fun _ _ ⟨h1, h2, h3, h4⟩ => ⟨h1, .inr h2, h3, h4⟩)

/-- A builder stays one while nothing but new blocks and blocks that are no cells turn. -/
theorem builder_own {B b : Nat} {bs : List Value} {W W' : World} {row : Option Nat} (h : IsBuilderF 115 5 B b bs W) (hg : W.grownBy W' row) (hr : ∀ r, row = some r → ∃ o : Obj, W.heap[r]? = some o ∧ o.isCells = false) :
    IsBuilderF 115 5 B b bs W' := by
  have key : ∀ p, BuilderAtF 115 5 B b p bs W → BuilderAtF 115 5 B b p bs W' := by
    rintro p ⟨hB, v, hb, hown, hne⟩
    refine ⟨hB, v, (grownBy_keeps_cells hg hr hb rfl).trans hb, hown.kept hg ?_, hne⟩
    rcases hown.2 with ⟨rfl, _⟩ | ⟨g, cap, cur, fz, rfl, _, hgg, _⟩
    · exact .inl rfl
    · right
      intro e
      obtain ⟨o, ho, hc⟩ := hr g e.symm
      rw [hgg] at ho
      cases ho
      simp [Obj.isCells] at hc
  exact h.elim (fun x => .inl (key _ x)) (fun x => .inr (key _ x))

theorem builder_lt {B b : Nat} {bs : List Value} {w : World} (h : IsBuilderF 115 5 B b bs w) : b < w.heap.size := h.elim BuilderAtF.lt BuilderAtF.lt

theorem others_keeps {b : Nat} {B : Nat} {w w' : World} (h : OthersKept 5 (some b) w w') (hb : Below B w w') (hbb : RowOf w b 115) : KeepsOthers w w' :=
  ⟨hb.size, fun k o hk hc => h k o hk (fun e => by
    cases e
    obtain ⟨c, fz, hc2⟩ := hbb
    rw [hk] at hc2; cases hc2; simp [Obj.isCells] at hc) (fun c fz e => by subst e; simp [Obj.isCells] at hc)⟩
theorem others_cells {b : Nat} {B : Nat} {w w' : World} (h : OthersKept 5 (some b) w w') (hb : Below B w w') : CellsKept b w w' :=
  ⟨hb.size, fun k c t fz hk hkb ht => h k _ hk (fun e => hkb (by cases e; rfl)) (fun c' fz' e => ht (by cases e; rfl))⟩
theorem builder_row {B b : Nat} {bs : List Value} {w : World} (h : IsBuilderF 115 5 B b bs w) : RowOf w b 115 := by
  rcases h with ⟨_, v, hb, _⟩ | ⟨_, v, hb, _⟩ <;> exact ⟨_, _, hb⟩
end Go.Proofs.YtnfccckodgknjaaGreatDoor
