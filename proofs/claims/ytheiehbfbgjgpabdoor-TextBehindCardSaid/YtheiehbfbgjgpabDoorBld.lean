/-
  strings.Builder, written: the contracts at this program.
-/
import Derived.Test.YtheiehbfbgjgpabDoorShelf
import Derived.Test.YtheiehbfbgjgpabDoorPcs
import Derived.Shelf.Strings.BuilderRune
namespace Go.Proofs.YtheiehbfbgjgpabDoor
open Go.RowKit Go.Shelf Go.Lib

theorem writeString (B b : Nat) (bs : List Value) (s : ByteArray) (w : World) (h : IsBuilderF 52 5 B b bs w) (hlen : bs.length + s.size ≤ 140737488355328) (hBw : B ≤ w.heap.size) :
    Calls Tryd.prog 41 #[.pointer (some ⟨b, 0, none⟩), .string s] w fun e w' =>
      e = .returned (.tuple #[.int .i64 s.size, .nilIface]) ∧ IsBuilderF 52 5 B b (bs ++ strCells s) w' ∧ Below B w w' ∧ OthersKept 5 (some b) w w' :=
  Calls.mono (Any.Builder_WriteString_k { Tryd.lays155 with } Tryd.Builder_Extra_155 B b bs s w h hlen hBw) (fun _ _ ⟨h1, h2, h3, h4⟩ => ⟨h1, .inr h2, h3, h4⟩)

def lays168_ren : Go.Shelf.Ren := ⟨fun | 168 => 75 | 240 => 70 | 242 => 92 | 276 => 89 | 278 => 101 | n => n, Tryd.lays155_ren.t, fun n => n⟩
theorem lays168 : Go.Proofs.Lays.n168 Tryd.prog lays168_ren := {
  mixed := by kernel_rfl
  f168 := Tryd.func75.trans (congrArg some (by kernel_rfl))
  f240 := Tryd.func70.trans (congrArg some (by kernel_rfl))
  f242 := Tryd.func92.trans (congrArg some (by kernel_rfl))
  f276 := Tryd.func89.trans (congrArg some (by kernel_rfl))
  f278 := Tryd.func101.trans (congrArg some (by kernel_rfl))
  t0 := Tryd.lays155.t0, a0 := Tryd.lays155.a0, z0 := Tryd.lays155.z0, v0 := Tryd.lays155.v0
  t3 := Tryd.lays155.t3, a3 := Tryd.lays155.a3, z3 := Tryd.lays155.z3, v3 := Tryd.lays155.v3
  t4 := Tryd.lays155.t4, a4 := Tryd.lays155.a4, z4 := Tryd.lays155.z4, v4 := Tryd.lays155.v4
  t5 := Tryd.lays155.t5, a5 := Tryd.lays155.a5, z5 := Tryd.lays155.z5, v5 := Tryd.lays155.v5
  t9 := Tryd.lays155.t9, a9 := Tryd.lays155.a9, z9 := Tryd.lays155.z9, v9 := Tryd.lays155.v9
  t20 := Tryd.lays155.t20, a20 := Tryd.lays155.a20, z20 := Tryd.lays155.z20, v20 := Tryd.lays155.v20
  t21 := Tryd.lays155.t21, a21 := Tryd.lays155.a21, z21 := Tryd.lays155.z21, v21 := Tryd.lays155.v21
  t37 := Tryd.lays155.t37, a37 := Tryd.lays155.a37, z37 := Tryd.lays155.z37, v37 := Tryd.lays155.v37
  t46 := Tryd.lays155.t46, a46 := Tryd.lays155.a46, z46 := Tryd.lays155.z46, v46 := Tryd.lays155.v46
  t51 := Tryd.lays155.t51, a51 := Tryd.lays155.a51, z51 := Tryd.lays155.z51, v51 := Tryd.lays155.v51
  t70 := Tryd.lays155.t70, a70 := Tryd.lays155.a70, z70 := Tryd.lays155.z70, v70 := Tryd.lays155.v70
  t72 := Tryd.lays155.t72, a72 := Tryd.lays155.a72, z72 := Tryd.lays155.z72, v72 := Tryd.lays155.v72
  t75 := Tryd.lays155.t75, a75 := Tryd.lays155.a75, z75 := Tryd.lays155.z75, v75 := Tryd.lays155.v75
  t164 := Tryd.lays155.t164, a164 := Tryd.lays155.a164, z164 := Tryd.lays155.z164, v164 := Tryd.lays155.v164 }
theorem extra168 : Builder.Extra Tryd.prog lays168_ren := {
  sizeBuilder := by kernel_rfl
  liesBuilder := by kernel_rfl
  t5 := Tryd.underlying5
  a5 := Tryd.isAgg5
  z5 := Tryd.sizeOf5
  v5 := Tryd.zeroValue5
  infoByte := by kernel_rfl
  cellsByte := by kernel_rfl
  sizeByte := by kernel_rfl
  neB5 := by decide }

theorem writeRune (B b : Nat) (bs : List Value) (r : Int) (hr0 : -2147483648 ≤ r) (hr1 : r ≤ 2147483647) (w : World) (h : IsBuilderF 52 5 B b bs w) (hlen : bs.length + 4 ≤ 140737488355328) (hBw : B ≤ w.heap.size) :
    Calls Tryd.prog 75 #[.pointer (some ⟨b, 0, none⟩), .int .i32 r] w fun e w' =>
      e = .returned (.tuple #[.int .i64 (runeCells r).length, .nilIface]) ∧ IsBuilderF 52 5 B b (bs ++ runeCells r) w' ∧ Below B w w' ∧ OthersKept 5 (some b) w w' :=
  Calls.mono (Any.Builder_WriteRune_k lays168 extra168 B b bs r hr0 hr1 w h hlen hBw) (fun _ _ ⟨h1, h2, h3, h4⟩ => ⟨h1, .inr h2, h3, h4⟩)

/-- A builder stays one while nothing but new blocks and blocks that are no cells turn. -/
theorem builder_own {B b : Nat} {bs : List Value} {W W' : World} {row : Option Nat} (h : IsBuilderF 52 5 B b bs W) (hg : W.grownBy W' row) (hr : ∀ r, row = some r → ∃ o : Obj, W.heap[r]? = some o ∧ o.isCells = false) :
    IsBuilderF 52 5 B b bs W' := by
  have key : ∀ p, BuilderAtF 52 5 B b p bs W → BuilderAtF 52 5 B b p bs W' := by
    rintro p ⟨hB, v, hb, hown, hne⟩
    refine ⟨hB, v, (grownBy_keeps_cells hg hr hb rfl).trans hb, hown.kept hg ?_, hne⟩
    rcases hown.2 with ⟨rfl, _⟩ | ⟨g, cap, cur, fz, rfl, _, hgg, _⟩
    · exact .inl rfl
    · right
      intro e
      obtain ⟨o, ho, hc⟩ := hr g e.symm
      rw [hgg] at ho
      cases ho
      simp [Obj.isCells] at hc
  exact h.elim (fun x => .inl (key _ x)) (fun x => .inr (key _ x))

theorem builder_lt {B b : Nat} {bs : List Value} {w : World} (h : IsBuilderF 52 5 B b bs w) : b < w.heap.size := h.elim BuilderAtF.lt BuilderAtF.lt

theorem others_keeps {b : Nat} {B : Nat} {w w' : World} (h : OthersKept 5 (some b) w w') (hb : Below B w w') (hbb : RowOf w b 52) : KeepsOthers w w' :=
  ⟨hb.size, fun k o hk hc => h k o hk (fun e => by
    cases e
    obtain ⟨c, fz, hc2⟩ := hbb
    rw [hk] at hc2; cases hc2; simp [Obj.isCells] at hc) (fun c fz e => by subst e; simp [Obj.isCells] at hc)⟩
theorem others_cells {b : Nat} {B : Nat} {w w' : World} (h : OthersKept 5 (some b) w w') (hb : Below B w w') : CellsKept b w w' :=
  ⟨hb.size, fun k c t fz hk hkb ht => h k _ hk (fun e => hkb (by cases e; rfl)) (fun c' fz' e => ht (by cases e; rfl))⟩
theorem builder_row {B b : Nat} {bs : List Value} {w : World} (h : IsBuilderF 52 5 B b bs w) : RowOf w b 52 := by
  rcases h with ⟨_, v, hb, _⟩ | ⟨_, v, hb, _⟩ <;> exact ⟨_, _, hb⟩
end Go.Proofs.YtheiehbfbgjgpabDoor
