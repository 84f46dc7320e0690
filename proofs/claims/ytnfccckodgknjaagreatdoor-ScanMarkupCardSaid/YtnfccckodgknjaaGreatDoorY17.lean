/-
  keeper and kept: a builder that gets markup with the bytes 00 replaced.
-/
import Derived.Test.YtnfccckodgknjaaGreatDoorY01
import Derived.Test.YtnfccckodgknjaaGreatDoorY16
import Derived.Test.YtnfccckodgknjaaGreatDoorY09
import Derived.Test.YtnfccckodgknjaaGreatDoorY02
namespace Go.Proofs.YtnfccckodgknjaaGreatDoor
open Go.RowKit Go.Shelf Go.Lib
set_option maxHeartbeats 1000000
set_option maxRecDepth 100000

/-- A builder stays one while a block of another type turns. -/
theorem builder_but {B b c : Nat} {bs : List Value} {W W' : World} {cc : Array Value} {T : TypeId} {fz : Nat × Nat} (h : IsBuilderF 115 5 B b bs W)
    (hc : W.heap[c]? = some (.cells cc T fz)) (hT : T ≠ 5) (hne : c ≠ b) (hg : But c W W') : IsBuilderF 115 5 B b bs W' := by
  have key : ∀ p, BuilderAtF 115 5 B b p bs W → BuilderAtF 115 5 B b p bs W' := by
    rintro p ⟨hB, v, hb, hown, hne'⟩
    refine ⟨hB, v, (hg.block b (Array.getElem?_eq_some_iff.1 hb).1 (fun e => hne (by cases e; rfl))).trans hb, hown.kept hg ?_, hne'⟩
    rcases hown.2 with ⟨rfl, _⟩ | ⟨g, cap, cur, fz', rfl, _, hgg, _⟩
    · exact .inl rfl
    · right
      intro e
      cases e
      rw [hc] at hgg
      cases hgg
      exact hT rfl
  exact h.elim (fun x => .inl (key _ x)) (fun x => .inr (key _ x))

theorem builder_below {B b : Nat} {bs : List Value} {W W' : World} (h : IsBuilderF 115 5 B b bs W) (hb : Below W.heap.size W W') : IsBuilderF 115 5 B b bs W' :=
  builder_own (row := none) h ⟨hb.os, hb.tape, hb.output, hb.size, fun i hi _ => hb.block i hi⟩ (fun r e => by cases e)

theorem builder_fresh {B b : Nat} {w : World} (hB : B ≤ b) (h : w.heap[b]? = some (.cells #[.pointer none, .slice none 0 0] 115 (0, 0))) : IsBuilderF 115 5 B b (byteCells []) w :=
  .inl ⟨hB, _, h, World.ownsRowF_nil _ _ _ _, by simp [Value.ownBlock]⟩

theorem keeper (b : Nat) (w : World) :
    Calls Tryz.prog 105 #[.pointer (some ⟨b, 0, none⟩)] w fun e w' => ∃ g, e = .returned (.func (.func 176) #[] #[.pointer (some ⟨g, 0, none⟩)]) ∧
      w'.heap[g]? = some (.cells #[.pointer (some ⟨b, 0, none⟩)] 113 (0, 0)) ∧ w.heap.size ≤ g ∧ Below w.heap.size w w' := by
  go_enter Tryz.func105, Tryz.ntmps105
  go_wp2
  go_ret
  refine ⟨_, rfl, ?_, Nat.le_refl _, by (repeat' (first | (with_reducible exact Below.refl _ _) | (with_reducible assumption) | (with_reducible refine below_alloc ?_ _) | (with_reducible refine Below.drew ?_) | (with_reducible refine _root_.Go.below_drewN ?_ _) | (with_reducible refine Below.setCell ?_ ?_ _) | go_size | (refine below_next ?_ (by assumption))))⟩
  show (w.heap.push _)[w.heap.size]? = _
  exact Array.getElem?_push_size

theorem keep1 (B b g : Nat) (m : Int) (p : ByteArray) (l : List UInt8) (w : World) (hm : w.cell? ⟨1, 0, none⟩ = some (.int .i64 m)) (hg : w.cell? ⟨g, 0, none⟩ = some (.pointer (some ⟨b, 0, none⟩)))
    (h : IsBuilderF 115 5 B b (byteCells l) w) (hp : p.size ≤ 10000000) (hl : l.length ≤ 1000000000) (hBw : B ≤ w.heap.size) :
    Calls Tryz.prog 176 #[.string p, .pointer (some ⟨g, 0, none⟩)] w fun e w' => e = .returned (.tuple #[]) ∧ IsBuilderF 115 5 B b (byteCells (l ++ nulL p.data.toList)) w' ∧ Below B w w' ∧ OthersKept 5 (some b) w w' := by
  have HR : Hid (∀ n, Calls Tryz.prog 58 #[.string p, .string ⟨#[0]⟩, .string ⟨#[239, 191, 189]⟩] (w.drewN n) fun e w' => ∃ S : ByteArray, e = .returned (.string S) ∧ S.data.toList = nulL p.data.toList ∧ S.size ≤ 30000000 ∧
      w'.cell? ⟨g, 0, none⟩ = some (.pointer (some ⟨b, 0, none⟩)) ∧ Below w.heap.size w w') := Lib.hid (by
    intro n
    refine (replace1 p 0 ⟨#[239, 191, 189]⟩ (by decide) (by decide) m hp (w.drewN n) hm).mono ?_
    rintro e w' ⟨S, hS, rfl, hb⟩
    refine ⟨S, rfl, hS, ?_, (hb.cell (p := ⟨g, 0, none⟩) (World.block_lt_of_cell? _ _ hg)).trans hg, (_root_.Go.below_drewN (Below.refl _ _) n).trans hb⟩
    rw [← size_list, hS]
    have := nulL_len p.data.toList
    rw [size_list] at this
    unfold nulL at this
    show (rep1 0 [239, 191, 189] p.data.toList).length ≤ _
    omega)
  have HW : Hid (∀ (S : ByteArray) w2 n, S.data.toList = nulL p.data.toList → S.size ≤ 30000000 → Below w.heap.size w w2 → Calls Tryz.prog 155 #[.pointer (some ⟨b, 0, none⟩), .string S] (w2.drewN n) fun e w' => e = .returned (.tuple #[.int .i64 S.size, .nilIface]) ∧
      IsBuilderF 115 5 B b (byteCells (l ++ nulL p.data.toList)) w' ∧ Below B w w' ∧ OthersKept 5 (some b) w w') := Lib.hid (by
    intro S w2 n hS hz hb2
    have hb3 : Below w.heap.size w (w2.drewN n) := _root_.Go.below_drewN hb2 n
    refine (writeString B b (byteCells l) S (w2.drewN n) (builder_below h hb3) (by simp [byteCells]; omega) (Nat.le_trans hBw hb3.size)).mono ?_
    rintro e w' ⟨rfl, h1, h2, h3⟩
    refine ⟨rfl, ?_, (hb3.mono hBw).trans h2, (fun k o hk hb ho => h3 k o ((hb3.block k (Array.getElem?_eq_some_iff.1 hk).1).trans hk) hb ho)⟩
    rw [byteCells_append, ← hS]
    exact h1)
  clear hm h hp hl hBw
  go_enter Tryz.func176, Tryz.ntmps176
  go_wp2_with fail
  go_region_with (first
    | (go_at_call 58; refine (HR.out 1).mono ?_; rintro e w2 ⟨S, rfl, hS, hz, hg2, hb2⟩; have HS := Lib.hid hS; have HZ := Lib.hid hz; clear hS hz)
    | (go_at_call 155; refine (HW.out S _ 0 HS.out HZ.out hb2).mono ?_; rintro e w3 ⟨rfl, h1, h2, h3⟩))
  all_goals
    go_wp2_with fail
    go_end0
    exact ⟨rfl, h1, h2, h3⟩

/-- A string of these bytes. -/
def bl (l : List UInt8) : ByteArray := ⟨l.toArray⟩
theorem bl_list (l : List UInt8) : (bl l).data.toList = l := rfl
theorem bl_of (s : ByteArray) : bl s.data.toList = s := rfl
theorem bl_size (l : List UInt8) : (bl l).size = l.length := by show l.toArray.size = _; simp
theorem bl_eq {s : ByteArray} {l : List UInt8} (h : s.data.toList = l) : s = bl l := by rw [← h]; rfl

theorem kept (m : Int) (p : ByteArray) (hp : p.size ≤ 10000000) (w : World) (hm : w.cell? ⟨1, 0, none⟩ = some (.int .i64 m)) :
    Calls Tryz.prog 120 #[.string p] w fun e w' => e = .returned (.string (bl (nulL p.data.toList))) ∧ Below w.heap.size w w' := by
  have HM := Lib.hid hm
  have hnew : (w.alloc (.cells #[.pointer none, .slice none 0 0] 115)).heap[w.heap.size]? = some (.cells #[.pointer none, .slice none 0 0] 115 (0, 0)) := by
    show (w.heap.push _)[w.heap.size]? = _
    simp
  have HN := Lib.hid hnew
  clear hm hnew
  go_enter Tryz.func120, Tryz.ntmps120
  go_wp2_with fail
  refine (keeper w.heap.size _).mono ?_
  rintro e w1 ⟨g, rfl, hg, hge, hb1⟩
  have h1 : IsBuilderF 115 5 w.heap.size w.heap.size (byteCells []) w1 := builder_below (builder_fresh (Nat.le_refl _) HN.out) hb1
  have hsz : w.heap.size ≤ w1.heap.size := by have := hb1.size; simp at this; omega
  have hB1 : Below w.heap.size w w1 := (below_alloc (Below.refl _ _) _).trans (hb1.mono (by simp))
  have hm1 := carry HM.out hB1
  have hgc : w1.cell? ⟨g, 0, none⟩ = some (.pointer (some ⟨w.heap.size, 0, none⟩)) := by simp [World.cell?, hg]
  have HK := Lib.hid (keep1 w.heap.size w.heap.size g m p [] w1 hm1 hgc h1 hp (by simp) hsz)
  clear hg hge hgc hm1 h1
  go_wp2_with fail
  refine HK.out.mono ?_
  rintro e w2 ⟨rfl, h2, hb2, _⟩
  have HS := Lib.hid (Tryz.Builder_String_any_k w.heap.size w.heap.size _ w2 h2 (by have := hb2.size; omega))
  clear h2
  go_wp2_with fail
  refine HS.out.mono ?_
  rintro e w3 ⟨rfl, _, hb3, _⟩
  go_wp2_with fail
  go_ret
  exact ⟨rfl, (hB1.trans hb2).trans hb3⟩
end Go.Proofs.YtnfccckodgknjaaGreatDoor
