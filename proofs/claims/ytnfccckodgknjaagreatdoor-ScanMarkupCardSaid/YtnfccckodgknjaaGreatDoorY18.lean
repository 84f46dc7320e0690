/-
  Decode.
-/
import Derived.Test.YtnfccckodgknjaaGreatDoorY16
import Derived.Test.YtnfccckodgknjaaGreatDoorY09
import Derived.RangeFuncFrom
namespace Go.Proofs.YtnfccckodgknjaaGreatDoor
open Go.RowKit Go.Shelf Go.Lib
attribute [local go_sem] Oper.semAt_some
set_option maxHeartbeats 1000000
set_option maxRecDepth 100000

def pcL (x : Pc) : List UInt8 := if x.1.2 then x.1.1.data.toList else [239, 191, 189]
def decP (xs : List Pc) : List UInt8 := xs.flatMap pcL
theorem decP_snoc (xs : List Pc) (x : Pc) : decP (xs ++ [x]) = decP xs ++ pcL x := by simp [decP]
theorem pcL_len (x : Pc) : (pcL x).length ≤ 4 := by
  unfold pcL
  split
  · have := x.2; rw [Array.length_toList]; exact this
  · simp
theorem decP_len : ∀ xs : List Pc, (decP xs).length ≤ 4 * xs.length
  | [] => by simp [decP]
  | x :: xs => by
    have h1 := decP_len xs
    have h2 := pcL_len x
    have e : decP (x :: xs) = pcL x ++ decP xs := by simp [decP]
    rw [e, List.length_append, List.length_cons]
    omega
theorem piecesF_len : ∀ (k : Nat) (l : List UInt8), (piecesF k l).length ≤ k
  | 0, _ => by simp [piecesF]
  | k + 1, [] => by simp [piecesF]
  | k + 1, b :: t => by
    unfold piecesF
    have := piecesF_len k ((b :: t).drop (measTab encT b t).1)
    rw [List.length_cons]
    omega
theorem piecesB_len (s : ByteArray) : (piecesB s).length ≤ s.size := by
  unfold piecesB piecesL
  rw [List.length_map]
  have := piecesF_len s.data.toList.length s.data.toList
  rw [size_list] at this
  rw [size_list]
  exact this

def decS (s : ByteArray) : ByteArray := ⟨(decP (piecesB s)).toArray⟩

theorem decode_in (n : Nat) (hn : 3 ≤ n) (s : ByteArray) (hs : s.size ≤ 400000) (w : World) :
    CallsIn Fence.wide n Tryz.prog 95 #[.string s] w fun e w' => e = .returned (.string (decS s)) ∧ Below w.heap.size w w' := by
  have h1 : 1 ≤ n := by omega
  refine callsIn_of_wp_marks Tryz.func95 rfl trivial ?_ rfl
  simp only [Tryz.ntmps95, List.size_toArray, List.length_cons, List.length_nil, Nat.reduceAdd, Nat.reduceSub, Array.replicate_succ, Array.replicate_zero, List.push_toArray, List.append_toArray, List.nil_append, List.cons_append]
  have hnew : (w.alloc (.cells #[.pointer none, .slice none 0 0] 115)).heap[w.heap.size]? = some (.cells #[.pointer none, .slice none 0 0] 115 (0, 0)) := by
    show (w.heap.push _)[w.heap.size]? = _
    simp
  have HN := Lib.hid hnew
  clear hnew
  gi_wp2_with fail
  have hgr := Tryz.Builder_Grow_fresh w.heap.size w.heap.size s.size _ (Nat.le_refl _) HN.out (by simp) (by omega)
  refine ⟨trivial, ?_⟩
  refine (callsIn_wide.2 hgr).mono ?_
  rintro e W1 ⟨rfl, hbd, hb1⟩
  gi_wp2_with fail
  refine ⟨trivial, ?_⟩
  refine (callsIn_wide.2 (pieces_call s W1)).mono ?_
  rintro e W2 ⟨Bn, rfl, hcn, hb2⟩
  gi_wp2_with fail
  have hB2 : Below w.heap.size w W2 := ((below_alloc (Below.refl _ _) _).trans hb1).trans (hb2.mono (by have := hb1.size; simp at this; omega))
  have hlt : w.heap.size < W2.heap.size := by have h3 := hb1.size; have h4 := hb2.size; simp at h3; omega
  have hbd2 : IsBuilderF 115 5 w.heap.size w.heap.size (byteCells (decP [])) W2 :=
    builder_own (row := none) (.inr (BuilderAtF.of hbd)) ⟨hb2.os, hb2.tape, hb2.output, hb2.size, fun i hi _ => hb2.block i hi⟩ (fun r e => by cases e)
  clear hgr hbd hb1 hb2 HN
  refine wpIn_rangeFunc_ownF rfl h1 (gf := 200) (lb := #[.pointer (some ⟨Bn, 0, none⟩)]) rfl trivial (enters_of Tryz.func200 (by kernel_rfl) rfl)
    (pieces_stops (n - 1) (by omega) Bn w.heap.size s (by unfold maxLen; omega) W2 hcn hlt) (fun h k => h.trans k) (fun W l o o' _ h hc _ => cellsK_b W l o o' h hc) (Below.refl _ _) (fun _ => rfl)
    (fun pre W => IsBuilderF 115 5 w.heap.size w.heap.size (byteCells (decP pre)) W ∧ Below w.heap.size w W)
    (fun _ _ _ => False)
    (fun s A B row hs hg hr => ⟨builder_own hs.1 hg (fun r e => (hr r e).2), hs.2.grown hg hs.2.size (fun k e => Nat.le_trans hB2.size (hr k e).1)⟩)
    (fun _ _ _ _ _ hs _ _ => hs)
    ⟨hbd2, hB2⟩
    (fun x => { tmps := #[.string s, undef, .string ⟨#[]⟩, .pointer (some ⟨w.heap.size, 0, none⟩), .string x.1.1, .bool x.1.2, .string s, .int .i64 s.size, .tuple #[], .string s, .func (.func 200) #[] #[.pointer (some ⟨Bn, 0, none⟩)], .string x.1.1, .bool x.1.2, undef, undef, undef, undef, undef], defers := [] }) ?assign ?body ?done ?stop
  case assign =>
    intro l x W K hK
    gi_wp2
    exact hK
  case body =>
    rintro l pre x W ⟨hbd, hB⟩ hlen
    have hl1 := decP_len pre
    have hl2 := piecesB_len s
    have hx := x.2
    have hlz : (byteCells (decP pre)).length + x.1.1.size ≤ 140737488355328 := by simp [byteCells]; omega
    have hlz2 : (byteCells (decP pre)).length + (⟨#[239, 191, 189]⟩ : ByteArray).size ≤ 140737488355328 := by
      have : (⟨#[239, 191, 189]⟩ : ByteArray).size = 3 := rfl
      simp [byteCells, this]; omega
    have hws := writeString _ _ _ x.1.1 W hbd hlz hB.size
    have hws2 := writeString _ _ _ ⟨#[239, 191, 189]⟩ W hbd hlz2 hB.size
    have hrow := builder_row hbd
    have HW := Lib.hid hws
    have HW2 := Lib.hid hws2
    have HS := Lib.hid (decP_snoc pre x)
    clear hws hws2 hl1 hl2 hx hlz hlz2 hlen
    cases hc : x.1.2 with
    | true =>
      have HC := Lib.hid hc
      clear hc
      gi_wp2_with fail
      refine ⟨trivial, (fun _ => by omega), ?_⟩
      refine (CallsIn.inRound l (callsIn_wide.2 HW.out)).mono ?_
      rintro e w' ⟨rfl, hbd', hb', ho'⟩
      gi_wp2
      refine ⟨others_keeps ho' hb' hrow, others_cells ho' hb', ?_, hB.trans hb'⟩
      rw [HS.out, byteCells_append, pcL, HC.out, if_pos rfl]
      exact hbd'
    | false =>
      have HC := Lib.hid hc
      clear hc
      gi_wp2_with fail
      refine ⟨trivial, (fun _ => by omega), ?_⟩
      refine (CallsIn.inRound l (callsIn_wide.2 HW2.out)).mono ?_
      rintro e w' ⟨rfl, hbd', hb', ho'⟩
      gi_wp2
      refine ⟨others_keeps ho' hb' hrow, others_cells ho' hb', ?_, hB.trans hb'⟩
      rw [HS.out, byteCells_append, pcL, HC.out, if_neg (by simp)]
      exact hbd'
  case done =>
    rintro D xs W hD rfl ⟨hbd, hB⟩ hK
    gi_wp2_with fail
    refine ⟨trivial, ?_⟩
    refine (callsIn_wide.2 (Tryz.Builder_String_any_k _ _ _ W hbd hB.size)).mono ?_
    rintro e w' ⟨rfl, hbd', hb', ho'⟩
    have hK' := ho' D _ hK (by intro e; cases e; have := builder_row hbd; obtain ⟨c, fz, hc⟩ := this; rw [hK] at hc; cases hc) (fun c fz e => by cases e)
    gi_wp2_with fail
    refine ⟨by simp, .inl ⟨_, _, rfl, run_takeDeferred hK', ?_⟩⟩
    refine ⟨_, results_tmp rfl _ _ _, rfl, (hB.trans hb').trans ?_⟩
    exact belowK_b (w := w) (Nat.le_refl _) w' D _ _ (Nat.le_trans hB2.size hD) hK' rfl rfl
  case stop =>
    rintro D c pre W _ _ h _
    exact h.elim

theorem decode (s : ByteArray) (hs : s.size ≤ 400000) (w : World) :
    Calls Tryz.prog 95 #[.string s] w fun e w' => e = .returned (.string (decS s)) ∧ Below w.heap.size w w' :=
  callsIn_wide.1 (decode_in 3 (by omega) s hs w)
end Go.Proofs.YtnfccckodgknjaaGreatDoor
