/-
  value: the string of an entry's code points.
  Named.
-/
import Derived.Test.YtnfccckodgknjaaGreatDoorY19
import Derived.Test.YtnfccckodgknjaaGreatDoorY11
namespace Go.Proofs.YtnfccckodgknjaaGreatDoor
open Go.RowKit Go.Shelf Go.Lib
attribute [local go_sem] Oper.semAt_some
set_option maxHeartbeats 1000000
set_option maxRecDepth 100000

def codeOf (p : List UInt8) : Int := (digRun hexB 16 p 0 0).1
def valP (xs : List ByteArray) : List UInt8 := xs.flatMap fun x => encodeRune (codeOf x.data.toList)
def valL (l : List UInt8) : List UInt8 := (parts 44 l).flatMap fun p => encodeRune (codeOf p)
theorem valP_parts (s : ByteArray) : valP (partsB 44 s) = valL s.data.toList := by
  unfold valP valL partsB
  rw [List.flatMap_map]
  congr
theorem valP_snoc (xs : List ByteArray) (x : ByteArray) : valP (xs ++ [x]) = valP xs ++ encodeRune (codeOf x.data.toList) := by simp [valP]
theorem encode_le (r : Int) : (encodeRune r).length ≤ 4 := by rw [← runeCells_length]; exact (runeCells_le r).2
theorem valP_len : ∀ xs : List ByteArray, (valP xs).length ≤ 4 * xs.length
  | [] => by simp [valP]
  | x :: xs => by
    have h1 := valP_len xs
    have h2 := encode_le (codeOf x.data.toList)
    have e : valP (x :: xs) = encodeRune (codeOf x.data.toList) ++ valP xs := by simp [valP]
    rw [e, List.length_append, List.length_cons]
    omega
theorem digRun_bd : ∀ (l : List UInt8) (c : Int) (k : Nat), 0 ≤ c → c ≤ 1114112 → 0 ≤ (digRun hexB 16 l c k).1 ∧ (digRun hexB 16 l c k).1 ≤ 1114112
  | [], c, k, h0, h1 => ⟨h0, h1⟩
  | b :: t, c, k, h0, h1 => by
    unfold digRun
    split
    · rename_i h
      have hb0 : (0 : Int) ≤ ((b.toNat : Nat) : Int) := by omega
      have hb1 : ((b.toNat : Nat) : Int) ≤ 255 := by have := b.toNat_lt; omega
      have := dvZ_bd hb0 hb1
      exact digRun_bd t _ _ (by omega) (by omega)
    · exact ⟨h0, h1⟩
theorem codeOf_bd (l : List UInt8) : 0 ≤ codeOf l ∧ codeOf l ≤ 1114112 := digRun_bd l 0 0 (by omega) (by omega)

/-- A builder stays one while a variable's box of another type is written. -/
theorem builder_box {B b b1 : Nat} {bs : List Value} {W : World} {v x : Value} (h : IsBuilderF 115 5 B b bs W) (hb : Boxed W b1 9 v) :
    IsBuilderF 115 5 B b bs (W.setCell ⟨b1, 0, none⟩ x) := by
  have hg := grownBy_setCell' W b1 x
  have key : ∀ p, BuilderAtF 115 5 B b p bs W → BuilderAtF 115 5 B b p bs (W.setCell ⟨b1, 0, none⟩ x) := by
    rintro p ⟨hB, v', hbk, hown, hne⟩
    refine ⟨hB, v', (Below.heap_setCell _ _ _ b (fun e => ?_)).trans hbk, hown.kept hg ?_, hne⟩
    · rw [e] at hbk
      have := (show W.heap[b1]? = _ from hb).symm.trans hbk
      simp at this
    · rcases hown.2 with ⟨rfl, _⟩ | ⟨g, cap, cur, fz, rfl, _, hgg, _⟩
      · exact .inl rfl
      · right
        intro e
        have e2 : g = b1 := by simpa [Value.ownBlock] using e
        rw [e2] at hgg
        have := (show W.heap[b1]? = _ from hb).symm.trans hgg
        simp at this
  exact h.elim (fun h => .inl (key _ h)) (fun h => .inr (key _ h))

theorem builder_new (B : Nat) (w : World) (h : B ≤ w.heap.size) : IsBuilderF 115 5 B w.heap.size (byteCells []) (w.alloc (.cells #[.pointer none, .slice none 0 0] 115)) :=
  .inl ⟨h, .slice none 0 0, World.alloc_heap_new w _, World.ownsRowF_of (World.ownsRow_nil _ _ _ _), by simp [Value.ownBlock]⟩

theorem value_in (n : Nat) (hn : 3 ≤ n) (A s : ByteArray) (hs : s.size ≤ 100000) (w : World) :
    CallsIn Fence.wide n Tryz.prog 215 #[.agg #[.string A, .string s]] w fun e w' => ∃ V : ByteArray, e = .returned (.string V) ∧ V.data.toList = valL s.data.toList ∧ Below w.heap.size w w' := by
  have h1 : 1 ≤ n - 1 := by omega
  refine callsIn_of_wp_marks Tryz.func215 rfl trivial ?_ rfl
  simp only [Tryz.ntmps215, List.size_toArray, List.length_cons, List.length_nil, Nat.reduceAdd, Nat.reduceSub, Array.replicate_succ, Array.replicate_zero, List.push_toArray, List.append_toArray, List.nil_append, List.cons_append]
  gi_wp2_with fail
  have hB1 : Below w.heap.size w ((w.alloc (.cells #[.string A, .string s] 187)).alloc (.cells #[.pointer none, .slice none 0 0] 115)) := by (repeat' (first | (with_reducible exact Below.refl _ _) | (with_reducible assumption) | (with_reducible refine below_alloc ?_ _) | (with_reducible refine Below.drew ?_) | (with_reducible refine _root_.Go.below_drewN ?_ _) | (with_reducible refine Below.setCell ?_ ?_ _) | go_size | (refine below_next ?_ (by assumption))))
  have hbd := builder_new w.heap.size (w.alloc (.cells #[.string A, .string s] 187)) (by simp)
  rw [World.size_alloc] at hbd
  have hs1 : ((w.alloc (.cells #[.string A, .string s] 187)).alloc (.cells #[.pointer none, .slice none 0 0] 115)).heap.size = w.heap.size + 2 := by simp
  generalize (w.alloc (.cells #[.string A, .string s] 187)).alloc (.cells #[.pointer none, .slice none 0 0] 115) = W1 at hB1 hbd hs1 ⊢
  refine ⟨trivial, fun _ => by omega, ?_⟩
  refine (callsIn_wide.2 (splitSeq_call s 44 W1)).mono ?_
  rintro e W2 ⟨b0, b1, b2, rfl, c0, c1, c2, h01, h12, hb1, hb2⟩
  gi_wp2_with fail
  have hsz2 := hb2.size
  have hbd2 : IsBuilderF 115 5 w.heap.size (w.heap.size + 1) (byteCells (valP [])) W2 := builder_own (row := none) hbd ⟨hb2.os, hb2.tape, hb2.output, hb2.size, fun i hi _ => hb2.block i hi⟩ (fun r e => by cases e)
  have hB2 : Below w.heap.size w W2 := below_next hB1 hb2
  refine range_parts (n := n) h1 b0 b1 b2 44 s hs rfl rfl h01 h12 c0 c1 c2
    (fun pre W => IsBuilderF 115 5 w.heap.size (w.heap.size + 1) (byteCells (valP pre)) W ∧ Below w.heap.size w W)
    (fun s A B row hs hg hr => ⟨builder_own hs.1 hg (fun r e => (hr r e).2), hs.2.grown hg hs.2.size (fun k e => Nat.le_trans hB2.size (hr k e).1)⟩)
    (fun xs A r x h hb => ⟨builder_box h.1 hb, h.2.setCell (p := ⟨b1, 0, none⟩) (by show w.heap.size ≤ b1; omega) _⟩)
    ⟨hbd2, hB2⟩
    (fun x => { tmps := #[.agg #[.string A, .string s], .pointer (some ⟨w.heap.size, 0, none⟩), .string ⟨#[]⟩, .pointer (some ⟨w.heap.size + 1, 0, none⟩), .string x, undef, undef, .pointer (some ⟨w.heap.size, 1, none⟩), .string s, .func (.func 261) #[] #[.pointer (some ⟨b0, 0, none⟩), .pointer (some ⟨b1, 0, none⟩), .pointer (some ⟨b2, 0, none⟩)], .string x, undef, undef, undef, undef, undef, undef, undef, undef, undef], defers := [] }) ?assign ?body ?done
  case assign =>
    intro l x W K hK
    gi_wp2
    exact hK
  case body =>
    rintro l pre x r W ⟨hbd, hB⟩ hlen hx hsz y0 y1 y2
    obtain ⟨d0, d1⟩ := codeOf_bd x.data.toList
    have hd := digits16 x (by unfold maxLen; omega) W
    have hlz := valP_len pre
    have hv : (digRun hexB 16 x.data.toList 0 0).1 = codeOf x.data.toList := rfl
    rw [hv] at hd
    have hsn := valP_snoc pre x
    generalize codeOf x.data.toList = cv at d0 d1 hd hsn
    have HD := Lib.hid hd
    have HS := Lib.hid hsn
    clear hd hsn hv
    gi_wp2_with fail
    refine ⟨trivial, (fun _ => by omega), ?_⟩
    refine (CallsIn.inRound l (callsIn_wide.2 HD.out)).mono ?_
    rintro e w3 ⟨rfl, hb3⟩
    gi_wp2_with fail
    have hbd3 := builder_own (row := none) hbd ⟨hb3.os, hb3.tape, hb3.output, hb3.size, fun i hi _ => hb3.block i hi⟩ (fun r e => by cases e)
    have hB3 := below_next hB hb3
    have hk3 : KeepsOthers W w3 := ⟨hb3.size, fun k o hk _ => (hb3.block k (Array.getElem?_eq_some_iff.1 hk).1).trans hk⟩
    have hrow := builder_row hbd3
    have z0 : Boxed w3 b0 9 (.string ⟨#[44]⟩) := (hb3.block b0 y0.lt).trans y0
    have z1 : Boxed w3 b1 9 (.string r) := (hb3.block b1 y1.lt).trans y1
    have z2 : Boxed w3 b2 3 (.int .i64 0) := (hb3.block b2 y2.lt).trans y2
    have hwr := writeRune w.heap.size (w.heap.size + 1) _ cv (by omega) (by omega) w3 hbd3 (by simp [byteCells]; omega) hB3.size
    refine ⟨trivial, (fun _ => by omega), ?_⟩
    refine (CallsIn.inRound l (callsIn_wide.2 hwr)).mono ?_
    rintro e w4 ⟨rfl, hbd4, hb4, ho4⟩
    have nb : ∀ (k : Nat) (t : TypeId) (v : Value), Boxed w3 k t v → t ≠ 115 → t ≠ 5 → w4.heap[k]? = w3.heap[k]? := by
      intro k t v hb h5 h6
      refine (ho4 k _ hb (fun e => ?_) (fun c fz e => h6 (by cases e; rfl))).trans hb.symm
      obtain ⟨c, fz, hc⟩ := hrow
      have e2 : w.heap.size + 1 = k := by cases e; rfl
      rw [e2] at hc
      have := (show w3.heap[k]? = _ from hb).symm.trans hc
      simp at this
      exact h5 this.2.1
    have n0 := (nb _ _ _ z0 (by decide) (by decide)).trans (z0.trans y0.symm)
    have n1 := (nb _ _ _ z1 (by decide) (by decide)).trans (z1.trans y1.symm)
    have n2 := (nb _ _ _ z2 (by decide) (by decide)).trans (z2.trans y2.symm)
    have hk4 := (hk3.trans (others_keeps ho4 hb4 hrow)).from W2.heap.size
    have hB4 := hB3.trans hb4
    rw [← byteCells_encodeRune, ← byteCells_append, ← HS.out] at hbd4
    clear nb ho4 hb4 hrow hk3 z0 z1 z2 hwr
    gi_wp2
    exact ⟨hk4, n0, n1, n2, hbd4, hB4⟩
  case done =>
    rintro D W hD ⟨hbd, hB⟩ hK
    gi_wp2_with fail
    refine ⟨trivial, (fun _ => by omega), ?_⟩
    refine (callsIn_wide.2 (Tryz.Builder_String_any_k _ _ _ W hbd hB.size)).mono ?_
    rintro e w' ⟨rfl, hbd', hb', ho'⟩
    have hK' := ho' D _ hK (by intro e; cases e; have := builder_row hbd; obtain ⟨c, fz, hc⟩ := this; rw [hK] at hc; cases hc) (fun c fz e => by cases e)
    gi_wp2_with fail
    refine ⟨by simp, .inl ⟨_, _, rfl, run_takeDeferred hK', ?_⟩⟩
    refine ⟨_, results_tmp rfl _ _ _, _, rfl, valP_parts s, (hB.trans hb').trans ?_⟩
    exact belowK_b (w := w) (Nat.le_refl _) w' D _ _ (Nat.le_trans hB2.size hD) hK' rfl rfl

theorem value (A s : ByteArray) (hs : s.size ≤ 100000) (w : World) :
    Calls Tryz.prog 215 #[.agg #[.string A, .string s]] w fun e w' => ∃ V : ByteArray, e = .returned (.string V) ∧ V.data.toList = valL s.data.toList ∧ Below w.heap.size w w' :=
  callsIn_wide.1 (value_in 3 (by omega) A s hs w)
end Go.Proofs.YtnfccckodgknjaaGreatDoor

namespace Go.Proofs.YtnfccckodgknjaaGreatDoor
open Go.RowKit
set_option maxHeartbeats 1000000
set_option maxRecDepth 100000

/-- The value of a name, if the table has it. -/
noncomputable def namedR (s : List UInt8) : Option (List UInt8) := (ENT.find? fun e => nameOf e == s).map fun e => valL (codesOf e)

theorem leB_antisymm (x y : List UInt8) (h : leB x y = true) (h2 : leB y x = true) : x = y := by
  simp only [leB, Bool.or_eq_true, beq_iff_eq] at h h2
  rcases h with h | h
  · rcases h2 with h2 | h2
    · exact absurd (ltB_trans x y x h h2) (by simp [ltB_irrefl])
    · exact h2.symm
  · exact h

theorem pairwise_uniq {l : List (List UInt8)} (hp : l.Pairwise fun a b => ltB (nameOf a) (nameOf b) = true) : ∀ a ∈ l, ∀ b ∈ l, nameOf a = nameOf b → a = b := by
  induction hp with
  | nil => intro a ha; simp at ha
  | cons h1 _ ih =>
    rename_i x l
    intro a ha b hb hab
    rw [List.mem_cons] at ha hb
    rcases ha with rfl | ha <;> rcases hb with rfl | hb
    · rfl
    · have := h1 b hb; rw [hab, ltB_irrefl] at this; simp at this
    · have := h1 a ha; rw [hab, ltB_irrefl] at this; simp at this
    · exact ih a ha b hb hab

theorem named_some (e : List UInt8) (he : e ∈ ENT) : namedR (nameOf e) = some (valL (codesOf e)) := by
  unfold namedR
  cases hf : ENT.find? fun e' => nameOf e' == nameOf e with
  | none =>
    have := List.find?_eq_none.mp hf e he
    simp at this
  | some e' =>
    have h1 := List.find?_some hf
    have h2 := List.mem_of_find?_eq_some hf
    have := pairwise_uniq ent_sorted e' h2 e he (by simpa using h1)
    rw [this]; rfl

theorem named_none (s : List UInt8) (h : ∀ e ∈ ENT, nameOf e ≠ s) : namedR s = none := by
  unfold namedR
  rw [List.find?_eq_none.mpr (by intro e he; simpa using h e he)]
  rfl

theorem named_of {s : List UInt8} {A B : ByteArray} {F : Bool} (h : UpTo s A B F) : namedR s = if F && A.data.toList == s then some (valL B.data.toList) else none := by
  cases F with
  | false =>
    rw [if_neg (by simp)]
    refine named_none s fun e he hs => ?_
    have := h.no rfl e he
    rw [hs, ltB_irrefl] at this
    simp at this
  | true =>
    obtain ⟨e, he, h1, h2, h3, h4⟩ := h.yes rfl
    by_cases hA : A.data.toList = s
    · rw [if_pos (by simpa using hA), h2, ← hA, h1]
      exact named_some e he
    · rw [if_neg (by simpa using hA)]
      refine named_none s fun e' he' hs => hA ?_
      have h5 := h4 e' he' (by rw [hs]; simp [leB])
      rw [hs] at h5
      rw [h1]
      exact leB_antisymm _ _ h3 h5

theorem list_bytes (a b : ByteArray) (h : a.data.toList = b.data.toList) : a = b := by
  cases a; cases b; congr; exact Array.toList_inj.mp h

/-- What Named answers. -/
def NmP (r : Option (List UInt8)) (V : ByteArray) (c : Int) : Prop := (r = some V.data.toList ∧ c = 0) ∨ (r = none ∧ V = ⟨#[]⟩ ∧ c = 5)

theorem codesOf_len (e : List UInt8) : (codesOf e).length ≤ e.length := by
  unfold codesOf
  have := (List.dropWhile_suffix (l := e) fun b => b != 61).length_le
  rw [List.length_drop]; omega
theorem nameOf_len (e : List UInt8) : (nameOf e).length ≤ e.length := (List.takeWhile_prefix _).length_le
theorem ent_len (e : List UInt8) (he : e ∈ ENT) : e.length ≤ 29726 := by
  obtain ⟨S, E, hI, rfl⟩ := ent_of _ _ (Nat.le_refl _) e he
  have := hI.len
  rw [nm_length] at this
  rw [cut_len hI]; omega
theorem upTo_size {s : List UInt8} {A B : ByteArray} (h : UpTo s A B true) : A.size ≤ 29726 ∧ B.size ≤ 29726 := by
  obtain ⟨e, he, h1, h2, _⟩ := h.yes rfl
  have := ent_len e he
  have h3 := codesOf_len e
  have h4 := nameOf_len e
  rw [← h2] at h3
  rw [← h1] at h4
  rw [size_list] at h3 h4
  omega

end Go.Proofs.YtnfccckodgknjaaGreatDoor
