/-
  strings.IndexRune and ContainsRune at whatever rune over an ASCII string.
-/
import Derived.Test.YtnfccckodgknjaaGreatDoorY01
import Derived.Test.YtnfccckodgknjaaGreatDoorShelf
import Derived.Test.YtnfccckodgknjaaGreatDoorY04
namespace Go.Proofs.YtnfccckodgknjaaGreatDoor
open Go.RowKit
set_option maxHeartbeats 1000000
set_option maxRecDepth 100000

/-- Every byte is below 80 (hexadecimal). -/
def Asc (s : ByteArray) : Prop := ∀ i (h : i < s.size), (s[i]'h).toNat < 128

theorem idxRune_bad (s : ByteArray) (r : Int) (h3 : (r == 65533) = false) (hv : Lib.validRune r = false) (w : World) :
    Calls Tryz.prog 250 #[.string s, .int .i32 r] w fun e w' => e = .returned (.int .i64 (-1)) ∧ w = w' := by
  have hr : r < 0 ∨ 128 ≤ r := by
    by_cases a : 0 ≤ r
    · by_cases b : r < 128
      · simp [Lib.validRune] at hv; omega
      · omega
    · omega
  rcases hr with h | h
  · go_enter Tryz.func250, Tryz.ntmps250
    go_wp2_with (go_at_call 259; refine (Tryz.utf8_ValidRune r _).mono ?_; rintro e w' ⟨rfl, hw⟩; rw [hw])
    go_ret
    exact ⟨rfl, rfl⟩
  · go_enter Tryz.func250, Tryz.ntmps250
    go_wp2_with (go_at_call 259; refine (Tryz.utf8_ValidRune r _).mono ?_; rintro e w' ⟨rfl, hw⟩; rw [hw])
    go_ret
    exact ⟨rfl, rfl⟩
theorem idxRune_hi (s : ByteArray) (_hs : s.size ≤ 100) (ha : Asc s) (r : Int) (h0 : 128 ≤ r) (hv : Lib.validRune r = true) (h3 : (r == 65533) = false) (w : World) :
    Calls Tryz.prog 250 #[.string s, .int .i32 r] w fun e w' => e = .returned (.int .i64 (-1)) ∧ Below w.heap.size w w' := by
  go_enter Tryz.func250, Tryz.ntmps250
  go_wp2_with (go_at_call 259; refine (Tryz.utf8_ValidRune r _).mono ?_; rintro e w' ⟨rfl, hw⟩; rw [hw])
  have hv' : Utf8.valid r = true := by rw [validRune_eq]; exact hv
  obtain ⟨e2, e4, el⟩ := encode_facts r hv' h0
  have el' := el (by omega)
  clear el
  by_cases hlt : (Utf8.encode r).size - 1 < s.size
  · have ha' := ha _ hlt
    go_step3
    go_wp2
    refine wp_loop_rounds 1 ?_
    rw [rounds_succ]
    go_wp2
    have hI : ((Utf8.encode r).size : Int) - 1 < (s.size : Int) := by omega
    have hI1 : (1 : Int) ≤ ((Utf8.encode r).size : Int) := by omega
    have hI3 : ((Utf8.encode r).size : Int) - 1 < ((Utf8.encode r).size : Int) := by omega
    have hI2 : 0 < (Utf8.encode r).size := by omega
    have hix : ∀ a e, Lib.indexByte (s.extract a e).data.toList ((((Utf8.encode r)[(Utf8.encode r).size - 1]'(by omega)).toNat : Int)).toNat.toUInt8 = -1 := fun a e => by
      rw [← Lib.firstIdx_eq]
      refine firstIdx_ascii s a e _ ?_ ?_
      · intro b hb
        obtain ⟨i, hi, rfl⟩ := List.mem_iff_getElem.1 hb
        exact ha i (by simpa using hi)
      · simpa using el'
    have HIX := Lib.hid hix
    clear hix
    go_step3
    go_wp2_with fail
    go_quiet (fail)
    have hB : Below w.heap.size w (w.drewN nq) := _root_.Go.below_drewN (Below.refl _ _) nq
    generalize w.drewN nq = w2 at hB ⊢
    go_wp2_with fail
    go_quiet ((go_at_call 254; exact Calls.quiet_of_same (Tryz.strings_IndexByte _ _ _)))
    have hB2 : Below w.heap.size w (w2.drewN nq) := _root_.Go.below_drewN hB nq
    generalize w2.drewN nq = w3 at hB2 ⊢
    rw [HIX.out]
    go_wp2
    simp only [Exit.inBlock, Exit.then, Exit.noGoto_ret]
    go_ret
    exact ⟨rfl, by (repeat' (first | (with_reducible exact Below.refl _ _) | (with_reducible assumption) | (with_reducible refine below_alloc ?_ _) | (with_reducible refine Below.drew ?_) | (with_reducible refine _root_.Go.below_drewN ?_ _) | (with_reducible refine Below.setCell ?_ ?_ _) | go_size | (refine below_next ?_ (by assumption))))⟩
  · go_step3
    go_wp2
    refine wp_loop_rounds 1 ?_
    rw [rounds_succ]
    go_wp2
    rw [Exit.noGoto_ret]
    go_ret
    exact ⟨rfl, by (repeat' (first | (with_reducible exact Below.refl _ _) | (with_reducible assumption) | (with_reducible refine below_alloc ?_ _) | (with_reducible refine Below.drew ?_) | (with_reducible refine _root_.Go.below_drewN ?_ _) | (with_reducible refine Below.setCell ?_ ?_ _) | go_size | (refine below_next ?_ (by assumption))))⟩

theorem idxRune_err (s : ByteArray) (ha : Asc s) (w : World) :
    Calls Tryz.prog 250 #[.string s, .int .i32 65533] w fun e w' => e = .returned (.int .i64 (-1)) ∧ Below w.heap.size w w' := by
  go_enter Tryz.func250, Tryz.ntmps250
  go_wp2_with fail
  go_loopw [176] (fun _ wr => ∃ pos : Nat, wr = w.iter s pos) (fun _ wr => s.size - wr.iterPos w.heap.size)
  case atStart => exact ⟨0, rfl⟩
  case round =>
    obtain ⟨pos, rfl⟩ := hrel
    by_cases hp : pos < s.size
    · have hnx : ∀ ty, (Instr.next (.pointer (some ⟨w.heap.size, 0, none⟩)) true ty).run Tryz.prog (w.iter s pos) = _ := fun ty => run_next_ascii w s pos ty hp (ha pos hp)
      have h1 := ha pos hp
      have h2 : (((s[pos]'hp).toNat : Int) == 65533) = false := by simp; omega
      go_wp2
      go_roundw
      case rel => exact ⟨pos + 1, rfl⟩
      case measure => simp; omega
    · have hnx : ∀ ty, (Instr.next (.pointer (some ⟨w.heap.size, 0, none⟩)) true ty).run Tryz.prog (w.iter s pos) = _ := fun ty => run_next_end w s pos ty hp
      go_wp2
      go_ret
      exact ⟨rfl, below_alloc (Below.refl _ _) _⟩

/-- Is r the number of one of the bytes of s? -/
def memB (s : ByteArray) (r : Int) : Bool := s.data.toList.any fun b => decide ((b.toNat : Int) = r)

theorem memB_hi (s : ByteArray) (ha : Asc s) (r : Int) (h : r < 0 ∨ 128 ≤ r) : memB s r = false := by
  unfold memB
  rw [List.any_eq_false]
  intro b hb
  obtain ⟨i, hi, rfl⟩ := List.mem_iff_getElem.1 hb
  have h1 : (s.data.toList[i]).toNat < 128 := ha i (by simpa using hi)
  simp only [decide_eq_true_eq]
  omega

theorem memB_lo (s : ByteArray) (r : Int) (h0 : 0 ≤ r) (h1 : r < 128) : decide (0 ≤ Lib.indexByte s.data.toList r.toNat.toUInt8) = memB s r := by
  have key : ∀ l : List UInt8, decide (0 ≤ Lib.indexByte l r.toNat.toUInt8) = l.any fun b => decide ((b.toNat : Int) = r) := by
    intro l
    induction l with
    | nil => rfl
    | cons b l ih =>
      have hg := Lib.indexByte_ge l r.toNat.toUInt8
      have e : (b == r.toNat.toUInt8) = decide ((b.toNat : Int) = r) := by
        rw [Bool.eq_iff_iff]
        simp only [beq_iff_eq, decide_eq_true_eq]
        constructor
        · intro h
          rw [h]
          simp
          omega
        · intro h
          rw [← h]
          simp
      rw [List.any_cons, ← ih, ← e]
      have eq : Lib.indexByte (b :: l) r.toNat.toUInt8 = if b == r.toNat.toUInt8 then 0 else if Lib.indexByte l r.toNat.toUInt8 == -1 then -1 else Lib.indexByte l r.toNat.toUInt8 + 1 := rfl
      rw [eq]
      clear eq e ih
      generalize Lib.indexByte l r.toNat.toUInt8 = k at hg ⊢
      by_cases hb : (b == r.toNat.toUInt8) = true
      · simp [hb]
      · simp only [hb, Bool.false_eq_true, if_false, Bool.false_or]
        by_cases hm : k = -1
        · subst hm; simp
        · have hm' : (k == -1) = false := by simpa using hm
          rw [hm', if_neg (by simp), decide_eq_true (by omega), decide_eq_true (by omega)]
  exact key _

theorem containsRune (s : ByteArray) (hs : s.size ≤ 100) (ha : Asc s) (r : Int) (w : World) :
    Calls Tryz.prog 226 #[.string s, .int .i32 r] w fun e w' => e = .returned (.bool (memB s r)) ∧ Below w.heap.size w w' := by
  by_cases h : 0 ≤ r ∧ r < 128
  · refine (Tryz.strings_ContainsRune_ascii s r w h.1 h.2).mono ?_
    rintro e w' ⟨rfl, hw⟩
    rw [memB_lo s r h.1 h.2, hw]
    exact ⟨rfl, Below.refl _ _⟩
  · rw [memB_hi s ha r (by omega)]
    have key : Calls Tryz.prog 250 #[.string s, .int .i32 r] w fun e w' => e = .returned (.int .i64 (-1)) ∧ Below w.heap.size w w' := by
      by_cases h3 : r = 65533
      · subst h3
        exact idxRune_err s ha w
      · have h3' : (r == 65533) = false := by simpa using h3
        by_cases hv : Lib.validRune r = true
        · exact idxRune_hi s hs ha r (by simp [Lib.validRune] at hv; omega) hv h3' w
        · refine (idxRune_bad s r h3' (by simpa using hv) w).mono ?_
          rintro e w' ⟨rfl, rfl⟩
          exact ⟨rfl, Below.refl _ _⟩
    have K := Lib.hid key
    clear key
    go_enter Tryz.func226, Tryz.ntmps226
    go_wp2_with (go_at_call 250; refine K.out.mono ?_; rintro e w' ⟨rfl, hb⟩)
    go_ret
    exact ⟨rfl, by (repeat' (first | (with_reducible exact Below.refl _ _) | (with_reducible assumption) | (with_reducible refine below_alloc ?_ _) | (with_reducible refine Below.drew ?_) | (with_reducible refine _root_.Go.below_drewN ?_ _) | (with_reducible refine Below.setCell ?_ ?_ _) | go_size | (refine below_next ?_ (by assumption))))⟩

theorem listed1 (s : ByteArray) (hs : s.size ≤ 100) (ha : Asc s) (r : Int) (a : Addr) (w : World) (hc : w.cell? a = some (.string s)) :
    Calls Tryz.prog 225 #[.int .i32 r, .pointer (some a)] w fun e w' => e = .returned (.bool (memB s r)) ∧ Below w.heap.size w w' := by
  go_enter Tryz.func225, Tryz.ntmps225
  go_wp2_with (go_at_call 226; refine (containsRune s hs ha r _).mono ?_; rintro e w' ⟨rfl, hb⟩)
  go_ret
  exact ⟨rfl, by (repeat' (first | (with_reducible exact Below.refl _ _) | (with_reducible assumption) | (with_reducible refine below_alloc ?_ _) | (with_reducible refine Below.drew ?_) | (with_reducible refine _root_.Go.below_drewN ?_ _) | (with_reducible refine Below.setCell ?_ ?_ _) | go_size | (refine below_next ?_ (by assumption))))⟩

theorem memB_sp (r : Int) : memB ⟨#[9, 10, 12, 13, 32]⟩ r = spB r := by
  simp only [memB, spB, List.any_cons, List.any_nil, Bool.or_false]
  rw [Bool.eq_iff_iff]
  simp
  omega

theorem asc_lit {s : ByteArray} (h : (s.data.toList.all fun b => decide (b.toNat < 128)) = true) : Asc s := by
  intro i hi
  have := List.all_eq_true.1 h (s.data.toList[i]'(by simpa using hi)) (List.getElem_mem _)
  simp only [decide_eq_true_eq] at this
  exact this

theorem isSpace (r : Int) (w : World) : Calls Tryz.prog 125 #[.int .i32 r] w fun e w' => e = .returned (.bool (spB r)) ∧ Below w.heap.size w w' := by
  go_enter Tryz.func125, Tryz.ntmps125
  go_wp2_with (first | (go_at_call 225; refine (listed1 ⟨#[9, 10, 12, 13, 32]⟩ (by decide) (asc_lit (by decide)) r _ _ ?hc).mono ?_; rotate_right; rw [memB_sp]; rintro e w' ⟨rfl, hb⟩) | go_in)
  case hc => exact World.cell?_alloc_at _ _ _ _ rfl
  go_ret
  exact ⟨rfl, by (repeat' (first | (with_reducible exact Below.refl _ _) | (with_reducible assumption) | (with_reducible refine below_alloc ?_ _) | (with_reducible refine Below.drew ?_) | (with_reducible refine _root_.Go.below_drewN ?_ _) | (with_reducible refine Below.setCell ?_ ?_ _) | go_size | (refine below_next ?_ (by assumption))))⟩
end Go.Proofs.YtnfccckodgknjaaGreatDoor
