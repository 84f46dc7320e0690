/-
  The cursor's methods that move: took, until, upTo.
  The cursor's methods over classes: until, tookSpaces, sees, tookFolded.
  The scanner's classes, and the cursor over them.
-/
import Derived.Test.YtnfccckodgknjaaGreatDoorY05
import Derived.Test.YtnfccckodgknjaaGreatDoorY26
import Derived.Test.YtnfccckodgknjaaGreatDoorShelf
import Derived.Shelf.Strings.FuncGrows
import Derived.Test.YtnfccckodgknjaaGreatDoorY13
namespace Go.Proofs.YtnfccckodgknjaaGreatDoor
open Go.RowKit
set_option maxHeartbeats 1000000
set_option maxRecDepth 100000

theorem ext_drop (s : ByteArray) (k : Nat) : (s.extract k s.size).data.toList = s.data.toList.drop k := by
  rw [Lib.extract_data]
  exact List.take_of_length_le (by rw [List.length_drop, Array.length_toList]; exact Nat.le_refl _)

theorem curTook (b : Nat) (c : Array Value) (T : TypeId) (s p : ByteArray) (k : Nat) (hk : k ≤ s.size) (hs : s.size ≤ 1000000000) (w : World) (h : At w b c T s k) :
    Calls Tryz.prog 63 #[.pointer (some ⟨b, 0, none⟩), .string p] w fun e w' =>
      (e = .returned (.bool true) ∧ p.data.toList <+: s.data.toList.drop k ∧ k + p.size ≤ s.size ∧ At w' b (mv c (k + p.size)) T s (k + p.size) ∧ But b w w') ∨
      (e = .returned (.bool false) ∧ ¬ p.data.toList <+: s.data.toList.drop k ∧ At w' b c T s k ∧ But b w w') := by
  have HR := Lib.hid (fun w' (h : At w' b c T s k) => curRest b c T s k hk w' h)
  have HS := Lib.hid (Tryz.strings_HasPrefix (s.extract k s.size) p)
  have h0 := h.cell0
  have h1 := h.cell1
  go_enter Tryz.func63, Tryz.ntmps63
  go_wp2_with fail
  refine (HR.out _ h).mono ?_
  rintro e w2 ⟨rfl, hb2⟩
  have h2 := h.below hb2
  go_wp2_with fail
  have h20 := h2.cell0
  have h21 := h2.cell1
  have f21 := h2.frozen 1
  have hd := ext_drop s k
  have hB2 := But.of_below (b := b) hb2
  cases hp : Lib.hasPrefix (s.extract k s.size).data.toList p.data.toList with
  | true =>
    rw [hp] at HS
    have hpre : p.data.toList <+: s.data.toList.drop k := by
      rw [← hd]
      simpa [Lib.hasPrefix] using hp
    have hlen := hpre.length_le
    rw [List.length_drop, Array.length_toList, Array.length_toList] at hlen
    have z1 : p.data.size = p.size := rfl
    have z2 : s.data.size = s.size := rfl
    have HPRE := Lib.hid hpre
    have hkp : k + p.size ≤ s.size := by omega
    have HKP := Lib.hid hkp
    have hw : wrap64 ((k : Int) + (p.size : Int)) = (k : Int) + p.size := IntWalk.wrap64_in _ (by omega)
    clear hp hpre hlen hd h0 h1 hk
    go_wp2_with fail
    refine (HS.out _).mono ?_
    rintro e w3 ⟨rfl, rfl⟩
    go_wp2_with fail
    go_ret
    exact .inl ⟨rfl, HPRE.out, HKP.out, h2.set (k + p.size), hB2.trans (But.set _ _ _ _)⟩
  | false =>
    rw [hp] at HS
    clear hd h0 h1 hk
    go_wp2_with fail
    refine (HS.out _).mono ?_
    rintro e w3 ⟨rfl, rfl⟩
    go_wp2_with fail
    go_ret
    refine .inr ⟨rfl, ?_, h2, hB2⟩
    rw [← ext_drop s k]
    intro h
    rw [show Lib.hasPrefix (s.extract k s.size).data.toList p.data.toList = true by simpa [Lib.hasPrefix] using h] at hp
    cases hp

theorem cut_pre (l p : List UInt8) : (Lib.cut l p).1 <+: l := by
  unfold Lib.cut
  split
  · exact List.take_prefix _ _
  · exact List.prefix_refl _

theorem curUpTo (b : Nat) (c : Array Value) (T : TypeId) (s p : ByteArray) (k : Nat) (hk : k ≤ s.size) (hs : s.size ≤ 1000000000) (m : Int) (w : World) (hm : w.cell? ⟨1, 0, none⟩ = some (.int .i64 m)) (h : At w b c T s k) :
    Calls Tryz.prog 109 #[.pointer (some ⟨b, 0, none⟩), .string p] w fun e w' => ∃ B : ByteArray, e = .returned (.string B) ∧ B.data.toList = (Lib.cut (s.data.toList.drop k) p.data.toList).1 ∧ k + B.size ≤ s.size ∧ But b w w' ∧
      ((p.data.toList <+: s.data.toList.drop (k + B.size) ∧ k + B.size + p.size ≤ s.size ∧ At w' b (mv c (k + B.size + p.size)) T s (k + B.size + p.size)) ∨
       (¬ p.data.toList <+: s.data.toList.drop (k + B.size) ∧ At w' b (mv c (k + B.size)) T s (k + B.size))) := by
  have HR := Lib.hid (curRest b c T s k hk w h)
  have hxs : (s.extract k s.size).size < 4294967281 := by rw [ByteArray.size_extract]; omega
  have HC := Lib.hid (fun w' hm => Tryz.strings_Cut (s.extract k s.size) p m w' hxs hm)
  have HM := Lib.hid hm
  clear hm hxs
  go_enter Tryz.func109, Tryz.ntmps109
  go_wp2_with fail
  refine HR.out.mono ?_
  rintro e w2 ⟨rfl, hb2⟩
  have h2 := h.below hb2
  go_wp2_with fail
  refine (HC.out _ ((hb2.cell (World.block_lt_of_cell? _ _ HM.out)).trans HM.out)).mono ?_
  rintro e w3 ⟨rfl, n, rfl⟩
  have h3 : At (w2.drewN n) b c T s k := h2.same rfl
  have hB3 : But b w (w2.drewN n) := (But.of_below hb2).trans (But.of_below (by (repeat' (first | (with_reducible exact Below.refl _ _) | (with_reducible assumption) | (with_reducible refine below_alloc ?_ _) | (with_reducible refine Below.drew ?_) | (with_reducible refine _root_.Go.below_drewN ?_ _) | (with_reducible refine Below.setCell ?_ ?_ _) | go_size | (refine below_next ?_ (by assumption))))))
  have hcp := cut_pre (s.data.toList.drop k) p.data.toList
  rw [ext_drop]
  obtain ⟨B, hB⟩ : ∃ B : ByteArray, B = ⟨(Lib.cut (s.data.toList.drop k) p.data.toList).1.toArray⟩ := ⟨_, rfl⟩
  have hBl : B.data.toList = (Lib.cut (s.data.toList.drop k) p.data.toList).1 := by rw [hB]
  have hle := hcp.length_le
  rw [← hBl, List.length_drop, Array.length_toList, Array.length_toList] at hle
  have hkB : k + B.size ≤ s.size := by
    have z1 : B.data.size = B.size := rfl
    have z2 : s.data.size = s.size := rfl
    omega
  rw [← hB]
  have HBL := Lib.hid hBl
  have HKB := Lib.hid hkB
  have HT := Lib.hid (curTake b c T s k B.size hkB (by unfold maxLen; omega) (w2.drewN n) h3)
  clear hB hBl hcp hle hkB
  go_wp2_with fail
  refine HT.out.mono ?_
  rintro e w4 ⟨rfl, h4, hB4⟩
  go_wp2_with fail
  refine (curTook b _ T s p (k + B.size) HKB.out hs w4 h4).mono ?_
  rintro e w5 hor
  have HOR := Lib.hid hor
  have hB5 := hB3.trans hB4
  rcases hor with ⟨rfl, h5, h6, h7, h8⟩ | ⟨rfl, h5, h6, h7⟩
  · rw [mv_mv] at h7
    have HH := Lib.hid h5
    clear HOR h5 hs hk
    go_wp2_with fail
    go_ret
    exact ⟨B, rfl, HBL.out, HKB.out, hB5.trans h8, .inl ⟨HH.out, h6, h7⟩⟩
  · have HH := Lib.hid h5
    clear HOR h5 hs hk
    go_wp2_with fail
    go_ret
    exact ⟨B, rfl, HBL.out, HKB.out, hB5.trans h7, .inr ⟨HH.out, h6⟩⟩
end Go.Proofs.YtnfccckodgknjaaGreatDoor

namespace Go.Proofs.YtnfccckodgknjaaGreatDoor
open Go.RowKit Go.Shelf
set_option maxHeartbeats 1000000
set_option maxRecDepth 100000

theorem curUntil (g : Nat) (lb : Array Value) (eg : ∀ args w, (callFunc g args).run Tryz.prog w = .ok (.enter g args) w) (p : Nat → Bool) (H : Bool) (hH : ∀ r, 128 ≤ r → r ≤ 1114111 → p r = H)
    (b : Nat) (c : Array Value) (T : TypeId) (s : ByteArray) (k : Nat) (hk : k ≤ s.size) (hs : s.size ≤ 1000000000) (w : World) (hp : PredGrows Tryz.prog g lb p w) (h : At w b c T s k) :
    Calls Tryz.prog 106 #[.pointer (some ⟨b, 0, none⟩), .func (.func g) #[] lb] w fun e w' => ∃ N : Nat, N = runN (qOf p) (s.data.toList.drop k) ∧ k + N ≤ s.size ∧
      e = .returned (.string (s.extract k (k + N))) ∧ At w' b (mv c (k + N)) T s (k + N) ∧ But b w w' := by
  have HR := Lib.hid (fun w' (h : At w' b c T s k) => curRest b c T s k hk w' h)
  have HT := Lib.hid (fun n (hn : k + n ≤ s.size) w' (h : At w' b c T s k) => curTake b c T s k n hn (by unfold maxLen; omega) w' h)
  have hix := idxFunc_bytes p H hH (s.extract k s.size)
  have hle := runN_le (qOf p) (s.data.toList.drop k)
  rw [List.length_drop, Array.length_toList] at hle
  have z2 : s.data.size = s.size := rfl
  have hsz : (s.extract k s.size).size = s.size - k := by rw [ByteArray.size_extract]; omega
  rw [ext_drop, hsz] at hix
  have HI := Lib.hid (fun w' (hp : PredGrows Tryz.prog g lb p w') => Tryz.strings_IndexFunc_grows g lb eg p (s.extract k s.size) w' hp)
  obtain ⟨N, hN⟩ : ∃ N, N = runN (qOf p) (s.data.toList.drop k) := ⟨_, rfl⟩
  rw [← hN] at hix hle
  have hkN : k + N ≤ s.size := by omega
  have HN := Lib.hid hN
  have HSZ := Lib.hid hsz
  have HKN := Lib.hid hkN
  have HPR := Lib.hid hp
  have HEG := Lib.hid eg
  by_cases hlt : N < s.size - k
  · rw [if_pos hlt] at hix
    rw [hix] at HI
    have hneg : decide (((N : Nat) : Int) < 0) = false := decide_eq_false (by omega)
    clear hix hle hN hH hp eg hsz z2 hlt hkN hs hk
    go_enter Tryz.func106, Tryz.ntmps106
    go_wp2_with fail
    refine (HR.out _ h).mono ?_
    rintro e w2 ⟨rfl, hb2⟩
    have h2 := h.below hb2
    go_wp2_with fail
    refine (HI.out _ (HPR.out.later hb2)).mono ?_
    rintro e w3 ⟨rfl, hb3⟩
    have h3 := h2.below hb3
    go_wp2_with fail
    refine (HT.out N HKN.out _ h3).mono ?_
    rintro e w4 ⟨rfl, h4, hB4⟩
    go_wp2_with fail
    go_ret
    exact ⟨N, HN.out, HKN.out, rfl, h4, (But.of_below (below_next hb2 hb3)).trans hB4⟩
  · rw [if_neg hlt] at hix
    rw [hix] at HI
    have hNs : N = s.size - k := by omega
    have HNS := Lib.hid hNs
    clear hix hle hN hH hp eg hsz z2 hlt hkN hs hk hNs
    go_enter Tryz.func106, Tryz.ntmps106
    go_wp2_with fail
    refine (HR.out _ h).mono ?_
    rintro e w2 ⟨rfl, hb2⟩
    have h2 := h.below hb2
    go_wp2_with fail
    refine (HI.out _ (HPR.out.later hb2)).mono ?_
    rintro e w3 ⟨rfl, hb3⟩
    have h3 := h2.below hb3
    go_wp2_with fail
    refine (HR.out _ h3).mono ?_
    rintro e w4 ⟨rfl, hb4⟩
    have h4 := h3.below hb4
    go_wp2_with fail
    rw [← HNS.out]
    refine (HT.out N HKN.out _ h4).mono ?_
    rintro e w5 ⟨rfl, h5, hB5⟩
    go_wp2_with fail
    go_ret
    exact ⟨N, HN.out, HKN.out, rfl, h5, (But.of_below (below_next (below_next hb2 hb3) hb4)).trans hB5⟩
end Go.Proofs.YtnfccckodgknjaaGreatDoor

namespace Go.Proofs.YtnfccckodgknjaaGreatDoor
open Go.RowKit Go.Shelf
set_option maxHeartbeats 1000000
set_option maxRecDepth 100000

theorem strNe {s : ByteArray} (h0 : 0 < s.size) : ¬ s.toList = [] := fun e => by
  rw [ByteArray.toList_eq] at e
  have h1 : s.data.toList.length = 0 := by rw [e]; rfl
  rw [Array.length_toList] at h1
  exact absurd h1 (by have : s.data.size = s.size := rfl; omega)
theorem strE {s : ByteArray} (h0 : ¬ 0 < s.size) : s.toList = [] := by
  rw [ByteArray.toList_eq]
  have : s.data.toList.length = 0 := by rw [Array.length_toList]; have : s.data.size = s.size := rfl; omega
  exact List.length_eq_zero_iff.1 this
def gtB (r : Int) : Bool := decide (r = 62)
def quB (r : Int) : Bool := decide (r = 34) || decide (r = 39)
def ewB (r : Int) : Bool := spB r || gtB r
def enB (r : Int) : Bool := ewB r || decide (r = 47)

theorem notSpace1 (r : Int) (w : World) : Calls Tryz.prog 124 #[.int .i32 r] w fun e w' => e = .returned (.bool (!spB r)) ∧ Below w.heap.size w w' := by
  have HS := Lib.hid (isSpace r)
  go_enter Tryz.func124, Tryz.ntmps124
  generalize spB r = x at HS ⊢
  go_wp2_with fail
  refine (HS.out _).mono ?_
  rintro e w2 ⟨rfl, hb2⟩
  go_wp2_with fail
  go_ret
  exact ⟨rfl, hb2⟩

theorem isGreater (r : Int) (w : World) : Calls Tryz.prog 136 #[.int .i32 r] w fun e w' => e = .returned (.bool (gtB r)) ∧ Below w.heap.size w w' := by
  go_enter Tryz.func136, Tryz.ntmps136
  go_wp2
  go_ret
  exact ⟨ret_bool (by unfold gtB; rw [Bool.eq_iff_iff]; simp), by (repeat' (first | (with_reducible exact Below.refl _ _) | (with_reducible assumption) | (with_reducible refine below_alloc ?_ _) | (with_reducible refine Below.drew ?_) | (with_reducible refine _root_.Go.below_drewN ?_ _) | (with_reducible refine Below.setCell ?_ ?_ _) | go_size | (refine below_next ?_ (by assumption))))⟩

theorem isQuote (r : Int) (w : World) : Calls Tryz.prog 185 #[.int .i32 r] w fun e w' => e = .returned (.bool (quB r)) ∧ Below w.heap.size w w' := by
  have e1 : (r == 34) = decide (r = 34) := by rw [Bool.eq_iff_iff]; simp
  have e2 : (r == 39) = decide (r = 39) := by rw [Bool.eq_iff_iff]; simp
  go_enter Tryz.func185, Tryz.ntmps185
  cases h1 : decide (r = 34) <;> cases h2 : decide (r = 39)
  all_goals
    rw [h1] at e1
    rw [h2] at e2
    go_wp2
    go_ret
    exact ⟨ret_bool (by simp [quB, h1, h2]), by (repeat' (first | (with_reducible exact Below.refl _ _) | (with_reducible assumption) | (with_reducible refine below_alloc ?_ _) | (with_reducible refine Below.drew ?_) | (with_reducible refine _root_.Go.below_drewN ?_ _) | (with_reducible refine Below.setCell ?_ ?_ _) | go_size | (refine below_next ?_ (by assumption))))⟩

theorem endsWord (r : Int) (w : World) : Calls Tryz.prog 132 #[.int .i32 r] w fun e w' => e = .returned (.bool (ewB r)) ∧ Below w.heap.size w w' := by
  have HS := Lib.hid (isSpace r)
  have HG := Lib.hid (isGreater r)
  unfold ewB
  go_enter Tryz.func132, Tryz.ntmps132
  generalize gtB r = y at HG ⊢
  cases hx : spB r
  all_goals
    rw [hx] at HS
    clear hx
    go_wp2_with fail
    refine (HS.out _).mono ?_
    rintro e w2 ⟨rfl, hb2⟩
    go_wp2_with fail
  · refine (HG.out _).mono ?_
    rintro e w3 ⟨rfl, hb3⟩
    go_wp2_with fail
    go_ret
    exact ⟨rfl, below_next hb2 hb3⟩
  · go_ret
    exact ⟨rfl, hb2⟩

theorem curSpaces (b : Nat) (c : Array Value) (T : TypeId) (s : ByteArray) (k : Nat) (hk : k ≤ s.size) (hs : s.size ≤ 1000000000) (w : World) (h : At w b c T s k) :
    Calls Tryz.prog 61 #[.pointer (some ⟨b, 0, none⟩)] w fun e w' => ∃ N : Nat, N = runN (qOf fun r => !spB r) (s.data.toList.drop k) ∧ k + N ≤ s.size ∧
      e = .returned (.bool (decide (0 < N))) ∧ At w' b (mv c (k + N)) T s (k + N) ∧ But b w w' := by
  have HU := Lib.hid (curUntil 124 #[] (fun args w => enters_of Tryz.func124 (by kernel_rfl) rfl args w) (fun r => !spB r) true (fun r h1 h2 => by simp [spB]; omega)
    b c T s k hk hs w (fun W x hx hb => notSpace1 x W) h)
  clear hk hs
  go_enter Tryz.func61, Tryz.ntmps61
  go_wp2_with fail
  refine HU.out.mono ?_
  rintro e w2 ⟨N, h1, h2, rfl, h3, h4⟩
  have hsz : (s.extract k (k + N)).size = N := by rw [ByteArray.size_extract]; omega
  have HN := Lib.hid h1
  have HK := Lib.hid h2
  by_cases h0 : 0 < N
  · have hne := strNe (s := s.extract k (k + N)) (by omega)
    have hne3 : ((s.extract k (k + N)).toList == []) = false := by simpa using hne
    have HD := Lib.hid (decide_eq_true h0)
    clear h1 h2 hsz h0
    go_wp2_with fail
    go_ret
    exact ⟨N, HN.out, HK.out, by rw [HD.out]; rfl, h3, h4⟩
  · have he := strE (s := s.extract k (k + N)) (by omega)
    have HD := Lib.hid (decide_eq_false h0)
    clear h1 h2 hsz h0
    go_wp2_with fail
    go_ret
    exact ⟨N, HN.out, HK.out, by rw [HD.out]; rfl, h3, h4⟩
end Go.Proofs.YtnfccckodgknjaaGreatDoor
