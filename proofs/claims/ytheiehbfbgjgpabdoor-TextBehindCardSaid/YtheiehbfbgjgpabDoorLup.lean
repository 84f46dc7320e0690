/-
  lastUpTo: the last entry whose name is not greater than s.
-/
import Derived.Test.YtheiehbfbgjgpabDoorSor
namespace Go.Proofs.YtheiehbfbgjgpabDoor
open Go.RowKit
set_option maxHeartbeats 1000000
set_option maxRecDepth 100000

theorem lup (s : ByteArray) (m : Int) (w : World) (hm : w.cell? ⟨1, 0, none⟩ = some (.int .i64 m)) :
    Calls Tryd.prog 43 #[.string s] w fun e w' => ∃ A B F, e = .returned (.tuple #[.agg #[.string A, .string B], .bool F]) ∧ UpTo s.data.toList A B F ∧ Below w.heap.size w w' := by
  have hsz := nm_size
  go_enter Tryd.func43, Tryd.ntmps43
  generalize hN : (ByteArray.mk (List.toArray (List.append _ _))) = N
  have HN : NM = N := by rw [← hN]; rfl
  clear hN
  rw [HN] at hsz
  have HQ := Lib.hid HN
  clear HN
  have HSZ := Lib.hid hsz
  clear hsz
  go_wp2_with fail
  have hB0 : Below w.heap.size w (w.alloc (.cells #[.string ⟨#[]⟩, .string ⟨#[]⟩] 63)) := below_alloc (Below.refl _ _) _
  have HM := Lib.hid hm
  clear hm
  go_loopw [3, 4, 5] (fun f l h wr => ∃ (lo hi : Nat) (F : Bool) (A B : ByteArray), f = .bool F ∧ l = .int .i64 lo ∧ h = .int .i64 hi ∧ lo ≤ 29727 ∧ hi ≤ 29726 ∧ Halv s.data.toList lo hi A B F ∧ wr.cell? ⟨w.heap.size, 0, none⟩ = some (.string A) ∧ wr.cell? ⟨w.heap.size, 1, none⟩ = some (.string B) ∧ wr.frozen? ⟨w.heap.size, 0, none⟩ = false ∧ wr.frozen? ⟨w.heap.size, 1, none⟩ = false ∧ w.heap.size < wr.heap.size ∧ Below w.heap.size w wr) (fun _ l h _ => ((intOf h).toNat - (intOf l).toNat))
  case atStart => 
    exact ⟨0, 29726, false, ⟨#[]⟩, ⟨#[]⟩, rfl, rfl, rfl, by omega, by omega, halv_start _ _ _, World.cell?_alloc_at _ _ _ _ rfl, World.cell?_alloc_at _ _ _ _ rfl, World.frozen?_alloc_at _ _ _ _ rfl, World.frozen?_alloc_at _ _ _ _ rfl, by simp, hB0⟩
  case round =>
    obtain ⟨lo, hi, F, A, B, rfl, rfl, rfl, hlo, hhi, hH, hcA, hcB, hfr0, hfr1, hlt0, hB⟩ := hrel
    have HH := Lib.hid hH
    clear hH
    by_cases hlt : lo < hi
    · have hmid : ((lo : Int) + hi) / 2 = (((lo + hi) / 2 : Nat) : Int) := by omega
      have HMID := Lib.hid hmid
      clear hmid
      go_wp2_with fail
      rw [HMID.out]
      refine (entryAround _ (by rw [nm_size]; omega) _).mono ?_
      rintro e w' ⟨S, E, rfl, hI, hS, hE, rfl⟩
      have hlenE : E ≤ 29726 := by have := hI.len; rwa [nm_length] at this
      have hSE := hI.le
      have h1 : (S : Int) ≤ (N.size : Int) := by have := HSZ.out; omega
      have h2 : (E : Int) ≤ (N.size : Int) := by have := HSZ.out; omega
      have h3 : (S : Int) ≤ (E : Int) := by omega
      have HI := Lib.hid hI
      have hmr : wr.cell? ⟨1, 0, none⟩ = some (.int .i64 m) := carry HM.out hB
      have HC := Lib.hid (parse (N.extract S E) (by rw [ByteArray.size_extract]; omega) m wr hmr)
      clear hI hmr
      go_wp2_with fail
      refine HC.out.mono ?_
      rintro e w' ⟨A', B', rfl, hA, hB', hb⟩
      have HA := Lib.hid (hA.trans (by rw [← HQ.out, nm_slice]))
      have HB' := Lib.hid (hB'.trans (by rw [← HQ.out, nm_slice]))
      clear hA hB'
      have c0 := (hb.cell (p := ⟨w.heap.size, 0, none⟩) hlt0).trans hcA
      have c1 := (hb.cell (p := ⟨w.heap.size, 1, none⟩) hlt0).trans hcB
      have c2 := (hb.frozen (p := ⟨w.heap.size, 0, none⟩) hlt0).trans hfr0
      have c3 := (hb.frozen (p := ⟨w.heap.size, 1, none⟩) hlt0).trans hfr1
      have hBw := below_next hB hb
      have hltw := Nat.lt_of_lt_of_le hlt0 hb.size
      have HBb := Lib.hid hb
      clear hb hcA hcB hfr0 hfr1
      have nB : (w.heap.size = w'.heap.size) = False := by simp; omega
      have nB2 : (w'.heap.size = w.heap.size) = False := by simp; omega
      cases hp : Op.bytesLess A'.toList s.toList || A'.toList == s.toList with
      | true =>
        have HP := Lib.hid hp
        go_wp2_with fail
        have hle : leB A'.data.toList s.data.toList = true := by simpa [leB, Lib.toList_data] using HP.out
        refine ⟨⟨E + 1, hi, true, A', B', rfl, by go_num, rfl, by omega, hhi, halv_up HH.out HI.out HA.out HB'.out hle, ?_, ?_, ?_, ?_, ?_, by (repeat' (first | (with_reducible exact Below.refl _ _) | (with_reducible assumption) | (with_reducible refine below_alloc ?_ _) | (with_reducible refine Below.drew ?_) | (with_reducible refine below_drewN ?_ _) | (with_reducible refine Below.setCell ?_ ?_ _) | go_size | (refine below_next ?_ (by assumption))))⟩, by simp [intOf]; omega⟩
        · rw [World.cell?_alloc_past _ _ _ (by simpa using hltw)]; simp [go_sem, c0]
        · rw [World.cell?_alloc_past _ _ _ (by simpa using hltw)]; simp [go_sem, c1]
        · rw [World.frozen?_alloc_past _ _ _ (by simpa using hltw)]; simpa [go_sem] using c2
        · rw [World.frozen?_alloc_past _ _ _ (by simpa using hltw)]; simpa [go_sem] using c3
        · simp; omega
      | false =>
        have HP := Lib.hid hp
        go_wp2_with fail
        have hle : leB A'.data.toList s.data.toList = false := by simpa [leB, Lib.toList_data] using HP.out
        refine ⟨⟨lo, S, F, A, B, rfl, rfl, rfl, by omega, by omega, halv_down HH.out HI.out HA.out hle, ?_, ?_, ?_, ?_, ?_, by (repeat' (first | (with_reducible exact Below.refl _ _) | (with_reducible assumption) | (with_reducible refine below_alloc ?_ _) | (with_reducible refine Below.drew ?_) | (with_reducible refine below_drewN ?_ _) | (with_reducible refine Below.setCell ?_ ?_ _) | go_size | (refine below_next ?_ (by assumption))))⟩, by simp [intOf]; omega⟩
        · rw [World.cell?_alloc_past _ _ _ hltw]; exact c0
        · rw [World.cell?_alloc_past _ _ _ hltw]; exact c1
        · rw [World.frozen?_alloc_past _ _ _ hltw]; exact c2
        · rw [World.frozen?_alloc_past _ _ _ hltw]; exact c3
        · simp; omega
    · have k0 : ((wr.setCell ⟨w.heap.size, 0, none⟩ (.string A)).setCell ⟨w.heap.size, 1, none⟩ (.string B)).cell? ⟨w.heap.size, 0, none⟩ = some (.string A) := by
        simp [go_sem, hcA, hcB]
      have k1 : ((wr.setCell ⟨w.heap.size, 0, none⟩ (.string A)).setCell ⟨w.heap.size, 1, none⟩ (.string B)).cell? ⟨w.heap.size, 1, none⟩ = some (.string B) := by
        simp [go_sem, hcA, hcB]
      go_wp2_with fail
      have hB9 : Below w.heap.size w ((wr.setCell ⟨w.heap.size, 0, none⟩ (.string A)).setCell ⟨w.heap.size, 1, none⟩ (.string B)) := by (repeat' (first | (with_reducible exact Below.refl _ _) | (with_reducible assumption) | (with_reducible refine below_alloc ?_ _) | (with_reducible refine Below.drew ?_) | (with_reducible refine below_drewN ?_ _) | (with_reducible refine Below.setCell ?_ ?_ _) | go_size | (refine below_next ?_ (by assumption))))
      generalize (wr.setCell ⟨w.heap.size, 0, none⟩ (.string A)).setCell ⟨w.heap.size, 1, none⟩ (.string B) = w9 at k0 k1 hB9 ⊢
      refine bodyPost_ret (v := .tuple #[.agg #[.string A, .string B], .bool F]) (by simp [results, Tryd.results43, go_sem, k0, k1]) rfl ⟨A, B, F, rfl, halv_end HH.out (by omega), hB9⟩
end Go.Proofs.YtheiehbfbgjgpabDoor
