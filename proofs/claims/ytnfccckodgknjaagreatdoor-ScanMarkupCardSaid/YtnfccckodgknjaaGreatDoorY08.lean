/-
  entryAround: the entry of the table around an offset.
-/
import Derived.Test.YtnfccckodgknjaaGreatDoorY05
import Derived.Test.YtnfccckodgknjaaGreatDoorShelf
import Derived.Test.YtnfccckodgknjaaGreatDoorY03
namespace Go.Proofs.YtnfccckodgknjaaGreatDoor
open Go.RowKit
set_option maxHeartbeats 1000000
set_option maxRecDepth 100000

/-- From S to E stands an entry. -/
structure IsEnt (l : List UInt8) (S E : Nat) : Prop where
  le : S ≤ E
  len : E ≤ l.length
  left : S = 0 ∨ l[S - 1]? = some 32
  right : E = l.length ∨ l[E]? = some 32
  mid : ∀ j, S ≤ j → j < E → l[j]? ≠ some 32

theorem ret_ii {k : IntKind} {a b c d : Int} (h : a = b) (h2 : c = d) : Ending.returned (.tuple #[.int k a, .int k c]) = .returned (.tuple #[.int k b, .int k d]) := by rw [h, h2]

theorem start_of (N : ByteArray) (a : Nat) (ha : a ≤ N.size) : ∃ S : Nat, Lib.lastIndexByte (N.extract 0 a) 32 = (S : Int) - 1 ∧ S ≤ a ∧ (S = 0 ∨ N.data.toList[S - 1]? = some 32) ∧ ∀ j, S ≤ j → j < a → N.data.toList[j]? ≠ some 32 := by
  have hsz : (N.extract 0 a).size = a := by rw [ByteArray.size_extract]; omega
  have hd : (N.extract 0 a).data.toList = N.data.toList.take a := by rw [Lib.extract_data]; simp
  have hg : ∀ j, j < a → ∃ x, N.data.toList[j]? = some x ∧ (N.extract 0 a).data[j]! = x := by
    intro j hj
    have h1 : (N.extract 0 a).data.toList[j]? = N.data.toList[j]? := by rw [hd, List.getElem?_take_of_lt hj]
    have h2 : j < (N.extract 0 a).data.size := by have : (N.extract 0 a).data.size = (N.extract 0 a).size := rfl; omega
    refine ⟨(N.extract 0 a).data[j], ?_, ?_⟩
    · rw [← h1, Array.getElem?_toList, Array.getElem?_eq_getElem h2]
    · exact getElem!_pos (N.extract 0 a).data j h2
  have h32 : ∀ x : UInt8, ((x.toNat : Int) = 32 ↔ x = 32) := by
    intro x
    constructor
    · intro h
      apply UInt8.toNat_inj.1
      show x.toNat = 32
      omega
    · intro h; subst h; rfl
  rcases Lib.lastIndexByte_spec (N.extract 0 a) 32 with ⟨h1, h2⟩ | ⟨i, h1, h2, h3, h4⟩
  · refine ⟨0, by rw [h1]; rfl, by omega, .inl rfl, fun j _ hj => ?_⟩
    obtain ⟨x, hx, hy⟩ := hg j hj
    have := h2 j (by omega)
    rw [hy] at this
    rw [hx]
    intro e
    exact this ((h32 x).2 (Option.some.inj e))
  · rw [hsz] at h1
    obtain ⟨x, hx, hy⟩ := hg i h1
    refine ⟨i + 1, by rw [h2]; omega, by omega, .inr ?_, fun j hj hja => ?_⟩
    · rw [hy] at h3
      rw [Nat.add_sub_cancel, hx, (h32 x).1 h3]
    · obtain ⟨y, hx', hy'⟩ := hg j hja
      have := h4 j (by omega) (by omega)
      rw [hy'] at this
      rw [hx']
      intro e
      exact this ((h32 y).2 (Option.some.inj e))

theorem end_of (N : ByteArray) (a : Nat) : (Lib.indexByte (N.extract a N.size).data.toList 32 = -1 ∧ ∀ j, a ≤ j → N.data.toList[j]? ≠ some 32) ∨
    ∃ o : Nat, Lib.indexByte (N.extract a N.size).data.toList 32 = (o : Int) ∧ a + o ≤ N.size ∧ N.data.toList[a + o]? = some 32 ∧ ∀ j, a ≤ j → j < a + o → N.data.toList[j]? ≠ some 32 := by
  have hd : (N.extract a N.size).data.toList = N.data.toList.drop a := by
    rw [Lib.extract_data]
    exact List.take_of_length_le (by rw [List.length_drop, Array.length_toList]; exact Nat.le_refl _)
  rw [hd]
  have hge := Lib.indexByte_ge (N.data.toList.drop a) 32
  by_cases h : Lib.indexByte (N.data.toList.drop a) 32 = -1
  · refine .inl ⟨h, fun j hj => ?_⟩
    have := Lib.indexByte_none h (j - a)
    rw [List.getElem?_drop, show a + (j - a) = j by omega] at this
    exact this
  · obtain ⟨o, ho⟩ : ∃ o : Nat, Lib.indexByte (N.data.toList.drop a) 32 = o := ⟨(Lib.indexByte (N.data.toList.drop a) 32).toNat, by omega⟩
    obtain ⟨h1, h2⟩ := Lib.indexByte_some ho
    rw [List.getElem?_drop] at h1
    have hlt := (List.getElem?_eq_some_iff.1 h1).1
    rw [Array.length_toList] at hlt
    have hsz : N.data.size = N.size := rfl
    refine .inr ⟨o, ho, by omega, h1, fun j hj hjo => ?_⟩
    have := h2 (j - a) (by omega)
    rw [List.getElem?_drop, show a + (j - a) = j by omega] at this
    exact this

theorem entryAround (a : Nat) (h : a ≤ NM.size) (w : World) :
    Calls Tryz.prog 242 #[.int .i64 a] w fun e w' => ∃ S E : Nat, e = .returned (.tuple #[.int .i64 S, .int .i64 E]) ∧ IsEnt NM.data.toList S E ∧ S ≤ a ∧ a ≤ E ∧ w = w' := by
  have hsz := nm_size
  go_enter Tryz.func242, Tryz.ntmps242
  generalize hN : (ByteArray.mk (List.toArray (List.append _ _))) = N
  have HN : NM = N := by rw [← hN]; rfl
  clear hN
  rw [HN] at h hsz
  have HQ := Lib.hid HN
  clear HN
  have hI : (a : Int) ≤ (N.size : Int) := by omega
  have HSZ := Lib.hid hsz
  obtain ⟨S, hs1, hs2, hs3, hs4⟩ := start_of N a h
  have h63 : (N.extract 0 a).size < 4611686018427387904 := by rw [ByteArray.size_extract]; omega
  have H63 := Lib.hid h63
  have HS := Lib.hid hs1
  have HS4 := Lib.hid hs4
  have HS3 := Lib.hid hs3
  have hE := end_of N a
  have hszle : (N.size : Int) ≤ 100000 := by omega
  clear hs1 hs4 hs3 hsz h63
  rcases hE with ⟨h1, h2⟩ | ⟨o, h1, h2, h3, h4⟩
  · have H1 := Lib.hid h1
    have H2 := Lib.hid h2
    clear h1 h2
    go_wp2_with (first | (go_at_call 253; refine (Tryz.strings_LastIndexByte _ _ H63.out _).mono ?_; rw [HS.out]; rintro e w' ⟨rfl, hw⟩; rw [hw]) | (go_at_call 254; refine (Tryz.strings_IndexByte _ _ _).mono ?_; rw [show ((32 : Int).toNat.toUInt8) = 32 from rfl, H1.out]; rintro e w' ⟨rfl, hw⟩; rw [hw]))
    go_ret2
    rw [HQ.out]
    exact ⟨S, N.size, ret_ii (by omega) (by have := HSZ.out; omega), ⟨by omega, by rw [Array.length_toList]; exact Nat.le_refl _, HS3.out, .inl (by rw [Array.length_toList]; rfl), fun j hj hje => by by_cases hja : j < a; exact HS4.out j hj hja; exact H2.out j (by omega)⟩, hs2, h, rfl⟩
  · have H1 := Lib.hid h1
    have H3 := Lib.hid h3
    have H4 := Lib.hid h4
    have ho : 0 ≤ (o : Int) := by omega
    clear h1 h3 h4
    go_wp2_with (first | (go_at_call 253; refine (Tryz.strings_LastIndexByte _ _ H63.out _).mono ?_; rw [HS.out]; rintro e w' ⟨rfl, hw⟩; rw [hw]) | (go_at_call 254; refine (Tryz.strings_IndexByte _ _ _).mono ?_; rw [show ((32 : Int).toNat.toUInt8) = 32 from rfl, H1.out]; rintro e w' ⟨rfl, hw⟩; rw [hw]))
    go_ret2
    rw [HQ.out]
    exact ⟨S, a + o, ret_ii (by omega) (by omega), ⟨by omega, by rw [Array.length_toList]; exact h2, HS3.out, .inr H3.out, fun j hj hje => by by_cases hja : j < a; exact HS4.out j hj hja; exact H4.out j (by omega) hje⟩, hs2, by omega, rfl⟩
end Go.Proofs.YtnfccckodgknjaaGreatDoor
