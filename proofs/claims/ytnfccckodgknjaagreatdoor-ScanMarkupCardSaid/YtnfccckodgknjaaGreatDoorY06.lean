/-
  A map[string]bool of the call's own, as a set of names.
-/
import Derived.Test.YtnfccckodgknjaaGreatDoorProg
import Derived.Test.YtnfccckodgknjaaGreatDoorY01
import Derived.Maps.OwnSet
import Derived.Maps.OwnOps
import Derived.Maps.Views
import Derived.Maps.Keyed
namespace Go.Proofs.YtnfccckodgknjaaGreatDoor
open Go.RowKit Go.ChangeMaps Go.MapKept
set_option maxHeartbeats 1000000
set_option maxRecDepth 100000

/-- Block b is a map of at most n names, which holds just the names for which f says so. -/
def Seen (w : World) (b n : Nat) (f : List UInt8 → Bool) : Prop :=
  ∃ D : DataW Unit, w.ownsMap Tryz.prog 9 (plainElem Tryz.prog 4) b n D ∧ Maps.IsMap D ∧ ∀ l : List UInt8, D.atKey (.string l) (.lit (.bool false)) = .lit (.bool (f l))

theorem Seen.made (w : World) : Seen (w.alloc (.map #[] 0)) w.heap.size 0 fun _ => false :=
  ⟨.map [], World.ownsMap_made _ _ _ _, ⟨[], rfl⟩, fun _ => rfl⟩
theorem Seen.lt {w : World} {b n : Nat} {f : List UInt8 → Bool} (h : Seen w b n f) : b < w.heap.size := h.choose_spec.1.lt
theorem Seen.grown {w w' : World} {b n : Nat} {f : List UInt8 → Bool} {row : Option Nat} (h : Seen w b n f) (hg : w.grownBy w' row) (hne : some b ≠ row) : Seen w' b n f := by
  obtain ⟨D, h1, h2⟩ := h
  exact ⟨D, h1.kept hg hne, h2⟩
theorem Seen.below {w w' : World} {b n : Nat} {f : List UInt8 → Bool} (h : Seen w b n f) (hb : Below w.heap.size w w') : Seen w' b n f :=
  h.grown (row := none) ⟨hb.os, hb.tape, hb.output, hb.size, fun i hi _ => hb.block i hi⟩ (by simp)

theorem plain_bool_inv {v : Value} {z : DataW Unit × List MemPlace} (h : plainElem Tryz.prog 4 v = some z) : ∃ c, v = .bool c ∧ z.1 = .lit (.bool c) := by
  unfold plainElem at h
  rw [Tryz.underlying4] at h
  cases v <;> simp at h
  exact ⟨_, rfl, by rw [← h]⟩
theorem key_string (s : ByteArray) (hs : s.size ≤ maxLen) : keyOf Tryz.prog 9 (.string s) = some (.string s.data.toList) := by
  simp [keyOf, mapKey, Tryz.underlying9, hs]

theorem Seen.look {w : World} {b n : Nat} {f : List UInt8 → Bool} (h : Seen w b n f) (s : ByteArray) (hs : s.size ≤ maxLen) :
    (Instr.lookup 81 (.map (some b)) (.string s) false).run Tryz.prog w = .ok (.bool (f s.data.toList)) w := by
  obtain ⟨D, h1, h2, h3⟩ := h
  obtain ⟨v, ps, hrun, hv⟩ := h1.lookup (t := 81) (Maps.string_keyed Tryz.underlying9) Tryz.underlying81 (z := .bool false) (by kernel_rfl) (plainElem_bool Tryz.underlying4 false) (key_string s hs)
  obtain ⟨c, rfl, hc⟩ := plain_bool_inv hv
  rw [h3] at hc
  cases hc
  exact hrun
theorem Seen.put {w : World} {b n : Nat} {f : List UInt8 → Bool} (h : Seen w b n f) (s : ByteArray) (hs : s.size ≤ maxLen) (hn : n < maxLen) :
    ∃ w', (Instr.mapUpdate 81 (.map (some b)) (.string s) (.bool true)).run Tryz.prog w = .ok () w' ∧ Seen w' b (n + 1) (fun l => l == s.data.toList || f l) ∧ w.grownBy w' (some b) := by
  obtain ⟨D, h1, h2, h3⟩ := h
  obtain ⟨w', hrun, hown, hg⟩ := h1.update (t := 81) (Maps.string_keyed Tryz.underlying9) Tryz.underlying81 hn (key_string s hs) (plainElem_bool Tryz.underlying4 true)
  refine ⟨w', hrun, ⟨_, hown, ?_, fun l => ?_⟩, hg⟩
  · obtain ⟨es, rfl⟩ := h2
    exact ⟨_, rfl⟩
  · show _ = DataW.lit (Lit.bool (l == s.data.toList || f l))
    by_cases hl : l = s.data.toList
    · subst hl
      rw [Maps.atKey_put_same h2 (by simp [WideAt.IsKeyLit])]
      simp
    · rw [Maps.atKey_put_other (by simpa using hl), h3, beq_eq_false_iff_ne.2 hl]
      rfl
end Go.Proofs.YtnfccckodgknjaaGreatDoor
