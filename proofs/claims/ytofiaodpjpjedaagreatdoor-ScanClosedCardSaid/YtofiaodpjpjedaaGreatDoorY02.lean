/-
  measure: the length of the first piece of a string.
  encodings: the table, as it is laid.
-/
import Derived.Test.YtofiaodpjpjedaaGreatDoorY01
import Derived.Test.YtofiaodpjpjedaaGreatDoorProg
import Derived.StillTailTactics
namespace Go.Proofs.YtofiaodpjpjedaaGreatDoor
open Go.RowKit
set_option maxHeartbeats 1000000
set_option maxRecDepth 100000

theorem ret_ib {a b : Int} {c d : Bool} (h : a = b) (h2 : c = d) : Ending.returned (.tuple #[.int .i64 a, .bool c]) = .returned (.tuple #[.int .i64 b, .bool d]) := by rw [h, h2]

end Go.Proofs.YtofiaodpjpjedaaGreatDoor

namespace Go.Proofs.YtofiaodpjpjedaaGreatDoor
open Go.RowKit
set_option maxHeartbeats 2000000
set_option maxRecDepth 100000

theorem nine {k : Nat} (h : k < 9) : k = 0 ∨ k = 1 ∨ k = 2 ∨ k = 3 ∨ k = 4 ∨ k = 5 ∨ k = 6 ∨ k = 7 ∨ k = 8 := by omega

theorem row_new (w : World) (c : Array Value) (t : TypeId) (k : Nat) (h : k = w.heap.size) : RowOf (w.alloc (.cells c t)) k t :=
  ⟨c, (0, 0), by subst h; show (w.heap.push _)[w.heap.size]? = _; simp⟩
theorem row_old (w : World) (o : Obj) (k : Nat) {t : TypeId} (hk : k < w.heap.size) (h : RowOf w k t) : RowOf (w.alloc o) k t := by
  obtain ⟨c, fz, hc⟩ := h
  exact ⟨c, fz, (Below.heap_alloc w o k hk).trans hc⟩

end Go.Proofs.YtofiaodpjpjedaaGreatDoor
