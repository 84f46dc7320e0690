/-
  The document's own lower case.
-/
import Derived.Test.YtheiehbfbgjgpabDoorRel
import Derived.OwnWalk
namespace Go.Proofs.YtheiehbfbgjgpabDoor
open Go.RowKit
set_option maxHeartbeats 1000000
set_option maxRecDepth 100000

theorem info_u8 : (Tryd.prog.info? 5).map (fun i => (i.zero, i.size, i.bytes)) = some (some (.int .u8 0), 1, 1) := by kernel_rfl
def u8c (l : List UInt8) : List Value := l.map fun b => Value.int .u8 b.toNat

theorem own_grown {w wr w1 : World} {o : Obj} {v : Value} {n e size : Nat} {xs : List Value} {row : Option Nat} (hB : Below w.heap.size w wr) (hown : wr.ownsRow w.heap.size e size v n xs) (hrow : v.ownBlock = row) (hg : (wr.alloc o).grownBy w1 row) : Below w.heap.size w w1 :=
  Below.grown (hB.alloc hB.size _) hg (by have := hB.size; simp; omega) (fun j hj => (hown.lt j (hrow.trans hj)).1)

/-- The string of the bytes that a slice owns. -/
theorem bytes_back {wr : World} {B : Nat} {v : Value} {l : List UInt8} (hown : wr.ownsRow B 5 1 v l.length (u8c l)) : (convert 25 9 v).run Tryd.prog wr = .ok (.string ⟨l.toArray⟩) wr := by
  rcases hown.2 with ⟨rfl, h0⟩ | ⟨g, cap, cur, rfl, _⟩
  · have : l = [] := List.length_eq_zero_iff.1 h0
    subst this
    exact run_convert_bytes_nil _ _ _ Tryd.underlying25 Tryd.underlying5 0 0 _ Tryd.underlying9
  · refine run_convert_bytes_back wr _ _ 5 ⟨g, 0, none⟩ cap l Tryd.underlying25 Tryd.underlying5 Tryd.underlying9 ?_
    intro j hj
    refine hown.cells rfl j _ ?_
    simp [u8c, hj]

end Go.Proofs.YtheiehbfbgjgpabDoor
