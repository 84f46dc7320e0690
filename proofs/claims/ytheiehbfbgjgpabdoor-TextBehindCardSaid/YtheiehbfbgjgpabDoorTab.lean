/-
  The table of the names: the constant, as the program holds it.
-/
import Derived.Test.YtheiehbfbgjgpabDoorProg
import Derived.Test.YtheiehbfbgjgpabDoorKit
namespace Go.Proofs.YtheiehbfbgjgpabDoor
open Go.RowKit

noncomputable def opStr (o : Op) : ByteArray := match o with | Op.slice _ (Operand.const (Value.string s)) _ _ _ => s | _ => ByteArray.empty
noncomputable def secondOps (c : Code) : Array Oper := match c with | Code.seq _ (Code.seq (Code.region _ ops _) _) => ops | _ => #[]
/-- The constant api.Names. -/
noncomputable def NM : ByteArray := opStr ((secondOps (Tryd.f49.body.getD Code.ret)).getD 1 ⟨none, .move (.tmp 0), 0, "", #[], none⟩).op
theorem nm_len : (NM.data.toList.length == 29726) = true := by decide +kernel
theorem nm_size : NM.size = 29726 := by
  have := nm_len
  simpa using this
end Go.Proofs.YtheiehbfbgjgpabDoor
