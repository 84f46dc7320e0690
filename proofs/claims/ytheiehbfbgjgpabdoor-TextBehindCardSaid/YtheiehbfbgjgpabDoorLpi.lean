/-
  TextPieces: the walk.
-/
import Derived.Test.YtheiehbfbgjgpabDoorPok
namespace Go.Proofs.YtheiehbfbgjgpabDoor
open Go.RowKit
set_option maxHeartbeats 1000000
set_option maxRecDepth 100000

theorem decS_app (a b : ByteArray) : decS (decS a ++ b) = decS a ++ decS b := by
  apply list_bytes
  rw [decS_decL, ByteArray.data_append, ByteArray.data_append, Array.toList_append, Array.toList_append, decS_decL, decL_app, decS_decL]
theorem decS_decS (a : ByteArray) : decS (decS a) = decS a := by
  apply list_bytes
  rw [decS_decL, decS_decL, decL_decL]
theorem cnt_both (a b : ByteArray) : (piecesB (decS a ++ decS b)).length = (piecesB a).length + (piecesB b).length := by
  rw [← decS_app, piecesB_length, piecesB_length, piecesB_length, decS_decL, cnt_dec, ByteArray.data_append, Array.toList_append, decS_decL, cnt_app]

end Go.Proofs.YtheiehbfbgjgpabDoor
