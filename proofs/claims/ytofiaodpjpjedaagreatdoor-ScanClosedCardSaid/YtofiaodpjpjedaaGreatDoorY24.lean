/-
  Decode.
-/
import Derived.Test.YtofiaodpjpjedaaGreatDoorY23
import Derived.Test.YtofiaodpjpjedaaGreatDoorY10
import Derived.RangeFuncFrom
namespace Go.Proofs.YtofiaodpjpjedaaGreatDoor
open Go.RowKit Go.Shelf Go.Lib
attribute [local go_sem] Oper.semAt_some
set_option maxHeartbeats 1000000
set_option maxRecDepth 100000

def pcL (x : Pc) : List UInt8 := if x.1.2 then x.1.1.data.toList else [239, 191, 189]
def decP (xs : List Pc) : List UInt8 := xs.flatMap pcL
theorem decP_snoc (xs : List Pc) (x : Pc) : decP (xs ++ [x]) = decP xs ++ pcL x := by simp [decP]
theorem pcL_len (x : Pc) : (pcL x).length ≤ 4 := by
  unfold pcL
  split
  · have := x.2; rw [Array.length_toList]; exact this
  · simp
theorem decP_len : ∀ xs : List Pc, (decP xs).length ≤ 4 * xs.length
  | [] => by simp [decP]
  | x :: xs => by
    have h1 := decP_len xs
    have h2 := pcL_len x
    have e : decP (x :: xs) = pcL x ++ decP xs := by simp [decP]
    rw [e, List.length_append, List.length_cons]
    omega
theorem piecesF_len : ∀ (k : Nat) (l : List UInt8), (piecesF k l).length ≤ k
  | 0, _ => by simp [piecesF]
  | k + 1, [] => by simp [piecesF]
  | k + 1, b :: t => by
    unfold piecesF
    have := piecesF_len k ((b :: t).drop (measTab encT b t).1)
    rw [List.length_cons]
    omega
theorem piecesB_len (s : ByteArray) : (piecesB s).length ≤ s.size := by
  unfold piecesB piecesL
  rw [List.length_map]
  have := piecesF_len s.data.toList.length s.data.toList
  rw [size_list] at this
  rw [size_list]
  exact this

def decS (s : ByteArray) : ByteArray := ⟨(decP (piecesB s)).toArray⟩

end Go.Proofs.YtofiaodpjpjedaaGreatDoor
