/- The document's answer of layer 4: Piece: a contract. -/
import Derived.Test.YtmpddibdggdngaaDoorTb3
import Derived.Test.YtmpddibdggdngaaDoorPtB
namespace Go.Proofs.YtmpddibdggdngaaDoor.tb
open Go.RowKit Go.Lib
set_option linter.unusedVariables false
theorem size_nil {s : ByteArray} (h : s.data.toList = []) : s.size = 0 := by
  have e : s.data.toList.length = s.size := by rw [Array.length_toList]; rfl
  rw [h] at e; exact e.symm
/-- The pairs of a piece. -/
def piece (f t c : Int) (s : ByteArray) : Option (List (Int × Int)) :=
  if s.size = 0 then
    (if f < 0 ∨ c < 1 ∨ 1048576 < c ∨ 1048576 - c < f ∨ validRune t = false then none
     else if validRune (t + c - 1) = false ∨ (t < 55296 ∧ 57343 < t + c - 1) then none
     else some (sqp f t c.toNat))
  else (if (pt.scan s).2.isSome = true ∨ f < 0 ∨ 1048576 - ((pt.zsOf s).length : Int) < f then none else some (lsp f (pt.zsOf s)))
/-- What Piece answers. -/
def PieceP (w : World) (r : Option (List (Int × Int))) (e : Ending) (w' : World) : Prop :=
  (r = none ∧ e = .returned (.tuple #[.slice none 0 0, .bool false]) ∧ Below w.heap.size w w') ∨
  ∃ l A c, r = some l ∧ e = .returned (.tuple #[.slice A l.length c, .bool true]) ∧ RowP w' A l.length c l ∧ Below w.heap.size w w'
theorem ret_pb {A : Option Addr} {a b c : Nat} (h : a = b) : Ending.returned (.tuple #[.slice A a c, .bool true]) = .returned (.tuple #[.slice A b c, .bool true]) := by rw [h]
end Go.Proofs.YtmpddibdggdngaaDoor.tb
