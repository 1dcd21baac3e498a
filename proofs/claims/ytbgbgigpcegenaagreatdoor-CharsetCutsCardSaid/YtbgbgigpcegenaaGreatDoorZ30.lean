/- Several texts in one. -/
import Derived.Test.YtbgbgigpcegenaaGreatDoorZ29
import Derived.Maps.AppendAt
import Derived.Laws.AppendOwnNone
namespace Go.Proofs.YtbgbgigpcegenaaGreatDoor.ch
open Go.RowKit Go.Lib
set_option linter.unusedVariables false
/-- The cells of some numbers. -/
def nv (l : List Int) : List Value := l.map (Value.int .i64)
/-- A row of the call's own. -/
def Rz (w : World) (B : Nat) (v : Value) (l : List Int) : Prop := w.ownsRow B 25 1 v l.length (nv l)
/-- Two rows of the call's own, apart. -/
structure Two (w0 w : World) (v : Value) (l : List Int) (u : Value) (m : List Int) : Prop where
  a : Rz w w0.heap.size v l
  b : Rz w w0.heap.size u m
  ne : v.ownBlock = none ∨ v.ownBlock ≠ u.ownBlock
  lt : Below w0.heap.size w0 w
end Go.Proofs.YtbgbgigpcegenaaGreatDoor.ch
namespace Go.Proofs.YtbgbgigpcegenaaGreatDoor.ch
open Go.RowKit Go.Lib
set_option linter.unusedVariables false
/-- A capital as a small letter. -/
def lowb (n : Nat) : Nat := if 65 ≤ n ∧ n ≤ 90 then n + 32 else n
end Go.Proofs.YtbgbgigpcegenaaGreatDoor.ch
