/- Signs of layer 2: what a text's signs are, plainly; Scalar, signAt, Check: contracts. -/
import Derived.Test.YtgjndekgnkjknaaDoorShelf
import Derived.Test.YtgjndekgnkjknaaDoorChecked
import Derived.WalkKit
import Derived.WalkSmall
import Derived.BigQuiet
import Derived.Deep.QuietTactic
import Derived.Lib.Hide
import Derived.Lib.OthersKept
import Derived.Lib.TrimU
import Derived.Lib.RuneCountTail
import Derived.Shelf.Unicode.DecodeSlow
namespace Go.Proofs.YtgjndekgnkjknaaDoor.pt
open Go.RowKit Go.Lib
set_option linter.unusedVariables false
theorem ret_int {k : IntKind} {a b : Int} (h : a = b) : Ending.returned (.int k a) = .returned (.int k b) := by rw [h]
/-- No sign stands at pos. -/
def bad (s : ByteArray) (pos : Nat) : Bool := (Utf8.decode s pos).1 == 65533 && (Utf8.decode s pos).2 == 1
/-- The signs from pos on, and the first place at which there is none. -/
def sc (s : ByteArray) : Nat → Nat → List Nat × Option Nat
  | 0, _ => ([], none)
  | f + 1, pos => if pos < s.size then (if bad s pos then ([], some pos) else ((Utf8.decode s pos).1 :: (sc s f (pos + (Utf8.decode s pos).2)).1, (sc s f (pos + (Utf8.decode s pos).2)).2)) else ([], none)
def scan (s : ByteArray) : List Nat × Option Nat := sc s s.size 0
theorem sc_end (s : ByteArray) (f pos : Nat) (h : ¬ pos < s.size) : sc s f pos = ([], none) := by
  cases f <;> simp [sc, h]
theorem sc_bad (s : ByteArray) (f pos : Nat) (h : pos < s.size) (hf : s.size ≤ pos + f) (hb : bad s pos = true) : sc s f pos = ([], some pos) := by
  cases f with
  | zero => omega
  | succ f => simp [sc, h, hb]
theorem sc_good (s : ByteArray) (f pos : Nat) (h : pos < s.size) (hb : bad s pos = false) : sc s (f + 1) pos = ((Utf8.decode s pos).1 :: (sc s f (pos + (Utf8.decode s pos).2)).1, (sc s f (pos + (Utf8.decode s pos).2)).2) := by
  simp [sc, h, hb]
/-- The two tables of the library. -/
def Tabs (w : World) : Prop := Lib.Utf8Tabs 0 1 w
theorem Tabs.below {w w' : World} (h : Tabs w) (hb : Below w.heap.size w w') : Tabs w' := Utf8Tabs_below h hb
end Go.Proofs.YtgjndekgnkjknaaDoor.pt
