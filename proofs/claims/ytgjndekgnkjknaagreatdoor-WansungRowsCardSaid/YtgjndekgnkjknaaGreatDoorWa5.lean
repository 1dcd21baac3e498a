/- The document's own answer of layer 7: RowCode: a contract. -/
import Derived.Test.YtgjndekgnkjknaaGreatDoorWa3
namespace Go.Proofs.YtgjndekgnkjknaaGreatDoor.wa
open Go.RowKit Go.Lib
set_option linter.unusedVariables false
theorem rcF_hit {p f j : Nat} (h : rowJ j = p) : rcF p (f + 1) j = some j := by conv => lhs; unfold rcF; rw [if_pos h]
theorem rcF_miss {p f j : Nat} (h : ¬ rowJ j = p) : rcF p (f + 1) j = rcF p f (j + 1) := by conv => lhs; unfold rcF; rw [if_neg h]
/-- The code of a sign in the rows; -1: it is in none. -/
def rcV : Option Nat → Int
  | some j => (cdJ j : Nat)
  | none => -1
def rcI (p : Nat) : Int := rcV (rc p)
end Go.Proofs.YtgjndekgnkjknaaGreatDoor.wa
