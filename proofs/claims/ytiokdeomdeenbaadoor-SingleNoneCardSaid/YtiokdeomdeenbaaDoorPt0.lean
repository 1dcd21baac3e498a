/- Signs of layer 2: what a text's signs are, plainly; Scalar, signAt, Check: contracts. -/
import Derived.Test.YtiokdeomdeenbaaDoorShelf
import Derived.Test.YtiokdeomdeenbaaDoorChecked
import Derived.WalkKit
import Derived.WalkSmall
import Derived.BigQuiet
import Derived.Deep.QuietTactic
import Derived.Lib.Hide
import Derived.Lib.OthersKept
import Derived.Lib.TrimU
import Derived.Lib.RuneCountTail
namespace Go.Proofs.YtiokdeomdeenbaaDoor.pt
open Go.RowKit Go.Lib
set_option linter.unusedVariables false
theorem ret_int {k : IntKind} {a b : Int} (h : a = b) : Ending.returned (.int k a) = .returned (.int k b) := by rw [h]
/-- No sign stands at pos. -/
def bad (s : ByteArray) (pos : Nat) : Bool := (Utf8.decode s pos).1 == 65533 && (Utf8.decode s pos).2 == 1
/-- The signs from pos on, and the first place at which there is none. -/
def sc (s : ByteArray) : Nat → Nat → List Nat × Option Nat
  | 0, _ => ([], none)
  | f + 1, pos => if pos < s.size then (if bad s pos then ([], some pos) else ((Utf8.decode s pos).1 :: (sc s f (pos + (Utf8.decode s pos).2)).1, (sc s f (pos + (Utf8.decode s pos).2)).2)) else ([], none)
def scan (s : ByteArray) : List Nat × Option Nat := sc s s.size 0
theorem sc_end (s : ByteArray) (f pos : Nat) (h : ¬ pos < s.size) : sc s f pos = ([], none) := by
  cases f <;> simp [sc, h]
theorem sc_bad (s : ByteArray) (f pos : Nat) (h : pos < s.size) (hf : s.size ≤ pos + f) (hb : bad s pos = true) : sc s f pos = ([], some pos) := by
  cases f with
  | zero => omega
  | succ f => simp [sc, h, hb]
theorem sc_good (s : ByteArray) (f pos : Nat) (h : pos < s.size) (hb : bad s pos = false) : sc s (f + 1) pos = ((Utf8.decode s pos).1 :: (sc s f (pos + (Utf8.decode s pos).2)).1, (sc s f (pos + (Utf8.decode s pos).2)).2) := by
  simp [sc, h, hb]
theorem scalar_any (r : Int) (w : World) : Calls Tryd.prog 79 #[.int .i32 r] w fun e w' => e = .returned (.bool (validRune r)) ∧ w = w' := by
  have hv : ∀ w, Calls Tryd.prog 89 #[.int .i32 r] w fun e w' => e = .returned (.bool (validRune r)) ∧ w = w' := fun w => (Tryd.utf8_ValidRune r w).mono fun e w' ⟨h1, h2⟩ => ⟨h1, h2.symm⟩
  generalize validRune r = V at hv ⊢
  have HV := Lib.hid hv
  clear hv
  go_enter Tryd.func79, Tryd.ntmps79
  go_wp2_with (go_at_call 89; refine (HV.out _).mono ?_; rintro e1 w1 ⟨rfl, rfl⟩)
  go_ret
  exact ⟨rfl, rfl⟩
/-- The two tables of the library. -/
def Tabs (w : World) : Prop := Lib.Utf8Tabs 0 1 w
theorem Tabs.below {w w' : World} (h : Tabs w) (hb : Below w.heap.size w w') : Tabs w' := Utf8Tabs_below h hb
theorem sign_at (s : ByteArray) (pos : Nat) (w : World) (hp : pos < s.size) (hT : Tabs w) :
    Calls Tryd.prog 81 #[.string (s.extract pos s.size)] w fun e w' => e = .returned (.bool (decide (1 < ((Utf8.decode s pos).2 : Int)))) ∧ Below w.heap.size w w' := by
  have hsz : (s.extract pos s.size).size ≠ 0 := by rw [ByteArray.size_extract]; omega
  have hd : Lib.decodeGo (s.extract pos s.size) = Utf8.decode s pos := by
    unfold Lib.decodeGo
    rw [if_neg hsz, tail_decode, Nat.add_zero]
  have hc := Tryd.utf8_DecodeRuneInString (s.extract pos s.size) w hT
  rw [hd] at hc
  generalize s.extract pos s.size = t at hc ⊢
  generalize Utf8.decode s pos = d at hc ⊢
  obtain ⟨p, q⟩ := d
  simp only at hc ⊢
  have HC := Lib.hid hc
  clear hc
  go_enter Tryd.func81, Tryd.ntmps81
  go_wp2_with (go_at_call 91; refine HC.out.mono ?_; rintro e1 w1 ⟨rfl, hb⟩)
  go_ret
  exact ⟨rfl, hb⟩
end Go.Proofs.YtiokdeomdeenbaaDoor.pt
