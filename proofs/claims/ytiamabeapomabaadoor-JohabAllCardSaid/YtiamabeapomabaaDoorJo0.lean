/- Layer 6 (johab), plainly: the sign of a code of sixteen bits, the code of a sign; there and back. -/
import Derived.WalkKit
namespace Go.Proofs.YtiamabeapomabaaDoor.jo
set_option linter.unusedVariables false
/-- 99: none; 98: it isn't there. -/
def medL : List Nat := [98, 98, 99, 0, 1, 2, 3, 4, 98, 98, 5, 6, 7, 8, 9, 10, 98, 98, 11, 12, 13, 14, 15, 16, 98, 98, 17, 18, 19, 20, 98, 98]
def med (c : Nat) : Nat := medL.getD c 98
def fin (c : Nat) : Nat := if c = 0 ∨ c = 18 ∨ 29 < c then 98 else if c < 18 then c - 1 else c - 2
def aloL : List Nat := [0, 1, 103, 2, 105, 106, 3, 4, 5, 109, 110, 111, 112, 113, 114, 115, 6, 7, 8, 118, 9, 10, 11, 12, 13, 14, 15, 16, 17, 18]
def aloFrom (p : Nat) : Nat → List Nat → Nat
  | _, [] => 0
  | i, q :: l => if q = p then 12593 + i else aloFrom p (i + 1) l
def alo (p : Nat) : Nat := aloFrom p 0 aloL
/-- The sign of a code from 32768 on; 0: there is none. -/
def sgn (c : Nat) : Nat :=
  if c / 1024 % 32 = 0 ∨ 20 < c / 1024 % 32 ∨ med (c / 32 % 32) = 98 ∨ fin (c % 32) = 98 then 0
  else if 2 ≤ c / 1024 % 32 ∧ med (c / 32 % 32) < 98 then 44032 + ((c / 1024 % 32 - 2) * 21 + med (c / 32 % 32)) * 28 + fin (c % 32)
  else if c / 1024 % 32 = 1 ∧ med (c / 32 % 32) < 98 ∧ fin (c % 32) = 0 then 12623 + med (c / 32 % 32)
  else if 2 ≤ c / 1024 % 32 ∧ med (c / 32 % 32) = 99 ∧ fin (c % 32) = 0 then alo (c / 1024 % 32 - 2)
  else if c / 1024 % 32 = 1 ∧ med (c / 32 % 32) = 99 ∧ 0 < fin (c % 32) then alo (100 + fin (c % 32))
  else 0
/-- The code of a medial, of a final. -/
def medC (m : Nat) : Nat := m + 3 + (if 5 ≤ m then 2 else 0) + (if 11 ≤ m then 2 else 0) + (if 17 ≤ m then 2 else 0)
def finC (f : Nat) : Nat := if 17 ≤ f then f + 2 else f + 1
/-- The code of a sign; 0: there is none. -/
def code (p : Nat) : Nat :=
  if 44032 ≤ p ∧ p ≤ 55203 then 32768 + ((p - 44032) / 588 + 2) * 1024 + medC ((p - 44032) / 28 % 21) * 32 + finC ((p - 44032) % 28)
  else if 12623 ≤ p ∧ p ≤ 12643 then 32768 + 1024 + medC (p - 12623) * 32 + 1
  else if 12593 ≤ p ∧ p ≤ 12622 then (if aloL.getD (p - 12593) 0 < 100 then 32768 + (aloL.getD (p - 12593) 0 + 2) * 1024 + 64 + 1 else 32768 + 1024 + 64 + finC (aloL.getD (p - 12593) 0 - 100))
  else 0
theorem all_back : (List.range 128).all (fun a => (List.range 256).all fun b => decide (sgn (32768 + a * 256 + b) = 0) || decide (code (sgn (32768 + a * 256 + b)) = 32768 + a * 256 + b)) = true := by decide +kernel
theorem all_forth : (List.range 44).all (fun a => (List.range 256).all fun b => decide (11172 ≤ a * 256 + b) || decide (sgn (code (44032 + a * 256 + b)) = 44032 + a * 256 + b)) = true := by decide +kernel
theorem few_forth : (List.range 51).all (fun a => decide (sgn (code (12593 + a)) = 12593 + a)) = true := by decide +kernel
/-- A code's sign leads back to it. -/
theorem code_sgn {c : Nat} (h0 : 32768 ≤ c) (h1 : c < 65536) (h : sgn c ≠ 0) : code (sgn c) = c := by
  have h2 := List.all_eq_true.1 all_back ((c - 32768) / 256) (List.mem_range.2 (by omega))
  have h3 := List.all_eq_true.1 h2 ((c - 32768) % 256) (List.mem_range.2 (by omega))
  rw [show 32768 + (c - 32768) / 256 * 256 + (c - 32768) % 256 = c by omega, Bool.or_eq_true, decide_eq_true_eq, decide_eq_true_eq] at h3
  exact h3.resolve_left h
/-- Signs that have a code. -/
def hasJ (p : Nat) : Prop := (44032 ≤ p ∧ p ≤ 55203) ∨ (12593 ≤ p ∧ p ≤ 12643)
theorem sgn_code {p : Nat} (h : hasJ p) : sgn (code p) = p := by
  rcases h with ⟨h0, h1⟩ | ⟨h0, h1⟩
  · have h2 := List.all_eq_true.1 all_forth ((p - 44032) / 256) (List.mem_range.2 (by omega))
    have h3 := List.all_eq_true.1 h2 ((p - 44032) % 256) (List.mem_range.2 (by omega))
    rw [show 44032 + (p - 44032) / 256 * 256 + (p - 44032) % 256 = p by omega, Bool.or_eq_true, decide_eq_true_eq, decide_eq_true_eq] at h3
    rcases h3 with h3 | h3
    · omega
    · exact h3
  · have h2 := List.all_eq_true.1 few_forth (p - 12593) (List.mem_range.2 (by omega))
    rw [decide_eq_true_eq, show 12593 + (p - 12593) = p by omega] at h2
    exact h2
end Go.Proofs.YtiamabeapomabaaDoor.jo
