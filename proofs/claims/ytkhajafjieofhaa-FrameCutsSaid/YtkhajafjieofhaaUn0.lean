/- Layer 11 (unsync), plainly: what is put, what is dropped, there and back; strings as their bytes. -/
import Derived.Test.YtkhajafjieofhaaChecked
import Derived.WalkKit
import Derived.ProofKit
import Derived.Below
import Derived.Lib.Hide
namespace Go.Proofs.Ytkhajafjieofhaa.un
open Go.RowKit Go.Lib
set_option linter.unusedVariables false
/-- Does a byte look like the beginning of sound, with these behind it? -/
def lk : List UInt8 → Bool
  | [] => true
  | y :: _ => y == 0 || decide (224 ≤ y.toNat)
theorem lk_cons (y : UInt8) (l : List UInt8) : lk (y :: l) = (y == 0 || decide (224 ≤ y.toNat)) := rfl
def putL : List UInt8 → List UInt8
  | [] => []
  | x :: l => if x == 255 && lk l then x :: 0 :: putL l else x :: putL l
def extL : List UInt8 → Nat
  | [] => 0
  | x :: l => (if x == 255 && lk l then 1 else 0) + extL l
def drpL : List UInt8 → List UInt8
  | [] => []
  | [x] => [x]
  | x :: y :: l => if x == 255 && y == 0 then x :: drpL l else x :: drpL (y :: l)
theorem put_len : ∀ l, (putL l).length = l.length + extL l
  | [] => rfl
  | x :: l => by
    unfold putL extL
    have := put_len l
    split <;> simp <;> omega
theorem ext_le : ∀ l, extL l ≤ l.length
  | [] => Nat.le_refl _
  | x :: l => by
    unfold extL
    have := ext_le l
    split <;> simp <;> omega
theorem put_clean : ∀ l, extL l = 0 → putL l = l
  | [], _ => rfl
  | x :: l, h => by
    unfold extL at h
    unfold putL
    by_cases hx : (x == 255 && lk l) = true
    · rw [if_pos hx] at h; omega
    · rw [if_neg hx] at h ⊢
      rw [put_clean l (by omega)]
theorem put_ne (x : UInt8) (l : List UInt8) : ∃ m, putL (x :: l) = x :: m := by
  unfold putL
  split
  · exact ⟨_, rfl⟩
  · exact ⟨_, rfl⟩
/-- What was put is dropped as it was. -/
theorem drp_put : ∀ l, drpL (putL l) = l
  | [] => rfl
  | x :: l => by
    unfold putL
    by_cases hx : (x == 255 && lk l) = true
    · rw [if_pos hx]
      rw [Bool.and_eq_true] at hx
      unfold drpL
      rw [if_pos (by rw [hx.1]; rfl), drp_put l]
    · rw [if_neg hx]
      cases l with
      | nil => rfl
      | cons y l =>
        obtain ⟨m, hm⟩ := put_ne y l
        have ih := drp_put (y :: l)
        rw [hm] at ih ⊢
        have hn : ¬ (x == 255 && y == 0) = true := by
          intro h
          rw [Bool.and_eq_true] at h
          exact hx (by rw [Bool.and_eq_true]; exact ⟨h.1, by rw [lk_cons, h.2]; rfl⟩)
        show (if (x == 255 && y == 0) = true then x :: drpL m else x :: drpL (y :: m)) = _
        rw [if_neg hn, ih]
/-- Behind each FF of what was put a byte repeat (first | (with_reducible exact Below.refl _ _) | (with_reducible refine Below.setCell ?_ (by simp) _) | (with_reducible refine Below.alloc ?_ (by simp) _)) E0 stands. -/
def okF : List UInt8 → Bool
  | [] => true
  | x :: l => (!(x == 255 && (match l with | [] => true | y :: _ => decide (224 ≤ y.toNat)))) && okF l
theorem put_ok : ∀ l, okF (putL l) = true
  | [] => rfl
  | x :: l => by
    unfold putL
    by_cases hx : (x == 255 && lk l) = true
    · rw [if_pos hx]
      show (!(x == 255 && decide (224 ≤ (0 : UInt8).toNat)) && (!((0 : UInt8) == 255 && _) && okF (putL l))) = true
      rw [put_ok l, show decide (224 ≤ (0 : UInt8).toNat) = false from rfl, show ((0 : UInt8) == 255) = false from rfl]
      simp
    · rw [if_neg hx]
      have ih := put_ok l
      cases l with
      | nil =>
        unfold lk at hx
        simp at hx
        show (!(x == 255 && true) && true) = true
        simp [hx]
      | cons y l =>
        obtain ⟨m, hm⟩ := put_ne y l
        rw [hm] at ih ⊢
        show (!(x == 255 && decide (224 ≤ y.toNat)) && okF (y :: m)) = true
        rw [ih]
        cases h1 : (x == 255) with
        | false => rfl
        | true =>
          rw [h1, lk_cons] at hx
          cases h2 : decide (224 ≤ y.toNat) with
          | false => rfl
          | true => rw [h2] at hx; simp at hx
/-- Two texts, of which the first doesn't end in FF. -/
def ends (l : List UInt8) : Bool := l.getLast? == some 255
theorem ends_cons (x y : UInt8) (l : List UInt8) : ends (x :: y :: l) = ends (y :: l) := by unfold ends; rw [List.getLast?_cons_cons]
theorem put_app : ∀ (a b : List UInt8), ends a = false → putL (a ++ b) = putL a ++ putL b ∧ extL (a ++ b) = extL a + extL b
  | [], b, _ => ⟨rfl, by simp [extL]⟩
  | [x], b, h => by
    have hx : (x == 255) = false := by unfold ends at h; simpa using h
    constructor
    · show (if (x == 255 && lk b) = true then _ else _) = (if (x == 255 && lk []) = true then _ else _) ++ _
      rw [hx]; rfl
    · show (if (x == 255 && lk b) = true then 1 else 0) + extL b = ((if (x == 255 && lk []) = true then 1 else 0) + 0) + extL b
      rw [hx]; simp
  | x :: y :: l, b, h => by
    rw [ends_cons] at h
    obtain ⟨h1, h2⟩ := put_app (y :: l) b h
    have hl : lk (y :: l ++ b) = lk (y :: l) := rfl
    constructor
    · show (if (x == 255 && lk (y :: l ++ b)) = true then x :: 0 :: putL (y :: l ++ b) else x :: putL (y :: l ++ b)) = (if (x == 255 && lk (y :: l)) = true then x :: 0 :: putL (y :: l) else x :: putL (y :: l)) ++ putL b
      rw [hl, h1]
      split <;> rfl
    · show (if (x == 255 && lk (y :: l ++ b)) = true then 1 else 0) + extL (y :: l ++ b) = ((if (x == 255 && lk (y :: l)) = true then 1 else 0) + extL (y :: l)) + extL b
      rw [hl, h2]; omega
theorem drp_app : ∀ (a b : List UInt8), ends a = false → drpL (a ++ b) = drpL a ++ drpL b
  | [], b, _ => rfl
  | [x], b, h => by
    have hx : (x == 255) = false := by unfold ends at h; simpa using h
    cases b with
    | nil => rfl
    | cons y b =>
      show (if (x == 255 && y == 0) = true then x :: drpL b else x :: drpL (y :: b)) = [x] ++ drpL (y :: b)
      rw [hx]; rfl
  | [x, y], b, h => by
    rw [ends_cons] at h
    have h1 := drp_app [y] b h
    by_cases hc : (x == 255 && y == 0) = true
    · show (if (x == 255 && y == 0) = true then x :: drpL b else x :: drpL (y :: b)) = (if (x == 255 && y == 0) = true then x :: drpL [] else x :: drpL [y]) ++ drpL b
      rw [if_pos hc, if_pos hc]; rfl
    · show (if (x == 255 && y == 0) = true then x :: drpL b else x :: drpL (y :: b)) = (if (x == 255 && y == 0) = true then x :: drpL [] else x :: drpL [y]) ++ drpL b
      rw [if_neg hc, if_neg hc]
      show x :: drpL ([y] ++ b) = _
      rw [h1]; rfl
  | x :: y :: z :: l, b, h => by
    rw [ends_cons] at h
    have h1 := drp_app (y :: z :: l) b h
    rw [ends_cons] at h
    have h2 := drp_app (z :: l) b h
    show (if (x == 255 && y == 0) = true then x :: drpL (z :: l ++ b) else x :: drpL (y :: z :: l ++ b)) = (if (x == 255 && y == 0) = true then x :: drpL (z :: l) else x :: drpL (y :: z :: l)) ++ drpL b
    rw [h1, h2]
    split <;> rfl
end Go.Proofs.Ytkhajafjieofhaa.un
