/- Want of a reader of layer 1: contracts. -/
import Derived.Test.YtkhajafjieofhaaOctA
import Derived.PlainAid
namespace Go.Proofs.Ytkhajafjieofhaa.oct
open Go.RowKit Go.PlainAid
set_option linter.unusedVariables false
theorem bt_extract (t : ByteArray) (k n i : Nat) (h : k + n ≤ t.size) (hi : i < n) : bt (t.extract k (k + n)) i = bt t (k + i) := by
  have hs : i < (t.extract k (k + n)).size := by rw [ByteArray.size_extract]; omega
  rw [← get_bt _ i hs, ← get_bt t (k + i) (by omega)]
  congr 2
  exact ByteArray.getElem_extract ..
/-- The text s stands at k for just m bytes. -/
structure Agree (t s : ByteArray) (k m : Nat) : Prop where
  ms : m ≤ s.size
  kt : k + m ≤ t.size
  same : ∀ i, i < m → bt t (k + i) = bt s i
  stop : m < s.size → k + m < t.size → bt t (k + m) ≠ bt s m
theorem agree_ex (t s : ByteArray) (k : Nat) (hk : k ≤ t.size) : ∃ m, Agree t s k m := by
  suffices H : ∀ n j, j + n = s.size → k + j ≤ t.size → (∀ i, i < j → bt t (k + i) = bt s i) → ∃ m, Agree t s k m by
    exact H s.size 0 (by omega) (by omega) (by intro i h; omega)
  intro n
  induction n with
  | zero => intro j hj hkj hsame; exact ⟨j, by omega, hkj, hsame, by intro h; omega⟩
  | succ n ih =>
    intro j hj hkj hsame
    by_cases h1 : k + j < t.size
    · by_cases h2 : bt t (k + j) = bt s j
      · refine ih (j + 1) (by omega) (by omega) (fun i hi => ?_)
        by_cases h3 : i = j
        · subst h3; exact h2
        · exact hsame i (by omega)
      · exact ⟨j, by omega, hkj, hsame, fun _ _ => h2⟩
    · exact ⟨j, by omega, hkj, hsame, fun _ h => absurd h h1⟩
end Go.Proofs.Ytkhajafjieofhaa.oct
