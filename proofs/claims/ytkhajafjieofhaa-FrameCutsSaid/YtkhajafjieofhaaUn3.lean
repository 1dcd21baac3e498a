/- The walks of SyncBack and SyncParts. -/
import Derived.Test.YtkhajafjieofhaaUn2
namespace Go.Proofs.Ytkhajafjieofhaa.un
open Go.RowKit Go.Lib
set_option linter.unusedVariables false
theorem okF_drop : ∀ (i : Nat) (l : List UInt8), okF l = true → okF (l.drop i) = true
  | 0, l, h => h
  | i + 1, [], h => rfl
  | i + 1, x :: l, h => by
    rw [List.drop_succ_cons]
    refine okF_drop i l ?_
    unfold okF at h
    rw [Bool.and_eq_true] at h
    exact h.2
theorem ok_at (s : ByteArray) (i : Nat) (h : i < s.size) (ho : okF s.data.toList = true) : bt s i ≠ 255 ∨ (i + 1 < s.size ∧ bt s (i + 1) < 224) := by
  have h2 := okF_drop i _ ho
  rw [drop_at s i h] at h2
  by_cases h1 : i + 1 < s.size
  · rw [drop_at s (i + 1) h1] at h2
    have h3 : (!(s.data.toList.getD i 0 == 255 && decide (224 ≤ (s.data.toList.getD (i + 1) 0).toNat))) = true := by
      unfold okF at h2
      rw [Bool.and_eq_true] at h2
      exact h2.1
    rw [u255] at h3
    by_cases h4 : bt s i = 255
    · right
      refine ⟨h1, ?_⟩
      unfold bt at h4 ⊢
      rw [h4] at h3
      by_cases h5 : 224 ≤ (s.data.toList.getD (i + 1) 0).toNat
      · rw [decide_eq_true h5] at h3; cases h3
      · omega
    · exact .inl h4
  · rw [drop_end s (i + 1) (by omega)] at h2
    left
    intro h4
    have h3 : (!(s.data.toList.getD i 0 == 255 && true)) = true := by
      unfold okF at h2
      rw [Bool.and_eq_true] at h2
      exact h2.1
    rw [u255] at h3
    unfold bt at h4
    rw [h4] at h3
    simp at h3
theorem ends_at (s : ByteArray) (h : 0 < s.size) : ends s.data.toList = (bt s (s.size - 1) == 255) := by
  unfold ends bt
  have hl := size_list s
  rw [List.getLast?_eq_getElem?, hl, List.getElem?_eq_getElem (by omega)]
  rw [List.getD_eq_getElem?_getD, List.getElem?_eq_getElem (by omega)]
  rw [← u255]
  rw [Bool.eq_iff_iff]; simp
theorem ends_nil (s : ByteArray) (h : s.size = 0) : ends s.data.toList = false := by
  have : s.data.toList = [] := List.length_eq_zero_iff.1 (by rw [size_list]; exact h)
  rw [this]; rfl
end Go.Proofs.Ytkhajafjieofhaa.un
