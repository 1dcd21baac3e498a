/- The document's own answers of layer 9: signs: a contract. -/
import Derived.Test.YthnadkokibcehaaGreatDoorZ18
import Derived.Test.YthnadkokibcehaaGreatDoorZ4
import Derived.Test.YthnadkokibcehaaGreatDoorZ15
namespace Go.Proofs.YthnadkokibcehaaGreatDoor.ch
open Go.RowKit Go.Lib
set_option linter.unusedVariables false
theorem rows_valid : (wa.rowsL.all fun p => p == 0 || validRune (p : Int)) = true := by decide +kernel
theorem vr_of {p : Nat} (h : (p < 55296) ∨ (57343 < p ∧ p ≤ 1114111)) : validRune (p : Int) = true := by
  unfold validRune
  simp
  omega
theorem sgW_valid {l b : Nat} (hl : l < 256) (hb : b < 256) (h : wa.sgW l b ≠ 0) : validRune ((wa.sgW l b : Nat) : Int) = true := by
  have hby := wa.by_sg hl hb h
  unfold wa.byW at hby
  by_cases q : 44032 ≤ wa.sgW l b ∧ wa.sgW l b ≤ 55203
  · exact vr_of (.inl (by omega))
  · rw [if_neg q, if_neg h] at hby
    cases hr : wa.rc (wa.sgW l b) with
    | none => rw [hr] at hby; cases hby
    | some j =>
      obtain ⟨_, j1, j2⟩ := wa.rcF_some _ _ _ _ hr
      have h1 := List.all_eq_true.1 rows_valid (wa.rowJ j) (List.mem_of_getElem? (wa.rowsL_at (by omega)))
      rw [j2] at h1
      simpa [h] using h1
theorem sgJ_valid {c : Nat} (hc : c < 65536) (h : jo.sg c ≠ 0) : validRune ((jo.sg c : Nat) : Int) = true := by
  have := (jo.sg_has hc h).1
  unfold jo.hasJ at this
  exact vr_of (.inl (by omega))
theorem txt_one (p : Int) : pt.txt [p] = strOfNums (encodeRuneZ p) := by unfold pt.txt pt.nums; simp
/-- The text of two bytes. -/
def s2T (c : Int) (l b : Nat) : ByteArray := pt.txt ((sg2 c l b).map Int.ofNat)
end Go.Proofs.YthnadkokibcehaaGreatDoor.ch
