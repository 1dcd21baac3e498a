/- Several texts in one. -/
import Derived.Test.YthnadkokibcehaaGreatDoorCh1
import Derived.Test.YthnadkokibcehaaGreatDoorZ18
import Derived.Test.YthnadkokibcehaaGreatDoorWd8
import Derived.BigQuiet
import Derived.Deep.QuietTactic
import Derived.OrdersHeld
import Derived.Deep.RegionHeld
import Derived.Deep.RegionHeld3
import Derived.Deep.DeepCutAuto
namespace Go.Proofs.YthnadkokibcehaaGreatDoor.ch
open Go.RowKit Go.Lib
set_option linter.unusedVariables false
theorem dok {c : Int} {s : ByteArray} (hc : inC c) (h : (dz c s).2 = none) : dcT c s = pt.txt (dz c s).1 ∧ dcE c s = 0 ∧ dcA c s = 0 := by
  unfold dcT dcE dcA
  rw [if_pos ⟨hc, h⟩, if_pos hc, if_pos hc, if_pos h, h]
  exact ⟨rfl, rfl, rfl⟩
theorem dbad {c : Int} {s : ByteArray} {p : Nat} (hc : inC c) (h : (dz c s).2 = some p) : dcT c s = ⟨#[]⟩ ∧ dcE c s = 2 ∧ dcA c s = (p : Int) := by
  unfold dcT dcE dcA
  rw [if_neg (by rw [h]; simp), if_pos hc, if_pos hc, if_neg (by rw [h]; simp), h]
  exact ⟨rfl, rfl, rfl⟩
end Go.Proofs.YthnadkokibcehaaGreatDoor.ch
namespace Go.Proofs.YthnadkokibcehaaGreatDoor.ch
open Go.RowKit Go.Lib
set_option linter.unusedVariables false
theorem str_ne {s : ByteArray} (h : s.size ≠ 0) : ¬ s.toList = [] ∧ s.toList.isEmpty = false := by
  have m1 : ¬ s.toList = [] := fun e => by
    rw [ByteArray.toList_eq] at e
    apply h
    have : s.data.toList.length = 0 := by rw [e]; rfl
    rwa [size_list] at this
  exact ⟨m1, by rw [Bool.eq_false_iff]; intro e; exact m1 (List.isEmpty_iff.1 e)⟩
theorem txt_app (a b : List Int) : pt.txt a ++ pt.txt b = pt.txt (a ++ b) := by
  apply ByteArray.ext
  apply Array.ext'
  show (pt.txt a ++ pt.txt b).data.toList = (pt.txt (a ++ b)).data.toList
  rw [pt.data_app, pt.txt_data, pt.txt_data, pt.txt_data]
  simp [pt.nums]
end Go.Proofs.YthnadkokibcehaaGreatDoor.ch
