/- Rows of pairs of layer 4; the document's answer: Join, Over: contracts. -/
import Derived.Test.YtmpddibdggdngaaDoorTb2
namespace Go.Proofs.YtmpddibdggdngaaDoor.tb
open Go.RowKit Go.Lib
set_option linter.unusedVariables false
theorem take_succ (l : List (Int × Int)) (j : Nat) (h : j < l.length) : l.take (j + 1) = l.take j ++ [l.getD j (0, 0)] := by
  rw [List.take_add_one, List.getElem?_eq_getElem h]; simp [List.getD, List.getElem?_eq_getElem h]
theorem puts_snoc (l m : List (Int × Int)) (q : Int × Int) : puts l (m ++ [q]) = put (puts l m) q := by simp [puts]
theorem puts_len (l m : List (Int × Int)) : (puts l m).length = l.length + m.length := by
  unfold puts
  induction m generalizing l with
  | nil => simp
  | cons q m ih => rw [List.foldl_cons, ih, put_len, List.length_cons]; omega
/-- What Join answers. -/
def JoinP (w : World) (l more : List (Int × Int)) (e : Ending) (w' : World) : Prop :=
  (join l more = none ∧ e = .returned (.tuple #[.slice none 0 0, .bool false]) ∧ Below w.heap.size w w') ∨
  ∃ A c, join l more = some (puts l more) ∧ e = .returned (.tuple #[.slice A (puts l more).length c, .bool true]) ∧ RowP w' A (puts l more).length c (puts l more) ∧ Below w.heap.size w w'
theorem find_lo (l : List (Int × Int)) (c : Int) : -1 ≤ find l c ∧ find l c < (l.length : Int) := by
  rcases find_cases l c with ⟨_, h2⟩ | ⟨k, p, _, h2, h3⟩
  · rw [h2]; omega
  · rw [h2]
    have := (List.getElem?_eq_some_iff.1 h3).1
    omega
/-- A slice that has these pairs. -/
def RowR (w : World) (l : List (Int × Int)) (e : Ending) (w' : World) : Prop := ∃ A c, e = .returned (.slice A l.length c) ∧ RowP w' A l.length c l ∧ Below w.heap.size w w'
theorem over_snoc (l m out : List (Int × Int)) (q : Int × Int) : (m ++ [q]).foldl (fun out q => if find l q.1 < 0 then put out q else out) out = if find l q.1 < 0 then put (m.foldl (fun out q => if find l q.1 < 0 then put out q else out) out) q else m.foldl (fun out q => if find l q.1 < 0 then put out q else out) out := by simp
def overs (l m : List (Int × Int)) : List (Int × Int) := m.foldl (fun out q => if find l q.1 < 0 then put out q else out) l
theorem overs_snoc (l m : List (Int × Int)) (q : Int × Int) : overs l (m ++ [q]) = if find l q.1 < 0 then put (overs l m) q else overs l m := over_snoc l m l q
end Go.Proofs.YtmpddibdggdngaaDoor.tb
