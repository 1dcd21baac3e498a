/- Rows of pairs of layer 4; the document's answer: Find, Reverse: contracts. -/
import Derived.Test.YtiokdeomdeenbaaDoorTb0
import Derived.Test.YtiokdeomdeenbaaDoorChecked
import Derived.WalkSmall
import Derived.BigQuiet
import Derived.Deep.QuietTactic
import Derived.Lib.Hide
namespace Go.Proofs.YtiokdeomdeenbaaDoor.tb
open Go.RowKit Go.Lib
set_option linter.unusedVariables false
theorem add_of (a : Addr) (i j : Nat) : (a.add i).add j = a.add (i + j) := by
  unfold Addr.add
  by_cases hi : i = 0 <;> by_cases hj : j = 0 <;> simp [hi, hj, Nat.add_assoc]
/-- A slice of pairs, none or a row. -/
def RowP (w : World) (A : Option Addr) (n c : Nat) (l : List (Int × Int)) : Prop :=
  (A = none ∧ n = 0 ∧ c = 0 ∧ l = []) ∨ ∃ a, A = some a ∧ n ≤ c ∧ c ≤ maxLen ∧ l.length = n ∧ ∀ i, i < n → w.cell? (a.add (i * 2)) = some (.int .i64 (l.getD i (0, 0)).1) ∧ w.cell? ((a.add (i * 2)).add 1) = some (.int .i32 (l.getD i (0, 0)).2)
theorem RowP.len {w : World} {A : Option Addr} {n c : Nat} {l : List (Int × Int)} (h : RowP w A n c l) : l.length = n := by
  rcases h with ⟨_, h1, _, h2⟩ | ⟨a, _, _, _, h, _⟩
  · rw [h1, h2]; rfl
  · exact h
theorem RowP.below {w w' : World} {A : Option Addr} {n c : Nat} {l : List (Int × Int)} (h : RowP w A n c l) (hb : Below w.heap.size w w') : RowP w' A n c l := by
  rcases h with h | ⟨a, h1, h2, h3, h4, h5⟩
  · exact .inl h
  · exact .inr ⟨a, h1, h2, h3, h4, fun i hi => ⟨(hb.cell (World.block_lt_of_cell? w _ (h5 i hi).1)).trans (h5 i hi).1, (hb.cell (World.block_lt_of_cell? w _ (h5 i hi).2)).trans (h5 i hi).2⟩⟩
theorem RowP.at {w : World} {A : Option Addr} {n c : Nat} {l : List (Int × Int)} (h : RowP w A n c l) (i : Nat) (hi : i < n) : ∃ a, A = some a ∧ n ≤ c ∧ c ≤ maxLen ∧ w.cell? (a.add (i * 2)) = some (.int .i64 (l.getD i (0, 0)).1) ∧ w.cell? ((a.add (i * 2)).add 1) = some (.int .i32 (l.getD i (0, 0)).2) := by
  rcases h with ⟨_, h1, _, _⟩ | ⟨a, h1, h2, h3, _, h5⟩
  · omega
  · exact ⟨a, h1, h2, h3, (h5 i hi).1, (h5 i hi).2⟩
theorem ret_int {k : IntKind} {a b : Int} (h : a = b) : Ending.returned (.int k a) = .returned (.int k b) := by rw [h]
set_option maxRecDepth 100000 in
theorem refFind_any (A : Option Addr) (n cp : Nat) (l : List (Int × Int)) (c : Int) (w : World) (h : RowP w A n cp l) (hn : n ≤ 100000) :
    Calls Tryd.prog 20 #[.slice A n cp, .int .i64 c] w fun e w' => e = .returned (.int .i64 (find l c)) ∧ w = w' := by
  obtain ⟨R, hR⟩ : ∃ R, R = find l c := ⟨_, rfl⟩
  rw [← hR]
  have HR := Lib.hid hR; have H := Lib.hid h; have HL := Lib.hid h.len
  clear hR h
  go_enter Tryd.func20, Tryd.ntmps20
  go_wp2_with fail
  go_loop [5] (fun i => ∃ j : Nat, j ≤ n ∧ i = .int .i64 j ∧ findFrom c j (l.drop j) = R) (fun i => n - (RowKit.intOf i).toNat)
  case atStart => exact ⟨0, Nat.zero_le _, rfl, HR.out.symm⟩
  case round =>
    obtain ⟨j, hj, rfl, hf⟩ := hrel
    have HF := Lib.hid hf
    clear hf
    by_cases hlt : j < n
    · obtain ⟨a, rfl, a1, a2, c0, c1⟩ := H.out.at j hlt
      unfold maxLen at a2
      have hd : Hid (l.drop j = l.getD j (0, 0) :: l.drop (j + 1)) := Lib.hid (by
        have hjl : j < l.length := by have := HL.out; omega
        rw [List.drop_eq_getElem_cons hjl]; simp [List.getD, List.getElem?_eq_getElem hjl])
      generalize l.getD j (0, 0) = q at *
      obtain ⟨x, p⟩ := q
      simp only at c0 c1
      by_cases hxc : x = c
      · have e1 : (x == c) = true := by rw [hxc]; exact beq_self_eq_true c
        have hR2 : Hid (R = (j : Int)) := Lib.hid (by have := HF.out; rw [hd.out] at this; rw [← this]; unfold findFrom; rw [if_pos hxc])
        clear hxc
        go_wp2_with fail
        go_ret
        exact ⟨ret_int hR2.out.symm, rfl⟩
      · have e1 : (x == c) = false := beq_eq_false_iff_ne.2 hxc
        have hR2 : Hid (findFrom c (j + 1) (l.drop (j + 1)) = R) := Lib.hid (by have := HF.out; rw [hd.out] at this; rw [← this]; conv => rhs; unfold findFrom
                                                                                rw [if_neg hxc])
        clear hxc
        go_wp2_with fail
        go_round
        case rel => exact ⟨j + 1, by omega, by go_num, hR2.out⟩
        case measure => simp [RowKit.intOf]; omega
    · have hR2 : Hid (R = -1) := Lib.hid (by
        have := HF.out
        rw [List.drop_of_length_le (by have := HL.out; omega)] at this
        rw [← this]; rfl)
      go_wp2_with fail
      go_ret
      exact ⟨ret_int hR2.out.symm, rfl⟩
set_option maxRecDepth 100000 in
theorem refReverse_any (A : Option Addr) (n cp : Nat) (l : List (Int × Int)) (c : Int) (w : World) (h : RowP w A n cp l) (hn : n ≤ 100000) :
    Calls Tryd.prog 22 #[.slice A n cp, .int .i32 c] w fun e w' => e = .returned (.int .i64 (rev l c)) ∧ w = w' := by
  obtain ⟨R, hR⟩ : ∃ R, R = rev l c := ⟨_, rfl⟩
  rw [← hR]
  have HR := Lib.hid hR; have H := Lib.hid h; have HL := Lib.hid h.len
  clear hR h
  go_enter Tryd.func22, Tryd.ntmps22
  go_wp2_with fail
  go_loop [5] (fun i => ∃ j : Nat, j ≤ n ∧ i = .int .i64 j ∧ rev (l.drop j) c = R) (fun i => n - (RowKit.intOf i).toNat)
  case atStart => exact ⟨0, Nat.zero_le _, rfl, HR.out.symm⟩
  case round =>
    obtain ⟨j, hj, rfl, hf⟩ := hrel
    have HF := Lib.hid hf
    clear hf
    by_cases hlt : j < n
    · obtain ⟨a, rfl, a1, a2, c0, c1⟩ := H.out.at j hlt
      unfold maxLen at a2
      have hd : Hid (l.drop j = l.getD j (0, 0) :: l.drop (j + 1)) := Lib.hid (by
        have hjl : j < l.length := by have := HL.out; omega
        rw [List.drop_eq_getElem_cons hjl]; simp [List.getD, List.getElem?_eq_getElem hjl])
      generalize l.getD j (0, 0) = q at *
      obtain ⟨x, p⟩ := q
      simp only at c0 c1
      have c2 : w.cell? ⟨(a.add (j * 2)).block, (a.add (j * 2)).off + 1, none⟩ = some (.int .i32 p) := by rw [← c1]; rfl
      by_cases hxc : p = c
      · have e1 : (p == c) = true := by rw [hxc]; exact beq_self_eq_true c
        have hR2 : Hid (R = x) := Lib.hid (by have := HF.out; rw [hd.out] at this; rw [← this]; unfold rev; rw [if_pos hxc])
        clear hxc
        go_wp2_with fail
        go_ret
        exact ⟨ret_int hR2.out.symm, rfl⟩
      · have e1 : (p == c) = false := beq_eq_false_iff_ne.2 hxc
        have hR2 : Hid (rev (l.drop (j + 1)) c = R) := Lib.hid (by have := HF.out; rw [hd.out] at this; rw [← this]; conv => rhs; unfold rev
                                                                   rw [if_neg hxc])
        clear hxc
        go_wp2_with fail
        go_round
        case rel => exact ⟨j + 1, by omega, by go_num, hR2.out⟩
        case measure => simp [RowKit.intOf]; omega
    · have hR2 : Hid (R = -1) := Lib.hid (by
        have := HF.out
        rw [List.drop_of_length_le (by have := HL.out; omega)] at this
        rw [← this]; rfl)
      go_wp2_with fail
      go_ret
      exact ⟨ret_int hR2.out.symm, rfl⟩
end Go.Proofs.YtiokdeomdeenbaaDoor.tb
