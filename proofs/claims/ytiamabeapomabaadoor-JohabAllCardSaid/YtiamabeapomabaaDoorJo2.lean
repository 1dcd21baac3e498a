/- The document's own answers of layer 6: Medial, Final, Alone: contracts. -/
import Derived.Test.YtiamabeapomabaaDoorChecked
import Derived.Test.YtiamabeapomabaaDoorJo0
import Derived.WalkSmall
import Derived.Lib.Hide
namespace Go.Proofs.YtiamabeapomabaaDoor.jo
open Go.RowKit Go.Lib
set_option linter.unusedVariables false
theorem wrap64 {x : Int} (h0 : -9223372036854775808 ≤ x) (h1 : x ≤ 9223372036854775807) : IntKind.i64.wrap x = x := by simp [IntKind.wrap, IntKind.bits, IntKind.signed]; omega
theorem wrap32 {x : Int} (h0 : -2147483648 ≤ x) (h1 : x ≤ 2147483647) : IntKind.i32.wrap x = x := by simp [IntKind.wrap, IntKind.bits, IntKind.signed]; omega
theorem rInt {k : IntKind} {a b : Int} (h : a = b) : Ending.returned (.int k a) = .returned (.int k b) := by rw [h]
/-- The number of a medial's code: -1: none; -2: it isn't there. -/
def medI (c : Nat) : Int := if med c = 98 then -2 else if med c = 99 then -1 else med c
def finI (c : Nat) : Int := if fin c = 98 then -2 else fin c
def medLI : List Int := [-2, -2, -1, 0, 1, 2, 3, 4, -2, -2, 5, 6, 7, 8, 9, 10, -2, -2, 11, 12, 13, 14, 15, 16, -2, -2, 17, 18, 19, 20, -2, -2]
theorem medI_is : ∀ c < 32, medLI[c]? = some (medI c) := by decide
/-- A literal of numbers, in memory. -/
theorem lit_cell (w : World) (l : List Int) (t c : Nat) (z : Int) (h : l[c]? = some z) : (w.alloc (.cells (l.map (Value.int .i64)).toArray t)).cell? ⟨w.heap.size, c, none⟩ = some (.int .i64 z) := by
  rw [World.cell?_alloc_mark]; simp [h]
set_option maxRecDepth 100000 in
set_option maxHeartbeats 4000000 in
theorem medial_any (c : Nat) (w : World) (hc : c < 32) : Calls Tryd.prog 16 #[.int .i64 c] w fun e w' => e = .returned (.int .i64 (medI c)) ∧ Below w.heap.size w w' := by
  have hl := lit_cell w medLI 3 c _ (medI_is c hc)
  have g0 : (0 : Int) ≤ (c : Int) := by omega
  have g1 : (c : Int) < 32 := by omega
  generalize medI c = M at *
  simp only [medLI, List.map_cons, List.map_nil] at hl
  go_enter Tryd.func16, Tryd.ntmps16
  go_wp2
  go_ret
  exact ⟨rfl, (Below.refl _ _).alloc (Nat.le_refl _) _⟩
set_option maxRecDepth 100000 in
theorem final_any (c : Nat) (w : World) (hc : c < 32) : Calls Tryd.prog 17 #[.int .i64 c] w fun e w' => e = .returned (.int .i64 (finI c)) ∧ Below w.heap.size w w' := by
  unfold finI fin
  by_cases h : c = 0 ∨ c = 18 ∨ 29 < c
  · rw [if_pos h, if_pos rfl]
    rcases h with rfl | rfl | h
    · go_enter Tryd.func17, Tryd.ntmps17
      go_wp2
      go_ret
      exact ⟨rfl, Below.refl _ _⟩
    · go_enter Tryd.func17, Tryd.ntmps17
      go_wp2
      go_ret
      exact ⟨rfl, Below.refl _ _⟩
    · have n0 : ((c : Int) == 0) = false := beq_eq_false_iff_ne.2 (by omega)
      have n1 : ((c : Int) == 18) = false := beq_eq_false_iff_ne.2 (by omega)
      have n2 : (29 : Int) < (c : Int) := by omega
      go_enter Tryd.func17, Tryd.ntmps17
      go_wp2
      go_ret
      exact ⟨rfl, Below.refl _ _⟩
  · rw [if_neg h]
    have n0 : ((c : Int) == 0) = false := beq_eq_false_iff_ne.2 (by omega)
    have n1 : ((c : Int) == 18) = false := beq_eq_false_iff_ne.2 (by omega)
    have n2 : ¬ (29 : Int) < (c : Int) := by omega
    by_cases h2 : c < 18
    · rw [if_pos h2, if_neg (by omega)]
      have n3 : (c : Int) < 18 := by omega
      have e1 : Hid (((c - 1 : Nat) : Int) = (c : Int) - 1) := Lib.hid (by omega)
      go_enter Tryd.func17, Tryd.ntmps17
      go_wp2
      go_ret
      exact ⟨rInt (by rw [e1.out]), Below.refl _ _⟩
    · rw [if_neg h2, if_neg (by omega)]
      have n3 : ¬ (c : Int) < 18 := by omega
      have e1 : Hid (((c - 2 : Nat) : Int) = (c : Int) - 2) := Lib.hid (by omega)
      go_enter Tryd.func17, Tryd.ntmps17
      go_wp2
      go_ret
      exact ⟨rInt (by rw [e1.out]), Below.refl _ _⟩
theorem alo_none (p : Nat) : ∀ (l : List Nat) (i : Nat), (∀ q ∈ l, q ≠ p) → aloFrom p i l = 0
  | [], _, _ => rfl
  | q :: l, i, h => by
    unfold aloFrom
    rw [if_neg (h q List.mem_cons_self), alo_none p l (i + 1) (fun q' h' => h q' (List.mem_cons_of_mem _ h'))]
theorem alo_drop (p n : Nat) (h : n < 30) : aloFrom p n (aloL.drop n) = if aloL.getD n 0 = p then 12593 + n else aloFrom p (n + 1) (aloL.drop (n + 1)) := by
  have hl : n < aloL.length := h
  rw [List.drop_eq_getElem_cons hl, aloFrom]
  simp [List.getD, List.getElem?_eq_getElem hl]
theorem lit_alo (w : World) (t : Nat) : ∀ k, k < 30 → (w.alloc (.cells (aloL.map fun (n : Nat) => Value.int .i64 (n : Int)).toArray t)).cell? ⟨w.heap.size, k, none⟩ = some (.int .i64 ((aloL.getD k 0 : Nat) : Int)) := fun k h => by
  have hl : k < aloL.length := h
  rw [World.cell?_alloc_mark]; simp [List.getD, List.getElem?_eq_getElem hl]
theorem aloL_le : ∀ k < 30, aloL.getD k 0 ≤ 118 := by decide
set_option maxRecDepth 100000 in
set_option maxHeartbeats 1000000 in
theorem alone_any (p : Nat) (w : World) : Calls Tryd.prog 18 #[.int .i64 p] w fun e w' => e = .returned (.int .i32 ((alo p : Nat) : Int)) ∧ Below w.heap.size w w' := by
  obtain ⟨R, hR⟩ : ∃ R, R = alo p := ⟨_, rfl⟩
  rw [← hR]
  have HR := Lib.hid hR
  have H0 := Lib.hid (lit_alo w 3)
  clear hR
  go_enter Tryd.func18, Tryd.ntmps18
  go_wp2_with fail
  go_loopw [4] (fun i wr => ∃ n : Nat, n ≤ 30 ∧ i = .int .i64 n ∧ aloFrom p n (aloL.drop n) = R ∧ (∀ k, k < 30 → wr.cell? ⟨w.heap.size, k, none⟩ = some (.int .i64 ((aloL.getD k 0 : Nat) : Int))) ∧ Below w.heap.size w wr) (fun i _ => 30 - (RowKit.intOf i).toNat)
  case atStart => exact ⟨0, by omega, rfl, by rw [HR.out]; rfl, H0.out, (Below.refl _ _).alloc (Nat.le_refl _) _⟩
  case round =>
    obtain ⟨n, hn, rfl, hr, hc, hB⟩ := hrel
    have HB := Lib.hid hB; have HC := Lib.hid hc; have HRR := Lib.hid hr
    clear hB hc hr
    by_cases hlt : n < 30
    · have hcn := HC.out n hlt
      have g0 : (n : Int) < 30 := by omega
      have g1 : (0 : Int) ≤ (n : Int) := by omega
      have hu := Lib.hid (alo_drop p n hlt)
      generalize aloL.getD n 0 = Q at *
      by_cases hq : Q = p
      · have e1 : ((Q : Int) == (p : Int)) = true := by rw [hq]; exact beq_self_eq_true _
        have hR2 : Hid ((R : Int) = 12593 + (n : Int)) := Lib.hid (by rw [← HRR.out, hu.out, if_pos hq]; omega)
        have hw1 : IntKind.i32.wrap (12593 + (n : Int)) = 12593 + (n : Int) := wrap32 (by omega) (by omega)
        clear hq
        go_wp2_with fail
        go_ret
        exact ⟨rInt (by rw [hR2.out]), HB.out⟩
      · have e1 : ((Q : Int) == (p : Int)) = false := beq_eq_false_iff_ne.2 (by omega)
        have hR2 : Hid (aloFrom p (n + 1) (aloL.drop (n + 1)) = R) := Lib.hid (by rw [← HRR.out, hu.out, if_neg hq])
        clear hq
        go_wp2_with fail
        go_roundw
        case rel => exact ⟨n + 1, by omega, by go_num, hR2.out, HC.out, HB.out⟩
        case measure => simp [RowKit.intOf]; omega
    · obtain rfl : n = 30 := by omega
      have hR2 : Hid ((R : Int) = 0) := Lib.hid (by rw [← HRR.out]; rfl)
      go_wp2_with fail
      go_ret
      exact ⟨rInt (by rw [hR2.out]), HB.out⟩
end Go.Proofs.YtiamabeapomabaaDoor.jo
