/- The landed wansung: sort.Find, sort.Search; Place, Rank, Extra: contracts. -/
import Derived.Test.YtiigknimfibdpaaGreatDoorWl2
import Derived.BigQuiet
import Derived.Deep.QuietTactic
import Derived.OrdersHeld
import Derived.Deep.RegionHeld
import Derived.Deep.RegionHeld3
import Derived.Shelf.Abstract
import Derived.Deep.DeepCutAuto
namespace Go.Proofs.YtiigknimfibdpaaGreatDoor.wa
open Go.RowKit Go.Lib
set_option linter.unusedVariables false
set_option maxRecDepth 100000 in
set_option maxHeartbeats 2000000 in
theorem sortFind_any (g : Nat) (lb : Array Value) (cm : Nat → Int) (n : Nat) (w : World) (hn : n ≤ 1000000000)
    (eg : ∀ args w, (callFunc g args).run Tryz.prog w = .ok (.enter g args) w)
    (hC : ∀ W, Below w.heap.size w W → ∀ h : Nat, h < n → Calls Tryz.prog g (#[.int .i64 h] ++ lb) W fun e w' => e = .returned (.int .i64 (cm h)) ∧ Below w.heap.size w w')
    (hm : ∀ i j : Nat, i ≤ j → j < n → cm i ≤ 0 → cm j ≤ 0) :
    Calls Tryz.prog 156 #[.int .i64 n, .func (.func g) #[] lb] w fun e w' => ∃ i : Nat, i ≤ n ∧ (∀ j, j < i → 0 < cm j) ∧ (∀ j, i ≤ j → j < n → cm j ≤ 0) ∧ e = .returned (.tuple #[.int .i64 i, .bool (decide (i < n ∧ cm i = 0))]) ∧ Below w.heap.size w w' := by
  have HC := Lib.hid hC; have HM := Lib.hid hm
  clear hC hm
  go_enter Tryz.func156, Tryz.ntmps156
  go_wp2
  go_loopw [4, 6] (fun a b wr => ∃ i j : Nat, i ≤ j ∧ j ≤ n ∧ a = .int .i64 i ∧ b = .int .i64 j ∧ (∀ k, k < i → 0 < cm k) ∧ (∀ k, j ≤ k → k < n → cm k ≤ 0) ∧ Below w.heap.size w wr) (fun a b _ => (RowKit.intOf b).toNat - (RowKit.intOf a).toNat)
  case atStart => exact ⟨0, n, Nat.zero_le _, Nat.le_refl _, rfl, rfl, fun k hk => absurd hk (Nat.not_lt_zero _), fun k h1 h2 => absurd h2 (by omega), Below.refl _ _⟩
  case round =>
    obtain ⟨i, j, hij, hj, rfl, rfl, hlo, hhi, hB⟩ := hrel
    have HLO := Lib.hid hlo; have HHI := Lib.hid hhi; have HB := Lib.hid hB
    clear hlo hhi hB
    by_cases hlt : i < j
    · obtain ⟨h, hh⟩ : ∃ h, h = (i + j) / 2 := ⟨_, rfl⟩
      have HH := Lib.hid hh
      have hlh : h < n := by omega
      have hcast : ((h : Nat) : Int) = ((i : Int) + (j : Int)) / 2 := by omega
      have HCH : Hid (∀ W, Below w.heap.size w W → Calls Tryz.prog g (#[.int .i64 (((i : Int) + (j : Int)) / 2)] ++ lb) W fun e w' => e = .returned (.int .i64 (cm h)) ∧ Below w.heap.size w w') := Lib.hid (fun W hW => by have := HC.out W hW h hlh; rwa [hcast] at this)
      have e1 : IntKind.i64.wrap ((i : Int) + (j : Int)) = (i : Int) + (j : Int) := wrap64 (by omega) (by omega)
      have e2 : IntKind.u64.wrap ((i : Int) + (j : Int)) = (i : Int) + (j : Int) := by simp [IntKind.wrap, IntKind.bits, IntKind.signed]; omega
      have HI := Lib.hid hcast
      clear hh hcast
      by_cases hc : 0 < cm h
      · have hgo : ∀ k, k < h + 1 → 0 < cm k := fun k hk => by
          apply Classical.byContradiction
          intro hk0
          have := HM.out k h (by omega) hlh (by omega)
          omega
        have HGO := Lib.hid hgo
        clear hgo
        generalize cm h = C at *
        go_wp2_with (go_at_fn g; refine (HCH.out _ HB.out).mono ?_; rintro e1 w1 ⟨rfl, hb1⟩)
        go_roundw
        case rel => have := HH.out; exact ⟨h + 1, j, by omega, hj, by rw [← HI.out]; congr 1, rfl, HGO.out, HHI.out, hb1⟩
        case measure => simp [RowKit.intOf]; omega
      · have hgo : ∀ k, h ≤ k → k < n → cm k ≤ 0 := fun k h1 h2 => HM.out h k h1 h2 (by omega)
        have HGO := Lib.hid hgo
        clear hgo
        generalize cm h = C at *
        go_wp2_with (go_at_fn g; refine (HCH.out _ HB.out).mono ?_; rintro e1 w1 ⟨rfl, hb1⟩)
        go_roundw
        case rel => have := HH.out; exact ⟨i, h, by omega, by omega, rfl, by rw [HI.out], HLO.out, HGO.out, hb1⟩
        case measure => simp [RowKit.intOf]; omega
    · obtain rfl : i = j := by omega
      by_cases hn2 : i < n
      · have HCI := Lib.hid (fun W hW => HC.out W hW i hn2)
        have HLT := Lib.hid hn2
        generalize hC : cm i = C at *
        have HCC := Lib.hid hC
        clear hC
        have HD : Hid (decide (i < n ∧ cm i = 0) = (C == 0)) := Lib.hid (by rw [HCC.out, Bool.eq_iff_iff]; simp [HLT.out])
        go_wp2_with (go_at_fn g; refine (HCI.out _ HB.out).mono ?_; rintro e1 w1 ⟨rfl, hb1⟩)
        go_ret2
        exact ⟨i, hj, HLO.out, HHI.out, by rw [HD.out]; rfl, hb1⟩
      · go_wp2_with fail
        go_ret2
        exact ⟨i, hj, HLO.out, HHI.out, by rw [decide_eq_false (show ¬ (i < n ∧ cm i = 0) from fun h => hn2 h.1)]; rfl, HB.out⟩
set_option maxRecDepth 100000 in
set_option maxHeartbeats 2000000 in
theorem sortSearch_any (g : Nat) (lb : Array Value) (cm : Nat → Bool) (n : Nat) (w : World) (hn : n ≤ 1000000000)
    (eg : ∀ args w, (callFunc g args).run Tryz.prog w = .ok (.enter g args) w)
    (hC : ∀ W, Below w.heap.size w W → ∀ h : Nat, h < n → Calls Tryz.prog g (#[.int .i64 h] ++ lb) W fun e w' => e = .returned (.bool (cm h)) ∧ Below w.heap.size w w')
    (hm : ∀ i j : Nat, i ≤ j → j < n → cm i = true → cm j = true) :
    Calls Tryz.prog 207 #[.int .i64 n, .func (.func g) #[] lb] w fun e w' => ∃ i : Nat, i ≤ n ∧ (∀ j, j < i → cm j = false) ∧ (∀ j, i ≤ j → j < n → cm j = true) ∧ e = .returned (.int .i64 i) ∧ Below w.heap.size w w' := by
  have HC := Lib.hid hC; have HM := Lib.hid hm
  clear hC hm
  go_enter Tryz.func207, Tryz.ntmps207
  go_wp2
  go_loopw [5, 6] (fun a b wr => ∃ i j : Nat, i ≤ j ∧ j ≤ n ∧ a = .int .i64 i ∧ b = .int .i64 j ∧ (∀ k, k < i → cm k = false) ∧ (∀ k, j ≤ k → k < n → cm k = true) ∧ Below w.heap.size w wr) (fun a b _ => (RowKit.intOf b).toNat - (RowKit.intOf a).toNat)
  case atStart => exact ⟨0, n, Nat.zero_le _, Nat.le_refl _, rfl, rfl, fun k hk => absurd hk (Nat.not_lt_zero _), fun k h1 h2 => absurd h2 (by omega), Below.refl _ _⟩
  case round =>
    obtain ⟨i, j, hij, hj, rfl, rfl, hlo, hhi, hB⟩ := hrel
    have HLO := Lib.hid hlo; have HHI := Lib.hid hhi; have HB := Lib.hid hB
    clear hlo hhi hB
    by_cases hlt : i < j
    · obtain ⟨h, hh⟩ : ∃ h, h = (i + j) / 2 := ⟨_, rfl⟩
      have HH := Lib.hid hh
      have hlh : h < n := by omega
      have hcast : ((h : Nat) : Int) = ((i : Int) + (j : Int)) / 2 := by omega
      have HCH : Hid (∀ W, Below w.heap.size w W → Calls Tryz.prog g (#[.int .i64 (((i : Int) + (j : Int)) / 2)] ++ lb) W fun e w' => e = .returned (.bool (cm h)) ∧ Below w.heap.size w w') := Lib.hid (fun W hW => by have := HC.out W hW h hlh; rwa [hcast] at this)
      have e1 : IntKind.i64.wrap ((i : Int) + (j : Int)) = (i : Int) + (j : Int) := wrap64 (by omega) (by omega)
      have e2 : IntKind.u64.wrap ((i : Int) + (j : Int)) = (i : Int) + (j : Int) := by simp [IntKind.wrap, IntKind.bits, IntKind.signed]; omega
      have HI := Lib.hid hcast
      clear hh hcast
      cases hc : cm h with
      | false =>
        have hgo : ∀ k, k < h + 1 → cm k = false := fun k hk => by
          cases hq : cm k with
          | false => rfl
          | true => rw [HM.out k h (by omega) hlh hq] at hc; cases hc
        have HGO := Lib.hid hgo
        rw [hc] at HCH
        clear hgo hc
        go_wp2_with (go_at_fn g; refine (HCH.out _ HB.out).mono ?_; rintro e1 w1 ⟨rfl, hb1⟩)
        go_roundw
        case rel => have := HH.out; exact ⟨h + 1, j, by omega, hj, by rw [← HI.out]; congr 1, rfl, HGO.out, HHI.out, hb1⟩
        case measure => simp [RowKit.intOf]; omega
      | true =>
        have hgo : ∀ k, h ≤ k → k < n → cm k = true := fun k h1 h2 => HM.out h k h1 h2 hc
        have HGO := Lib.hid hgo
        rw [hc] at HCH
        clear hgo hc
        go_wp2_with (go_at_fn g; refine (HCH.out _ HB.out).mono ?_; rintro e1 w1 ⟨rfl, hb1⟩)
        go_roundw
        case rel => have := HH.out; exact ⟨i, h, by omega, by omega, rfl, by rw [HI.out], HLO.out, HGO.out, hb1⟩
        case measure => simp [RowKit.intOf]; omega
    · obtain rfl : i = j := by omega
      go_wp2_with fail
      go_ret
      exact ⟨i, hj, HLO.out, HHI.out, rfl, HB.out⟩
theorem isNaNR_any (x : Int) (w : World) : Calls Tryz.prog 200 #[.int .i32 x] w fun e w' => e = .returned (.bool false) ∧ w' = w := by
  go_enter Tryz.func200, Tryz.ntmps200
  go_wp2
  go_ret
  exact ⟨by simp, rfl⟩
/-- Which of two is less. -/
def cm3 (x y : Int) : Int := if x < y then -1 else if y < x then 1 else 0
theorem cm3_neg {x y : Int} : 0 < cm3 x y ↔ y < x := by unfold cm3; split <;> (try split) <;> omega
theorem cm3_zero {x y : Int} : cm3 x y = 0 ↔ x = y := by unfold cm3; split <;> (try split) <;> omega
theorem compareR_any (x y : Int) (w : World) : Calls Tryz.prog 162 #[.int .i32 x, .int .i32 y] w fun e w' => e = .returned (.int .i64 (cm3 x y)) ∧ w' = w := by
  have HN := Lib.hid (fun z w => isNaNR_any z w)
  unfold cm3
  by_cases h1 : x < y
  · rw [if_pos h1]
    go_enter Tryz.func162, Tryz.ntmps162
    go_wp2_with (go_at_call 200; refine (HN.out _ _).mono ?_; rintro e1 w1 ⟨rfl, rfl⟩)
    go_ret
    exact ⟨rfl, rfl⟩
  · rw [if_neg h1]
    by_cases h2 : y < x
    · rw [if_pos h2]
      go_enter Tryz.func162, Tryz.ntmps162
      go_wp2_with (go_at_call 200; refine (HN.out _ _).mono ?_; rintro e1 w1 ⟨rfl, rfl⟩)
      go_ret
      exact ⟨rfl, rfl⟩
    · rw [if_neg h2]
      go_enter Tryz.func162, Tryz.ntmps162
      go_wp2_with (go_at_call 200; refine (HN.out _ _).mono ?_; rintro e1 w1 ⟨rfl, rfl⟩)
      go_ret
      exact ⟨rfl, rfl⟩
set_option maxRecDepth 100000 in
set_option maxHeartbeats 2000000 in
theorem rankC_any (h : Nat) (p : Int) (b : Nat) (w : World) (hh : h < 2350) (hb : b < w.heap.size) (hc : w.cell? ⟨b, 0, none⟩ = some (.int .i32 p)) (hT : pt.Tabs w) :
    Calls Tryz.prog 161 (#[.int .i64 h] ++ #[.pointer (some ⟨b, 0, none⟩)]) w fun e w' => e = .returned (.int .i64 (cm3 p ((kth h true : Nat) : Int))) ∧ Below w.heap.size w w' := by
  have HM := Lib.hid (fun w2 h2 => member_any h w2 hh h2)
  have HC := Lib.hid (fun w2 => compareR_any p ((kth h true : Nat) : Int) w2)
  generalize cm3 p ((kth h true : Nat) : Int) = R at *
  generalize ((kth h true : Nat) : Int) = M at *
  have HT := Lib.hid hT
  show Calls Tryz.prog 161 #[.int .i64 h, .pointer (some ⟨b, 0, none⟩)] w _
  clear hh hT
  go_enter Tryz.func161, Tryz.ntmps161
  go_wp2_with fail
  go_region_held3 (fun w' => w'.cell? ⟨b, 0, none⟩ = some (.int .i32 p)) (go_keep) (first | (go_at_call 162; refine (HC.out _).mono ?_; rintro e2 w2 ⟨rfl, rfl⟩) | (go_at_call 163; refine (HM.out _ (HT.out.below ((Below.refl _ _).drew))).mono ?_; rintro e1 w1 ⟨rfl, hb1⟩; have y1 := (hb1.cell (p := ⟨b, 0, none⟩) hb).trans hc; have HB := Lib.hid hb1; clear hb1))
  all_goals go_wp2_with fail
  all_goals go_ret
  all_goals exact ⟨rfl, ((Below.refl _ w).drew).trans HB.out⟩
end Go.Proofs.YtiigknimfibdpaaGreatDoor.wa
