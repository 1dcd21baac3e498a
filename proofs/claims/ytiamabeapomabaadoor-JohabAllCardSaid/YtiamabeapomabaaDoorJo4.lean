/- The document's own answer of layer 6: Code: a contract. -/
import Derived.Test.YtiamabeapomabaaDoorJo3
namespace Go.Proofs.YtiamabeapomabaaDoor.jo
open Go.RowKit Go.Lib
set_option linter.unusedVariables false
theorem medC_le (m : Nat) (h : m ≤ 20) : medC m ≤ 29 ∧ 3 ≤ medC m := by
  unfold medC; (repeat' split) <;> omega
theorem finC_le (f : Nat) (h : f ≤ 27) : finC f ≤ 29 ∧ 1 ≤ finC f := by
  unfold finC; split <;> omega
theorem aloL_has : ∀ k < 30, aloL.getD k 0 ≤ 18 ∨ (103 ≤ aloL.getD k 0 ∧ aloL.getD k 0 ≤ 118) := by decide
theorem code_le {p : Nat} (h : hasJ p) : 32768 ≤ code p ∧ code p < 65536 := by
  unfold hasJ at h
  unfold code
  by_cases h0 : 44032 ≤ p ∧ p ≤ 55203
  · rw [if_pos h0]
    have h1 := medC_le ((p - 44032) / 28 % 21) (by omega)
    have h2 := finC_le ((p - 44032) % 28) (by omega)
    omega
  · rw [if_neg h0]
    by_cases h3 : 12623 ≤ p ∧ p ≤ 12643
    · rw [if_pos h3]
      have h1 := medC_le (p - 12623) (by omega)
      omega
    · rw [if_neg h3, if_pos (by omega)]
      have h4 := aloL_has (p - 12593) (by omega)
      split
      · omega
      · have h2 := finC_le (aloL.getD (p - 12593) 0 - 100) (by omega)
        omega
/-- The code of a sign; -1: there is none. -/
def cd (p : Int) : Int := if 12593 ≤ p ∧ p ≤ 55203 ∧ ¬ (12643 < p ∧ p < 44032) then code p.toNat else -1
theorem cd_not {p : Int} (h : ¬ (12593 ≤ p ∧ p ≤ 55203 ∧ ¬ (12643 < p ∧ p < 44032))) : cd p = -1 := if_neg h
theorem cd_has {p : Nat} (h : hasJ p) : cd p = code p := by
  unfold hasJ at h
  unfold cd
  rw [if_pos (by omega), Int.toNat_natCast]
set_option maxRecDepth 100000 in
set_option maxHeartbeats 1000000 in
theorem refcode_not (p : Int) (w : World) (h : ¬ (12593 ≤ p ∧ p ≤ 55203 ∧ ¬ (12643 < p ∧ p < 44032))) : Calls Tryd.prog 11 #[.int .i32 p] w fun e w' => e = .returned (.int .i64 (-1)) ∧ Below w.heap.size w w' := by
  by_cases h1 : p < 12593
  · clear h
    go_enter Tryd.func11, Tryd.ntmps11
    go_wp2
    go_ret
    exact ⟨rfl, Below.refl _ _⟩
  by_cases h2 : 55203 < p
  · clear h
    go_enter Tryd.func11, Tryd.ntmps11
    go_wp2
    go_ret
    exact ⟨rfl, Below.refl _ _⟩
  · have h3 : 12643 < p := by omega
    have h4 : p < 44032 := by omega
    clear h
    go_enter Tryd.func11, Tryd.ntmps11
    go_wp2
    go_ret
    exact ⟨rfl, Below.refl _ _⟩
set_option maxRecDepth 100000 in
set_option maxHeartbeats 2000000 in
theorem code_core (p : Int) (q C : Nat) (w : World) (hq : p = (q : Int)) (hh : hasJ q) (hC : C = code q)
    (t : p ≤ 12643 ∧ 12593 ≤ p ∨ 44032 ≤ p ∧ p ≤ 55203) : Calls Tryd.prog 11 #[.int .i32 p] w fun e w' => e = .returned (.int .i64 (C : Int)) ∧ Below w.heap.size w w' := by
  have HC : Hid (32768 ≤ C ∧ C < 65536) := Lib.hid (by rw [hC]; exact code_le hh)
  have HN : Hid (∀ n : Nat, 32768 ≤ n → n ≤ C → (∀ w2, ∃ V : Int, (V = p → n = C) ∧ (V ≠ p → n + 1 ≤ C) ∧ Calls Tryd.prog 8 #[.int .i64 n] w2 fun e w' => e = .returned (.int .i32 V) ∧ Below w2.heap.size w2 w')) := Lib.hid (by
    intro n h0 h1 w2
    have h2 := code_le hh
    refine ⟨((sg n : Nat) : Int), fun h => ?_, fun h => ?_, refsign_any n w2 (by omega)⟩
    · have hs : sgn n = q := by
        unfold sg at h
        rw [if_neg (by omega)] at h
        omega
      have h3 : sgn n ≠ 0 := by
        rw [hs]
        unfold hasJ at hh
        omega
      have h4 := code_sgn (c := n) h0 (by omega) h3
      rw [hs] at h4
      omega
    · rcases Nat.lt_or_ge n C with h3 | h3
      · omega
      · exfalso
        apply h
        have : n = code q := by omega
        unfold sg
        rw [if_neg (by omega), this, sgn_code hh, hq])
  clear hq hh hC
  have fin : Hid (∀ (v : Int) (w' : World), v = (C : Int) → Below w.heap.size w w' → (Ending.returned (.int .i64 v) = .returned (.int .i64 (C : Int)) ∧ Below w.heap.size w w')) := Lib.hid (fun v w' h hb => ⟨by rw [h], hb⟩)
  generalize hCC : (C : Int) = D at *
  have HCC := Lib.hid hCC
  clear hCC
  have key : Calls Tryd.prog 11 #[.int .i32 p] w fun e w' => e = .returned (.int .i64 D) ∧ Below w.heap.size w w' := by
    rcases t with ⟨t1, t2⟩ | ⟨t1, t2⟩
    all_goals
      go_enter Tryd.func11, Tryd.ntmps11
      go_wp2_with fail
      go_loopw [3] (fun i wr => ∃ (n : Nat) (N : Int), Hid (N = (n : Int) ∧ 32768 ≤ n ∧ n ≤ C) ∧ i = .int .i64 N ∧ Below w.heap.size w wr) (fun i _ => 65536 - (RowKit.intOf i).toNat)
      case atStart => exact ⟨32768, 32768, Lib.hid ⟨rfl, by omega, HC.out.1⟩, rfl, Below.refl _ _⟩
      case round =>
        obtain ⟨n, N, hn, rfl, hB⟩ := hrel
        have HB := Lib.hid hB
        clear hB
        have hnd : N < 65536 ∧ 32768 ≤ N := by have := hn.out; have := HC.out; omega
        obtain ⟨hn1, hn2⟩ := hnd
        obtain ⟨V, hv1, hv2, hcall⟩ := HN.out n hn.out.2.1 hn.out.2.2 wr
        rw [← hn.out.1] at hcall
        have HCALL := Lib.hid hcall
        have HV1 := Lib.hid hv1; have HV2 := Lib.hid hv2
        clear hcall hv1 hv2
        by_cases hV : V = p
        · have e1 : (V == p) = true := by rw [hV]; exact beq_self_eq_true _
          have HV := Lib.hid hV
          clear hV
          go_wp2_with (go_at_call 8; refine (HCALL.out).mono ?_; rintro e2 w2 ⟨rfl, hb2⟩)
          go_ret
          exact fin.out _ _ (by have := hn.out; have := HV1.out HV.out; have := HCC.out; omega) (HB.out.trans (hb2.mono HB.out.size))
        · have e1 : (V == p) = false := beq_eq_false_iff_ne.2 hV
          have HV := Lib.hid hV
          clear hV
          go_wp2_with (go_at_call 8; refine (HCALL.out).mono ?_; rintro e2 w2 ⟨rfl, hb2⟩)
          go_roundw
          case rel => exact ⟨n + 1, N + 1, Lib.hid (by have := hn.out; have := HV2.out HV.out; omega), rfl, HB.out.trans (hb2.mono HB.out.size)⟩
          case measure => simp [RowKit.intOf]; omega
  exact key
theorem refcode_any (p : Int) (w : World) : Calls Tryd.prog 11 #[.int .i32 p] w fun e w' => e = .returned (.int .i64 (cd p)) ∧ Below w.heap.size w w' := by
  by_cases h : 12593 ≤ p ∧ p ≤ 55203 ∧ ¬ (12643 < p ∧ p < 44032)
  · obtain ⟨q, rfl⟩ : ∃ q : Nat, p = (q : Int) := ⟨p.toNat, by omega⟩
    have hh : hasJ q := by unfold hasJ; omega
    rw [cd_has hh]
    exact code_core q q (code q) w rfl hh rfl (by omega)
  · rw [cd_not h]
    exact refcode_not p w h
end Go.Proofs.YtiamabeapomabaaDoor.jo
