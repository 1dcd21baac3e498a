/- The document's own answers of layer 7: Kth, Rank, Second, span: contracts. -/
import Derived.Test.YtgjndekgnkjknaaGreatDoorWa1
namespace Go.Proofs.YtgjndekgnkjknaaGreatDoor.wa
open Go.RowKit Go.Lib
set_option linter.unusedVariables false
theorem kF_zero (b : Bool) (n k : Nat) : kF b 0 n k = 0 := rfl
theorem kF_hit0 {b : Bool} {f n : Nat} (h : inB n = b) : kF b (f + 1) n 0 = 44032 + n := by conv => lhs; unfold kF; rw [if_pos h, if_pos rfl]
theorem kF_hit1 {b : Bool} {f n k : Nat} (h : inB n = b) : kF b (f + 1) n (k + 1) = kF b f (n + 1) k := by conv => lhs; unfold kF; rw [if_pos h, if_neg (by omega), Nat.add_sub_cancel]
theorem kF_miss {b : Bool} {f n k : Nat} (h : ¬ inB n = b) : kF b (f + 1) n k = kF b f (n + 1) k := by conv => lhs; unfold kF; rw [if_neg h]
/-- The k-th; 0: there is none. -/
def kthI (k : Int) (b : Bool) : Int := if k < 0 then 0 else (kth k.toNat b : Nat)
theorem kthI_nat (k : Nat) (b : Bool) : kthI k b = (kth k b : Nat) := by unfold kthI; rw [if_neg (by omega), Int.toNat_natCast]
/-- The number of a second byte; -1: it is none. -/
def secI (b : Nat) : Int := match sec b with
  | some t => (t : Nat)
  | none => -1
theorem secI_1 {b : Nat} (h : 65 ≤ b ∧ b ≤ 90) : secI b = (b : Int) - 65 := by unfold secI sec; rw [if_pos h]; show ((b - 65 : Nat) : Int) = _; omega
theorem secI_2 {b : Nat} (h : 97 ≤ b ∧ b ≤ 122) : secI b = (b : Int) - 97 + 26 := by unfold secI sec; rw [if_neg (by omega), if_pos h]; show ((b - 97 + 26 : Nat) : Int) = _; omega
theorem secI_3 {b : Nat} (h : 129 ≤ b ∧ b ≤ 254) : secI b = (b : Int) - 129 + 52 := by unfold secI sec; rw [if_neg (by omega), if_neg (by omega), if_pos h]; show ((b - 129 + 52 : Nat) : Int) = _; omega
theorem secI_0 {b : Nat} (h1 : ¬ (65 ≤ b ∧ b ≤ 90)) (h2 : ¬ (97 ≤ b ∧ b ≤ 122)) (h3 : ¬ (129 ≤ b ∧ b ≤ 254)) : secI b = -1 := by unfold secI sec; rw [if_neg h1, if_neg h2, if_neg h3]
set_option maxRecDepth 100000 in
set_option maxHeartbeats 1000000 in
theorem span_any (b f l p : Nat) (w : World) (hb : b < 256) (hf : f < 256) (hp : p < 65536) : Calls Tryz.prog 15 #[.int .i64 b, .int .i64 f, .int .i64 l, .int .i32 p] w fun e w' => e = .returned (.int .i32 ((spn b f l p : Nat) : Int)) ∧ w = w' := by
  obtain ⟨V, hV⟩ : ∃ V : Int, V = ((spn b f l p : Nat) : Int) := ⟨_, rfl⟩
  rw [← hV]
  unfold spn at hV
  have hl : ∃ L : Int, L = (l : Int) := ⟨_, rfl⟩
  obtain ⟨L, hL⟩ := hl
  rw [← hL]
  generalize hB : (b : Int) = B at *
  generalize hF : (f : Int) = F at *
  generalize hP : (p : Int) = P at *
  by_cases h1 : b < f
  · rw [if_pos (.inl h1)] at hV
    obtain rfl : V = 0 := by rw [hV]; rfl
    have g0 : B < F := by omega
    clear hV hB hF hP hL h1
    go_enter Tryz.func15, Tryz.ntmps15
    go_wp2
    go_ret
    exact ⟨rfl, rfl⟩
  by_cases h2 : l < b
  · rw [if_pos (.inr h2)] at hV
    obtain rfl : V = 0 := by rw [hV]; rfl
    have g0 : ¬ B < F := by omega
    have g1 : L < B := by omega
    clear hV hB hF hP hL h1 h2
    go_enter Tryz.func15, Tryz.ntmps15
    go_wp2
    go_ret
    exact ⟨rfl, rfl⟩
  · rw [if_neg (by omega)] at hV
    obtain rfl : V = P + (B - F) := by omega
    have g0 : ¬ B < F := by omega
    have g1 : ¬ L < B := by omega
    have g2 : B - F < 256 := by omega
    have g3 : 0 ≤ B - F := by omega
    have g4 : 0 ≤ P := by omega
    have g5 : P < 65536 := by omega
    have w1 : IntKind.i32.wrap (B - F) = B - F := wrap32 (by omega) (by omega)
    have w2 : IntKind.i64.wrap (B - F) = B - F := wrap64 (by omega) (by omega)
    have w3 : IntKind.i32.wrap (P + (B - F)) = P + (B - F) := wrap32 (by omega) (by omega)
    clear hV hB hF hP hL h1 h2
    go_enter Tryz.func15, Tryz.ntmps15
    go_wp2
    go_ret
    exact ⟨rfl, rfl⟩
end Go.Proofs.YtgjndekgnkjknaaGreatDoor.wa
