/- The document's own answers of layer 7: Kth, Rank, Second, span: contracts. -/
import Derived.Test.YtgjndekgnkjknaaDoorWa1
namespace Go.Proofs.YtgjndekgnkjknaaDoor.wa
open Go.RowKit Go.Lib
set_option linter.unusedVariables false
theorem kF_zero (b : Bool) (n k : Nat) : kF b 0 n k = 0 := rfl
theorem kF_hit0 {b : Bool} {f n : Nat} (h : inB n = b) : kF b (f + 1) n 0 = 44032 + n := by conv => lhs; unfold kF; rw [if_pos h, if_pos rfl]
theorem kF_hit1 {b : Bool} {f n k : Nat} (h : inB n = b) : kF b (f + 1) n (k + 1) = kF b f (n + 1) k := by conv => lhs; unfold kF; rw [if_pos h, if_neg (by omega), Nat.add_sub_cancel]
theorem kF_miss {b : Bool} {f n k : Nat} (h : ¬ inB n = b) : kF b (f + 1) n k = kF b f (n + 1) k := by conv => lhs; unfold kF; rw [if_neg h]
/-- The k-th; 0: there is none. -/
def kthI (k : Int) (b : Bool) : Int := if k < 0 then 0 else (kth k.toNat b : Nat)
theorem kthI_nat (k : Nat) (b : Bool) : kthI k b = (kth k b : Nat) := by unfold kthI; rw [if_neg (by omega), Int.toNat_natCast]
set_option maxRecDepth 100000 in
set_option maxHeartbeats 2000000 in
theorem kth_any (k : Int) (b : Bool) (w : World) (hk : k ≤ 1000000) : Calls Tryd.prog 13 #[.int .i64 k, .bool b] w fun e w' => e = .returned (.int .i32 (kthI k b)) ∧ w = w' := by
  by_cases hneg : k < 0
  · have e : kthI k b = 0 := if_pos hneg
    rw [e]
    go_enter Tryd.func13, Tryd.ntmps13
    go_wp2
    go_ret
    exact ⟨rfl, rfl⟩
  obtain ⟨q, rfl⟩ : ∃ q : Nat, k = (q : Int) := ⟨k.toNat, by omega⟩
  rw [kthI_nat]
  obtain ⟨R, hR⟩ : ∃ R, R = kth q b := ⟨_, rfl⟩
  rw [← hR]
  have HR : Hid (kF b 11172 0 q = R) := Lib.hid hR.symm
  have q1 : (q : Int) ≤ 1000000 := hk
  have q0 : ¬ (q : Int) < 0 := hneg
  clear hR hk hneg
  generalize hQ : (q : Int) = Q at *
  have HQ := Lib.hid hQ
  clear hQ
  have FIN : Hid (∀ v : Int, v = (R : Int) → Ending.returned (.int .i32 v) = .returned (.int .i32 (R : Int))) := Lib.hid (fun v h => by rw [h])
  go_enter Tryd.func13, Tryd.ntmps13
  go_wp2_with fail
  go_loopw [0, 5] (fun kk t wr => ∃ (n f k : Nat) (N K : Int), Hid (n + f = 11172 ∧ N = (n : Int) ∧ K = (k : Int) ∧ k ≤ q) ∧ Hid (kF b f n k = R) ∧ t = .int .i64 N ∧ kk = .int .i64 K ∧ w = wr) (fun _ t _ => 11172 - (RowKit.intOf t).toNat)
  case atStart => exact ⟨0, 11172, q, 0, Q, Lib.hid ⟨rfl, rfl, HQ.out.symm, Nat.le_refl _⟩, HR, rfl, rfl, rfl⟩
  case round =>
    obtain ⟨n, f, k, N, K, hn, hkf, rfl, rfl, rfl⟩ := hrel
    have k0 : 0 ≤ K := by have := hn.out; omega
    have k1 : K ≤ 1000000 := by have := hn.out; have := HQ.out; omega
    have n0 : 0 ≤ N := by have := hn.out; omega
    by_cases hlt : N < 11172
    · obtain ⟨f, rfl⟩ : ∃ f', f = f' + 1 := ⟨f - 1, by have := hn.out; omega⟩
      have HI := Lib.hid (fun w2 => in_any n w2 (by have := hn.out; omega))
      rw [← hn.out.2.1] at HI
      by_cases hb : inB n = b
      · have hbb : (inB n == b) = true := by rw [hb]; exact beq_self_eq_true b
        by_cases hz : K = 0
        · subst hz
          have hres : Hid ((44032 + N : Int) = (R : Int)) := Lib.hid (by
            have h1 := hkf.out
            have h2 := hn.out
            obtain rfl : k = 0 := by omega
            rw [kF_hit0 hb] at h1
            omega)
          clear hb
          generalize inB n = V at *
          go_wp2_with (go_at_call 9; refine (HI.out _).mono ?_; rintro e2 w2 ⟨rfl, rfl⟩)
          go_ret
          exact ⟨FIN.out _ hres.out, rfl⟩
        · obtain ⟨k', hk'⟩ : ∃ k', k = k' + 1 := ⟨k - 1, by have := hn.out; omega⟩
          have hres : Hid (kF b f (n + 1) k' = R) := Lib.hid (by
            have h1 := hkf.out
            rw [hk', kF_hit1 hb] at h1
            exact h1)
          have hzz : (K == 0) = false := beq_eq_false_iff_ne.2 hz
          have HKK := Lib.hid hk'
          clear hb hk'
          generalize inB n = V at *
          go_wp2_with (go_at_call 9; refine (HI.out _).mono ?_; rintro e2 w2 ⟨rfl, rfl⟩)
          go_roundw
          case rel => exact ⟨n + 1, f, k', N + 1, K - 1, Lib.hid (by have := hn.out; have := HKK.out; omega), hres, rfl, rfl, by first | rfl | trivial⟩
          case measure => simp [RowKit.intOf]; omega
      · have hbb : (inB n == b) = false := beq_eq_false_iff_ne.2 hb
        have hres : Hid (kF b f (n + 1) k = R) := Lib.hid (by
          have h1 := hkf.out
          rw [kF_miss hb] at h1
          exact h1)
        clear hb
        generalize inB n = V at *
        go_wp2_with (go_at_call 9; refine (HI.out _).mono ?_; rintro e2 w2 ⟨rfl, rfl⟩)
        go_roundw
        case rel => exact ⟨n + 1, f, k, N + 1, K, Lib.hid (by have := hn.out; omega), hres, rfl, rfl, by first | rfl | trivial⟩
        case measure => simp [RowKit.intOf]; omega
    · have hres : Hid ((0 : Int) = (R : Int)) := Lib.hid (by
        have h1 := hkf.out
        have h2 := hn.out
        obtain rfl : f = 0 := by omega
        rw [kF_zero] at h1
        omega)
      go_wp2_with fail
      go_ret
      exact ⟨FIN.out _ hres.out, rfl⟩
set_option maxRecDepth 100000 in
set_option maxHeartbeats 2000000 in
theorem rank_any (n : Nat) (w : World) (hn : n < 11172) : Calls Tryd.prog 10 #[.int .i64 n] w fun e w' => e = .returned (.int .i64 ((rk (inB n) n : Nat) : Int)) ∧ w = w' := by
  have HI0 := Lib.hid (fun w2 => in_any n w2 hn)
  obtain ⟨b, hb⟩ : ∃ b, b = inB n := ⟨_, rfl⟩
  rw [← hb] at HI0 ⊢
  clear hb
  have n1 : (n : Int) < 11172 := by omega
  have HN := Lib.hid hn
  generalize hN : (n : Int) = N at *
  have HNN := Lib.hid hN
  clear hN hn
  go_enter Tryd.func10, Tryd.ntmps10
  go_wp2_with fail
  go_loopw [3, 4] (fun kk t wr => ∃ (i : Nat) (I K : Int), Hid (I = (i : Int) ∧ i ≤ n ∧ K = ((rk b i : Nat) : Int)) ∧ t = .int .i64 I ∧ kk = .int .i64 K ∧ w = wr) (fun _ t _ => n - (RowKit.intOf t).toNat)
  case atStart => exact ⟨0, 0, 0, Lib.hid ⟨rfl, Nat.zero_le _, rfl⟩, rfl, rfl, rfl⟩
  case round =>
    obtain ⟨i, I, K, hi, rfl, rfl, rfl⟩ := hrel
    have i0 : 0 ≤ I := by have := hi.out; omega
    have k0 : 0 ≤ K := by have := hi.out; omega
    have k1 : K ≤ 12000 := by have := hi.out; have := rk_le b i; have := HN.out; omega
    by_cases hlt : I < N
    · have hin : Hid (i < n) := Lib.hid (by have := hi.out; have := HNN.out; omega)
      have HI := Lib.hid (fun w2 => in_any i w2 (by have := hin.out; have := HN.out; omega))
      rw [← hi.out.1] at HI
      by_cases hv : inB i = b
      · have hbb : (inB i == b) = true := by rw [hv]; exact beq_self_eq_true b
        have HS := Lib.hid (rk_hit hv)
        clear hv
        generalize inB i = V at *
        go_wp2_with (first | (go_at_call 9; (with_reducible refine (HI.out _).mono ?_); rintro e2 w2 ⟨rfl, rfl⟩) | (go_at_call 9; (with_reducible refine (HI0.out _).mono ?_); rintro e2 w2 ⟨rfl, rfl⟩))
        go_roundw
        case rel => exact ⟨i + 1, I + 1, K + 1, Lib.hid (by have := hi.out; have := HS.out; have := hin.out; omega), rfl, rfl, by first | rfl | trivial⟩
        case measure => simp [RowKit.intOf]; have := HNN.out; omega
      · have hbb : (inB i == b) = false := beq_eq_false_iff_ne.2 hv
        have HS := Lib.hid (rk_miss hv)
        clear hv
        generalize inB i = V at *
        go_wp2_with (first | (go_at_call 9; (with_reducible refine (HI.out _).mono ?_); rintro e2 w2 ⟨rfl, rfl⟩) | (go_at_call 9; (with_reducible refine (HI0.out _).mono ?_); rintro e2 w2 ⟨rfl, rfl⟩))
        go_roundw
        case rel => exact ⟨i + 1, I + 1, K, Lib.hid (by have := hi.out; have := HS.out; have := hin.out; omega), rfl, rfl, by first | rfl | trivial⟩
        case measure => simp [RowKit.intOf]; have := HNN.out; omega
    · have hres : Hid (K = ((rk b n : Nat) : Int)) := Lib.hid (by
        have h2 := hi.out
        have h3 := HNN.out
        obtain rfl : i = n := by omega
        exact h2.2.2)
      have FIN : Hid (Ending.returned (.int .i64 K) = .returned (.int .i64 ((rk b n : Nat) : Int))) := Lib.hid (by rw [hres.out])
      go_wp2_with fail
      go_ret
      exact ⟨FIN.out, rfl⟩
/-- The number of a second byte; -1: it is none. -/
def secI (b : Nat) : Int := match sec b with
  | some t => (t : Nat)
  | none => -1
theorem secI_1 {b : Nat} (h : 65 ≤ b ∧ b ≤ 90) : secI b = (b : Int) - 65 := by unfold secI sec; rw [if_pos h]; show ((b - 65 : Nat) : Int) = _; omega
theorem secI_2 {b : Nat} (h : 97 ≤ b ∧ b ≤ 122) : secI b = (b : Int) - 97 + 26 := by unfold secI sec; rw [if_neg (by omega), if_pos h]; show ((b - 97 + 26 : Nat) : Int) = _; omega
theorem secI_3 {b : Nat} (h : 129 ≤ b ∧ b ≤ 254) : secI b = (b : Int) - 129 + 52 := by unfold secI sec; rw [if_neg (by omega), if_neg (by omega), if_pos h]; show ((b - 129 + 52 : Nat) : Int) = _; omega
theorem secI_0 {b : Nat} (h1 : ¬ (65 ≤ b ∧ b ≤ 90)) (h2 : ¬ (97 ≤ b ∧ b ≤ 122)) (h3 : ¬ (129 ≤ b ∧ b ≤ 254)) : secI b = -1 := by unfold secI sec; rw [if_neg h1, if_neg h2, if_neg h3]
set_option maxRecDepth 100000 in
set_option maxHeartbeats 1000000 in
theorem second_any (b : Nat) (w : World) (hb : b < 256) : Calls Tryd.prog 32 #[.int .i64 b] w fun e w' => e = .returned (.int .i64 (secI b)) ∧ w = w' := by
  have hh : b < 65 ∨ (65 ≤ b ∧ b ≤ 90) ∨ (91 ≤ b ∧ b < 97) ∨ (97 ≤ b ∧ b ≤ 122) ∨ (123 ≤ b ∧ b < 129) ∨ (129 ≤ b ∧ b ≤ 254) ∨ b = 255 := by omega
  obtain ⟨V, hV⟩ : ∃ V, V = secI b := ⟨_, rfl⟩
  rw [← hV]
  generalize hB : (b : Int) = B
  rcases hh with h | h | h | h | h | h | h
  · have hv : V = -1 := by rw [hV, secI_0 (by omega) (by omega) (by omega)]
    subst hv
    have g0 : ¬ 65 ≤ B := by omega
    have g1 : ¬ 97 ≤ B := by omega
    have g2 : ¬ 129 ≤ B := by omega
    clear hV hB h
    go_enter Tryd.func32, Tryd.ntmps32
    go_wp2
    go_ret
    exact ⟨rfl, rfl⟩
  · have hv : V = B - 65 := by rw [hV, secI_1 h]; omega
    subst hv
    have g0 : 65 ≤ B := by omega
    have g1 : B ≤ 90 := by omega
    clear hV hB h
    go_enter Tryd.func32, Tryd.ntmps32
    go_wp2
    go_ret
    exact ⟨rfl, rfl⟩
  · have hv : V = -1 := by rw [hV, secI_0 (by omega) (by omega) (by omega)]
    subst hv
    have g0 : 65 ≤ B := by omega
    have g3 : ¬ B ≤ 90 := by omega
    have g1 : ¬ 97 ≤ B := by omega
    have g2 : ¬ 129 ≤ B := by omega
    clear hV hB h
    go_enter Tryd.func32, Tryd.ntmps32
    go_wp2
    go_ret
    exact ⟨rfl, rfl⟩
  · have hv : V = B - 97 + 26 := by rw [hV, secI_2 h]; omega
    subst hv
    have g0 : 65 ≤ B := by omega
    have g3 : ¬ B ≤ 90 := by omega
    have g1 : 97 ≤ B := by omega
    have g2 : B ≤ 122 := by omega
    clear hV hB h
    go_enter Tryd.func32, Tryd.ntmps32
    go_wp2
    go_ret
    exact ⟨rfl, rfl⟩
  · have hv : V = -1 := by rw [hV, secI_0 (by omega) (by omega) (by omega)]
    subst hv
    have g0 : 65 ≤ B := by omega
    have g3 : ¬ B ≤ 90 := by omega
    have g1 : 97 ≤ B := by omega
    have g4 : ¬ B ≤ 122 := by omega
    have g2 : ¬ 129 ≤ B := by omega
    clear hV hB h
    go_enter Tryd.func32, Tryd.ntmps32
    go_wp2
    go_ret
    exact ⟨rfl, rfl⟩
  · have hv : V = B - 129 + 52 := by rw [hV, secI_3 h]; omega
    subst hv
    have g0 : 65 ≤ B := by omega
    have g3 : ¬ B ≤ 90 := by omega
    have g1 : 97 ≤ B := by omega
    have g4 : ¬ B ≤ 122 := by omega
    have g2 : 129 ≤ B := by omega
    have g5 : B ≤ 254 := by omega
    clear hV hB h
    go_enter Tryd.func32, Tryd.ntmps32
    go_wp2
    go_ret
    exact ⟨rfl, rfl⟩
  · have hv : V = -1 := by rw [hV, secI_0 (by omega) (by omega) (by omega)]
    subst hv
    obtain rfl : B = 255 := by omega
    clear hV hB h
    go_enter Tryd.func32, Tryd.ntmps32
    go_wp2
    go_ret
    exact ⟨rfl, rfl⟩
set_option maxRecDepth 100000 in
set_option maxHeartbeats 1000000 in
theorem span_any (b f l p : Nat) (w : World) (hb : b < 256) (hf : f < 256) (hp : p < 65536) : Calls Tryd.prog 43 #[.int .i64 b, .int .i64 f, .int .i64 l, .int .i32 p] w fun e w' => e = .returned (.int .i32 ((spn b f l p : Nat) : Int)) ∧ w = w' := by
  obtain ⟨V, hV⟩ : ∃ V : Int, V = ((spn b f l p : Nat) : Int) := ⟨_, rfl⟩
  rw [← hV]
  unfold spn at hV
  have hl : ∃ L : Int, L = (l : Int) := ⟨_, rfl⟩
  obtain ⟨L, hL⟩ := hl
  rw [← hL]
  generalize hB : (b : Int) = B at *
  generalize hF : (f : Int) = F at *
  generalize hP : (p : Int) = P at *
  by_cases h1 : b < f
  · rw [if_pos (.inl h1)] at hV
    obtain rfl : V = 0 := by rw [hV]; rfl
    have g0 : B < F := by omega
    clear hV hB hF hP hL h1
    go_enter Tryd.func43, Tryd.ntmps43
    go_wp2
    go_ret
    exact ⟨rfl, rfl⟩
  by_cases h2 : l < b
  · rw [if_pos (.inr h2)] at hV
    obtain rfl : V = 0 := by rw [hV]; rfl
    have g0 : ¬ B < F := by omega
    have g1 : L < B := by omega
    clear hV hB hF hP hL h1 h2
    go_enter Tryd.func43, Tryd.ntmps43
    go_wp2
    go_ret
    exact ⟨rfl, rfl⟩
  · rw [if_neg (by omega)] at hV
    obtain rfl : V = P + (B - F) := by omega
    have g0 : ¬ B < F := by omega
    have g1 : ¬ L < B := by omega
    have g2 : B - F < 256 := by omega
    have g3 : 0 ≤ B - F := by omega
    have g4 : 0 ≤ P := by omega
    have g5 : P < 65536 := by omega
    have w1 : IntKind.i32.wrap (B - F) = B - F := wrap32 (by omega) (by omega)
    have w2 : IntKind.i64.wrap (B - F) = B - F := wrap64 (by omega) (by omega)
    have w3 : IntKind.i32.wrap (P + (B - F)) = P + (B - F) := wrap32 (by omega) (by omega)
    clear hV hB hF hP hL h1 h2
    go_enter Tryd.func43, Tryd.ntmps43
    go_wp2
    go_ret
    exact ⟨rfl, rfl⟩
end Go.Proofs.YtgjndekgnkjknaaDoor.wa
