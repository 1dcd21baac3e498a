/- The walk of JohabAll. -/
import Derived.Test.YtiamabeapomabaaDoorJoF
namespace Go.Proofs.YtiamabeapomabaaDoor.jo
open Go.RowKit Go.Lib
open Go.Proofs.YtiamabeapomabaaDoor.tb (RowP RowP.at RowP.below)
set_option linter.unusedVariables false
/-- So many numbers from s on, added. -/
def ss (s : Nat) : Nat → Nat
  | 0 => 0
  | n + 1 => ss s n + (s + n)
theorem ss_is (s : Nat) : ∀ n, 2 * ss s n + n = n * (2 * s + n)
  | 0 => by simp [ss]
  | n + 1 => by
    have ih := ss_is s n
    unfold ss
    have e : (n + 1) * (2 * s + (n + 1)) = n * (2 * s + n) + n + (2 * s + n + 1) := by
      rw [Nat.succ_mul, show 2 * s + (n + 1) = (2 * s + n) + 1 by omega, Nat.mul_succ]
    rw [e]
    omega
theorem ss_val (s n V : Nat) (h : 2 * V + n = n * (2 * s + n)) : ss s n = V := by have := ss_is s n; omega
theorem ss_med : ss 12593 51 = 643518 := ss_val _ _ _ (by decide)
theorem ss_syl : ss 44032 11172 = 554326710 := ss_val _ _ _ (by decide)
theorem ss_le (s : Nat) : ∀ n, n ≤ 12000 → ss s n ≤ n * (s + 12000)
  | 0, _ => by simp [ss]
  | n + 1, h => by
    have := ss_le s n (by omega)
    unfold ss
    rw [Nat.succ_mul]
    omega
theorem prs_more (n : Nat) : ∀ m, ∃ t, prs (n + m) = prs n ++ t
  | 0 => ⟨[], by simp⟩
  | m + 1 => by
    obtain ⟨t, h⟩ := prs_more n m
    refine ⟨t ++ (if sgn (32768 + (n + m)) = 0 then [] else [(((32768 + (n + m) : Nat) : Int), ((sgn (32768 + (n + m)) : Nat) : Int))]), ?_⟩
    rw [← Nat.add_assoc]
    conv => lhs; unfold prs
    rw [h, List.append_assoc]
theorem prs_at {j : Nat} (hj : j < 32768) (h : sgn (32768 + j) ≠ 0) : cnt 32768 j < 11223 ∧ (prs 32768).getD (cnt 32768 j) (0, 0) = (((32768 + j : Nat) : Int), ((sgn (32768 + j) : Nat) : Int)) := by
  obtain ⟨t, ht⟩ := prs_more (j + 1) (32768 - (j + 1))
  rw [show j + 1 + (32768 - (j + 1)) = 32768 by omega, prs_some h, List.append_assoc] at ht
  have hl := prs_len j
  have h1 : (prs 32768).length = 11223 := by rw [prs_len, cnt_all]
  rw [ht] at h1 ⊢
  refine ⟨?_, ?_⟩
  · rw [← h1, List.length_append, hl]; simp
  · rw [← hl]; simp [List.getD]
theorem cnt_step0 {j : Nat} (h : sgn (32768 + j) = 0) : cnt 32768 (j + 1) = cnt 32768 j := by conv => lhs; unfold cnt; rw [if_pos h, Nat.add_zero]
theorem cnt_step1 {j : Nat} (h : sgn (32768 + j) ≠ 0) : cnt 32768 (j + 1) = cnt 32768 j + 1 := by conv => lhs; unfold cnt; rw [if_neg h]
theorem sm_step (j : Nat) : sm 32768 (j + 1) = sm 32768 j + sgn (32768 + j) := rfl
theorem sgn_le (c : Nat) (hc : c < 65536) (h0 : 32768 ≤ c) : sgn c ≤ 55203 := by
  by_cases h : sg c = 0
  · have : sg c = sgn c := if_neg (by omega)
    omega
  · have h1 := (sg_has hc h).1
    have : sg c = sgn c := if_neg (by omega)
    rw [this] at h1
    unfold hasJ at h1
    omega
theorem sm_le : ∀ j, j ≤ 32768 → sm 32768 j ≤ j * 55203
  | 0, _ => by simp [sm]
  | j + 1, h => by
    have := sm_le j (by omega)
    have := sgn_le (32768 + j) (by omega) (by omega)
    rw [sm_step]
    omega
set_option maxRecDepth 100000 in
set_option maxHeartbeats 8000000 in
theorem all_walk (w : World) (hK : KD w) : Calls Tryd.prog 6 #[] w fun e w' => e = .returned (.bool true) ∧ Below w.heap.size w w' := by
  obtain ⟨N, hN⟩ : ∃ N : Nat, N = 11223 := ⟨_, rfl⟩
  have hp := pairs_any w hK
  rw [← hN] at hp
  have HP := Lib.hid hp
  have HN := Lib.hid hN
  have n0 : ((N : Int) != 11223) = false := by rw [hN]; rfl
  clear hp hN
  have HA := Lib.hid awake_any
  have HK := Lib.hid hK
  clear hK
  go_enter Tryd.func6, Tryd.ntmps6
  go_wp2_with (go_at_call 13; refine (HP.out).mono ?_; rintro e2 w2 ⟨A, cp, rfl, hr, hb2⟩; have HR := Lib.hid hr; have HB := Lib.hid hb2; clear hr hb2)
  go_loopw [2, 3, 4] (fun k s i wr => ∃ (j K S : Nat) (C T : Int), Hid (C = 32768 + (j : Int) ∧ j ≤ 32768 ∧ K = cnt 32768 j ∧ S = sm 32768 j ∧ T = (S : Int)) ∧ k = .int .i64 K ∧ s = .int .i64 T ∧ i = .int .i64 C ∧ RowP wr A N cp (prs 32768) ∧ Below w.heap.size w wr) (fun _ _ i _ => 65536 - (RowKit.intOf i).toNat)
  case atStart => exact ⟨0, 0, 0, 32768, 0, Lib.hid ⟨rfl, by omega, rfl, rfl, rfl⟩, rfl, rfl, rfl, HR.out, HB.out⟩
  case round =>
    obtain ⟨j, K, S, C, T, hj, rfl, rfl, rfl, hR, hB⟩ := hrel
    have HR2 := Lib.hid hR; have HB2 := Lib.hid hB
    clear hR hB
    by_cases hlt : C < 65536
    · have hC0 : 32768 ≤ C := by have := hj.out; omega
      have HS : Hid (∀ w2, Calls Tryd.prog 8 #[.int .i64 C] w2 fun e w' => e = .returned (.int .i32 ((sgn (32768 + j) : Nat) : Int)) ∧ Below w2.heap.size w2 w') := Lib.hid (fun w2 => by
        have h1 := hj.out
        have h := refsign_any (32768 + j) w2 (by omega)
        rw [show ((32768 + j : Nat) : Int) = C by omega, show sg (32768 + j) = sgn (32768 + j) from if_neg (by omega)] at h
        exact h)
      by_cases hS : sgn (32768 + j) = 0
      · have HZ := Lib.hid hS
        rw [hS] at HS
        replace HS : Hid (∀ w2, Calls Tryd.prog 8 #[.int .i64 C] w2 fun e w' => e = .returned (.int .i32 0) ∧ Below w2.heap.size w2 w') := HS
        clear hS
        go_wp2_with (go_at_call 8; refine (HS.out _).mono ?_; rintro e2 w2 ⟨rfl, hb2⟩; have R2 := Lib.hid (HR2.out.below hb2); have B2 := Lib.hid (HB2.out.trans (hb2.mono HB2.out.size)); clear hb2)
        go_roundw
        case rel => exact ⟨j + 1, K, S, C + 1, T, Lib.hid ⟨by have := hj.out; omega, by have := hj.out; omega, by rw [cnt_step0 HZ.out]; exact hj.out.2.2.1, by rw [sm_step, HZ.out]; exact hj.out.2.2.2.1, hj.out.2.2.2.2⟩, rfl, rfl, rfl, R2.out, B2.out⟩
        case measure => simp [RowKit.intOf]; omega
      · have hat := prs_at (j := j) (by have := hj.out; omega) hS
        have HZ := Lib.hid hS
        rw [← hj.out.2.2.1, show ((32768 + j : Nat) : Int) = C by have := hj.out; omega] at hat
        have hK : K < N := by have := HN.out; have := hat.1; omega
        have HAT := Lib.hid hat.2
        have hle : sgn (32768 + j) ≤ 55203 := sgn_le _ (by have := hj.out; omega) (by omega)
        have hSle : S ≤ 1809000000 := by have h1 := hj.out; have := sm_le j h1.2.1; omega
        obtain ⟨G, hG⟩ : ∃ G, G = sgn (32768 + j) := ⟨_, rfl⟩
        have HG := Lib.hid hG
        rw [← hG] at HS hle HAT
        have hne : ((G : Int) == 0) = false := beq_eq_false_iff_ne.2 (by omega)
        have g0 : (0 : Int) ≤ (G : Int) := by omega
        have g1 : (G : Int) ≤ 55203 := by omega
        have s0 : 0 ≤ T := by have := hj.out; omega
        have s1 : T ≤ 1809000000 := by have := hj.out; omega
        have k0 : (0 : Int) ≤ (K : Int) := by omega
        have k1 : (K : Int) < (N : Int) := by omega
        have ws : IntKind.i64.wrap (T + (G : Int)) = T + (G : Int) := wrap64 (by omega) (by omega)
        have HKK := Lib.hid hK
        clear hS hG hat hle hSle hK
        obtain ⟨Z, hZ⟩ : ∃ Z : Int, Z = (G : Int) := ⟨_, rfl⟩
        have HZG := Lib.hid hZ
        rw [← hZ] at HS HAT hne g0 g1 ws
        clear hZ
        go_wp2_with (go_at_call 8; refine (HS.out _).mono ?_; rintro e2 w2 ⟨rfl, hb2⟩; have R2 := Lib.hid (HR2.out.below hb2); have B2 := Lib.hid (HB2.out.trans (hb2.mono HB2.out.size)); clear hb2; obtain ⟨a, rfl, a1, a2, c0, c1⟩ := R2.out.at K HKK.out; unfold maxLen at a2; rw [HAT.out] at c0 c1; simp only at c0 c1; have c2 : w2.cell? ⟨(a.add (K * 2)).block, (a.add (K * 2)).off + 1, none⟩ = some (.int .i32 Z) := (by rw [← c1]; rfl); clear HAT)
        go_roundw
        case rel => exact ⟨j + 1, K + 1, S + G, C + 1, T + Z, Lib.hid ⟨by have := hj.out; omega, by have := hj.out; omega, by rw [cnt_step1 HZ.out, ← hj.out.2.2.1], by rw [sm_step, ← hj.out.2.2.2.1, HG.out], by have := hj.out.2.2.2.2; have := HZG.out; omega⟩, by go_num, rfl, rfl, R2.out, B2.out⟩
        case measure => simp [RowKit.intOf]; omega
    · have hS2 : T = 554970228 ∧ K = N := by
        have h1 := hj.out
        obtain rfl : j = 32768 := by omega
        have h2 := h1.2.2.1
        have h3 := h1.2.2.2.1
        rw [cnt_all] at h2
        rw [sm_all] at h3
        have := HN.out
        omega
      obtain ⟨rfl, rfl⟩ := hS2
      clear hj n0
      go_wp2_with fail
      go_loopw [6, 7] (fun s i wr2 => ∃ (n : Nat) (P Q : Int), Hid (n ≤ 51 ∧ P = 12593 + (n : Int) ∧ Q = ((ss 12593 n : Nat) : Int)) ∧ s = .int .i64 Q ∧ i = .int .i64 P ∧ wr2 = wr) (fun _ i _ => 12644 - (RowKit.intOf i).toNat)
      case atStart => exact ⟨0, 12593, 0, Lib.hid ⟨by omega, rfl, rfl⟩, rfl, rfl, rfl⟩
      case round =>
        obtain ⟨n, P, Q, hn, rfl, rfl, rfl⟩ := hrel
        have hle := ss_le 12593 n (by have := hn.out; omega)
        have q0 : 0 ≤ Q := by have := hn.out; omega
        have q1 : Q ≤ 2000000000 := by have := hn.out; omega
        have p0 : 0 ≤ P := by have := hn.out; omega
        have p1 : P ≤ 12644 := by have := hn.out; omega
        have HLE := Lib.hid hle
        clear hle
        by_cases hp : P ≤ 12643
        · have ws : IntKind.i64.wrap (Q + P) = Q + P := wrap64 (by omega) (by omega)
          go_wp2_with fail
          go_roundw
          case rel => exact ⟨n + 1, P + 1, Q + P, Lib.hid ⟨by have := hn.out; omega, by have := hn.out; omega, by have := hn.out; unfold ss; omega⟩, rfl, (by first | exact ⟨rfl, rfl⟩ | trivial)⟩
          case measure => simp [RowKit.intOf]; omega
        · obtain rfl : Q = 643518 := by
            have h1 := hn.out
            obtain rfl : n = 51 := by omega
            rw [h1.2.2, ss_med]; rfl
          clear hn HLE p0 p1 q0 q1
          go_wp2_with fail
          go_loopw [6, 8] (fun s i wr2 => ∃ (n : Nat) (P Q : Int), Hid (n ≤ 11172 ∧ P = 44032 + (n : Int) ∧ Q = 643518 + ((ss 44032 n : Nat) : Int)) ∧ s = .int .i64 Q ∧ i = .int .i64 P ∧ wr2 = wr) (fun _ i _ => 55204 - (RowKit.intOf i).toNat)
          case atStart => exact ⟨0, 44032, 643518, Lib.hid ⟨by omega, rfl, rfl⟩, rfl, rfl, rfl⟩
          case round =>
            obtain ⟨n, P, Q, hn, rfl, rfl, rfl⟩ := hrel
            have hle := ss_le 44032 n (by have := hn.out; omega)
            have q0 : 0 ≤ Q := by have := hn.out; omega
            have q1 : Q ≤ 2000000000 := by have := hn.out; omega
            have p0 : 0 ≤ P := by have := hn.out; omega
            have p1 : P ≤ 55204 := by have := hn.out; omega
            have HLE := Lib.hid hle
            clear hle
            by_cases hp : P ≤ 55203
            · have ws : IntKind.i64.wrap (Q + P) = Q + P := wrap64 (by omega) (by omega)
              go_wp2_with fail
              go_roundw
              case rel => exact ⟨n + 1, P + 1, Q + P, Lib.hid ⟨by have := hn.out; omega, by have := hn.out; omega, by have := hn.out; unfold ss; omega⟩, rfl, (by first | exact ⟨rfl, rfl⟩ | trivial)⟩
              case measure => simp [RowKit.intOf]; omega
            · obtain rfl : Q = 554970228 := by
                have h1 := hn.out
                obtain rfl : n = 11172 := by omega
                rw [h1.2.2, ss_syl]; rfl
              clear hn HLE p0 p1 q0 q1
              have KR := Lib.hid (HK.out.below HB2.out HK.out.lt)
              go_wp2_with (go_at_call 9; refine (HA.out _ KR.out).mono ?_; rintro e5 w5 ⟨rfl, hb5⟩; have HB5 := Lib.hid (HB2.out.trans (hb5.mono HB2.out.size)); clear hb5)
              go_ret
              exact ⟨rfl, HB5.out⟩
end Go.Proofs.YtiamabeapomabaaDoor.jo
