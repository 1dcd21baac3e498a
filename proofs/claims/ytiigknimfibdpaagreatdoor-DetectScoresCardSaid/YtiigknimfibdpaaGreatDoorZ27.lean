/- Several texts in one. -/
import Derived.Test.YtiigknimfibdpaaGreatDoorWl3
import Derived.Test.YtiigknimfibdpaaGreatDoorZ24
import Derived.Test.YtiigknimfibdpaaGreatDoorOctA
import Derived.Lib.OthersKept
namespace Go.Proofs.YtiigknimfibdpaaGreatDoor.wa
open Go.RowKit Go.Lib
set_option linter.unusedVariables false
theorem kth_range {k : Nat} (h : k < 2350) : 44032 ≤ kth k true ∧ kth k true ≤ 55203 := by
  obtain ⟨x, y, z, _, _, _, _, _, _, c0, c1⟩ := mem_bytes h
  exact ⟨c0, c1⟩
set_option maxRecDepth 100000 in
set_option maxHeartbeats 2000000 in
theorem extraC_any (h : Nat) (k : Int) (b : Nat) (w : World) (hh : h < 2350) (hb : b < w.heap.size) (hc : w.cell? ⟨b, 0, none⟩ = some (.int .i64 k)) (hT : pt.Tabs w) :
    Calls Tryz.prog 208 (#[.int .i64 h] ++ #[.pointer (some ⟨b, 0, none⟩)]) w fun e w' => e = .returned (.bool (decide (k < ((kth h true : Nat) : Int) - 44032 - (h : Int)))) ∧ Below w.heap.size w w' := by
  have HM := Lib.hid (fun w2 h2 => member_any h w2 hh h2)
  have hr := kth_range hh
  have HA := Lib.hid (fun w2 => ahead_any ((kth h true : Nat) : Int) (h : Int) w2 (by omega) (by omega) (by omega) (by omega))
  generalize ((kth h true : Nat) : Int) - 44032 - (h : Int) = R at *
  generalize ((kth h true : Nat) : Int) = M at *
  have HT := Lib.hid hT
  show Calls Tryz.prog 208 #[.int .i64 h, .pointer (some ⟨b, 0, none⟩)] w _
  clear hh hT hr
  go_enter Tryz.func208, Tryz.ntmps208
  go_wp2_with fail
  go_region_held3 (fun w' => w'.cell? ⟨b, 0, none⟩ = some (.int .i64 k)) (go_keep) (first | (go_at_call 164; refine (HA.out _).mono ?_; rintro e2 w2 ⟨rfl, rfl⟩) | (go_at_call 163; refine (HM.out _ (HT.out.below ((Below.refl _ _).drew))).mono ?_; rintro e1 w1 ⟨rfl, hb1⟩; have y1 := (hb1.cell (p := ⟨b, 0, none⟩) hb).trans hc; have HB := Lib.hid hb1; clear hb1))
  all_goals go_wp2_with fail
  all_goals go_ret
  all_goals exact ⟨rfl, ((Below.refl _ w).drew).trans HB.out⟩
set_option maxRecDepth 100000 in
set_option maxHeartbeats 2000000 in
theorem place_any (k : Int) (w : World) (hT : pt.Tabs w) (h0 : -9223372036854775808 ≤ k) (h1 : k ≤ 9223372036854775807) : Calls Tryz.prog 137 #[.int .i64 k] w fun e w' => e = .returned (plV k true) ∧ Below w.heap.size w w' := by
  unfold plV
  by_cases hk : 0 ≤ k ∧ k < 2350
  · obtain ⟨n, rfl⟩ : ∃ n : Nat, k = (n : Int) := ⟨k.toNat, by omega⟩
    have hn : n < 2350 := by omega
    have hp := plI_some (b := true) (k := n) hn
    rw [hp.1]
    have hz : (((kth n true : Nat) : Int) != 0) = true := by rw [bne, beq_eq_false_iff_ne.2 hp.2]; rfl
    rw [hz]
    have HB := Lib.hid (fun w2 => below_yes (n : Int) 2350 w2 (by omega) (by omega))
    have HM := Lib.hid (fun w2 h2 => member_any n w2 hn h2)
    generalize ((kth n true : Nat) : Int) = M at *
    have HT := Lib.hid hT
    clear hz hp hT hn hk
    go_enter Tryz.func137, Tryz.ntmps137
    go_wp2_with (first | (go_at_call 177; refine (HB.out _).mono ?_; rintro e1 w1 ⟨rfl, rfl⟩) | (go_at_call 163; refine (HM.out _ HT.out).mono ?_; rintro e2 w2 ⟨rfl, hb2⟩; have B2 := Lib.hid hb2; clear hb2))
    go_ret2
    exact ⟨rfl, B2.out⟩
  · rw [plI_none (by have e : tot true = 2350 := rfl; omega)]
    have HB := Lib.hid (fun w2 => below_no k 2350 w2 (by omega))
    clear hk hT
    go_enter Tryz.func137, Tryz.ntmps137
    go_wp2_with (go_at_call 177; refine (HB.out _).mono ?_; rintro e1 w1 ⟨rfl, rfl⟩)
    go_ret2
    exact ⟨rfl, Below.refl _ _⟩
/-- The search that Rank does. -/
theorem rankFind (n : Nat) (w : World) (hn : n < 11172) (hT : pt.Tabs w) (b : Nat) (hb : b < w.heap.size) (hc : w.cell? ⟨b, 0, none⟩ = some (.int .i32 (44032 + (n : Int)))) :
    Calls Tryz.prog 156 #[.int .i64 2350, .func (.func 161) #[] #[.pointer (some ⟨b, 0, none⟩)]] w fun e w' => e = .returned (.tuple #[.int .i64 ((rk true n : Nat) : Int), .bool (inB n)]) ∧ Below w.heap.size w w' := by
  have eg : ∀ args w, (callFunc 161 args).run Tryz.prog w = .ok (.enter 161 args) w := enters_of Tryz.func161 (by kernel_rfl) rfl
  have hcon := sortFind_any 161 #[.pointer (some ⟨b, 0, none⟩)] (fun h => cm3 (44032 + (n : Int)) ((kth h true : Nat) : Int)) 2350 w (by omega) eg
    (fun W hW h hh => (rankC_any h _ b W hh (Nat.lt_of_lt_of_le hb hW.size) ((hW.cell (p := ⟨b, 0, none⟩) hb).trans hc) (hT.below hW)).mono fun e w' q => ⟨q.1, hW.trans (q.2.mono hW.size)⟩)
    (fun i j hij hj hi => by
      by_cases he : i = j
      · rw [← he]; exact hi
      · obtain ⟨m, m1, m2, m3, m4, _⟩ := memC_kth (k := i) (by omega)
        obtain ⟨m', n1, n2, n3, n4, _⟩ := memC_kth (k := j) hj
        have hlt : m < m' := by
          apply Classical.byContradiction
          intro hge
          have := rk_mono true m' (m - m')
          rw [show m' + (m - m') = m by omega] at this
          omega
        have h1 : ¬ (((kth i true : Nat) : Int) < 44032 + (n : Int)) := fun h => by have := cm3_neg.2 h; omega
        have h2 : ¬ (0 < cm3 (44032 + (n : Int)) ((kth j true : Nat) : Int)) := fun h => by have := cm3_neg.1 h; omega
        omega)
  refine hcon.mono ?_
  rintro e w' ⟨i, h1, h2, h3, rfl, h5⟩
  have hf := find_rank hn h1 (fun j hj => by have := cm3_neg.1 (h2 j hj); omega) (fun j hj hj2 => by
    have h4 : ¬ (0 < cm3 (44032 + (n : Int)) ((kth j true : Nat) : Int)) := fun h => by have := h3 j hj hj2; omega
    apply Classical.byContradiction
    intro h6
    exact h4 (cm3_neg.2 (by omega)))
  refine ⟨?_, h5⟩
  have hd : decide (i < 2350 ∧ cm3 (44032 + (n : Int)) ((kth i true : Nat) : Int) = 0) = inB n := by
    rw [Bool.eq_iff_iff, decide_eq_true_iff, ← hf.2, cm3_zero]
    constructor
    · rintro ⟨a, b⟩; exact ⟨a, by omega⟩
    · rintro ⟨a, b⟩; exact ⟨a, by omega⟩
  rw [hd, ← hf.1]
set_option maxRecDepth 100000 in
set_option maxHeartbeats 2000000 in
theorem rank_syl (n : Nat) (w : World) (hT : pt.Tabs w) (hn : n < 11172) : Calls Tryz.prog 121 #[.int .i32 (44032 + (n : Int))] w fun e w' => e = .returned (.tuple #[.int .i64 ((rk (inB n) n : Nat) : Int), .bool (inB n), .bool true]) ∧ Below w.heap.size w w' := by
  obtain ⟨p, hp⟩ : ∃ p : Int, p = 44032 + (n : Int) := ⟨_, rfl⟩
  have HF : Hid (Calls Tryz.prog 156 #[.int .i64 2350, .func (.func 161) #[] #[.pointer (some ⟨w.heap.size, 0, none⟩)]] (w.alloc (.cells #[.int .i32 p] 21)) fun e w' => e = .returned (.tuple #[.int .i64 ((rk true n : Nat) : Int), .bool (inB n)]) ∧ Below w.heap.size w w' ∧ w'.cell? ⟨w.heap.size, 0, none⟩ = some (.int .i32 p)) := Lib.hid (by
    refine (rankFind n _ hn (hT.below ((Below.refl _ w).alloc (Nat.le_refl _) _)) w.heap.size (by simp) (by simp [hp])).mono ?_
    rintro e w' ⟨h1, h2⟩
    refine ⟨h1, ((Below.refl _ w).alloc (Nat.le_refl _) _).trans (h2.mono (by simp)), ?_⟩
    exact (h2.cell (p := ⟨w.heap.size, 0, none⟩) (by simp)).trans (by simp))
  have g0 : 44032 ≤ p := by omega
  have g1 : p ≤ 55203 := by omega
  have hsum : rk true n + rk false n = n := cn_both 0 n
  have hle := rk_le true n
  rw [← hp]
  cases hb : inB n with
  | true =>
    rw [hb] at HF
    generalize ((rk true n : Nat) : Int) = R at *
    clear hT hn hp hsum hle hb
    go_enter Tryz.func121, Tryz.ntmps121
    go_wp2_with (go_at_call 156; refine (HF.out).mono ?_; rintro e2 w2 ⟨rfl, hb2, hc2⟩; have B2 := Lib.hid hb2; clear hb2)
    go_ret3
    exact ⟨rfl, B2.out⟩
  | false =>
    rw [hb] at HF
    have hle2 : rk true n ≤ 2350 := by
      have h1 := rk_mono true n (11172 - n)
      rw [show n + (11172 - n) = 11172 by omega] at h1
      have h2 := tot_in
      omega
    have HA : Hid (∀ w2, Calls Tryz.prog 164 #[.int .i32 p, .int .i64 ((rk true n : Nat) : Int)] w2 fun e w' => e = .returned (.int .i64 ((rk false n : Nat) : Int)) ∧ w2 = w') := Lib.hid (fun w2 => by
      have := ahead_any p ((rk true n : Nat) : Int) w2 g0 g1 (by omega) (by omega)
      rw [show p - 44032 - ((rk true n : Nat) : Int) = ((rk false n : Nat) : Int) by omega] at this
      exact this)
    generalize ((rk true n : Nat) : Int) = R at *
    generalize ((rk false n : Nat) : Int) = R2 at *
    clear hT hn hp hsum hle hb hle2
    go_enter Tryz.func121, Tryz.ntmps121
    go_wp2_with (first | (go_at_call 156; refine (HF.out).mono ?_; rintro e2 w2 ⟨rfl, hb2, hc2⟩; have B2 := Lib.hid hb2; clear hb2) | (go_at_call 164; refine (HA.out _).mono ?_; rintro e3 w3 ⟨rfl, rfl⟩))
    go_ret3
    exact ⟨rfl, B2.out⟩
end Go.Proofs.YtiigknimfibdpaaGreatDoor.wa
namespace Go.Proofs.YtiigknimfibdpaaGreatDoor.wa
open Go.RowKit Go.Lib
set_option linter.unusedVariables false
theorem or_int (x y : Int) (i : Nat) (hx : 0 ≤ x) (hm : x % 2 ^ i = 0) (hx1 : x < 2147483648) (hy : 0 ≤ y) (hy1 : y < 2 ^ i) (hy2 : y < 2147483648) : bits .or .i64 x y = x + y :=
  bits_join .i64 31 (by decide) (fun n a b => wrap64 (by omega) (by omega)) i x y hx hm (by omega) hy hy1 (by omega)
theorem rankL_any (p : Int) (w : World) (hT : pt.Tabs w) (h0 : -2147483648 ≤ p) (h1 : p ≤ 2147483647) : Calls Tryz.prog 121 #[.int .i32 p] w fun e w' => e = .returned (rkV p) ∧ Below w.heap.size w w' := by
  unfold rkV
  by_cases h : 44032 ≤ p ∧ p ≤ 55203
  · rw [if_pos h]
    obtain ⟨n, rfl⟩ : ∃ n : Nat, p = 44032 + (n : Int) := ⟨(p - 44032).toNat, by omega⟩
    rw [show (44032 + (n : Int) - 44032).toNat = n by omega]
    exact rank_syl n w hT (by omega)
  · rw [if_neg h]
    have hc : p < 44032 ∨ (44032 ≤ p ∧ 55203 < p) := by omega
    clear h hT h0 h1
    rcases hc with h | ⟨h, h'⟩
    all_goals
      go_enter Tryz.func121, Tryz.ntmps121
      go_wp2_with fail
      go_ret3
      exact ⟨rfl, (Below.refl _ w).alloc (Nat.le_refl _) _⟩
/-- The search that Extra does. -/
theorem extraFind (k : Nat) (w : World) (hk : k < 8822) (hT : pt.Tabs w) (b : Nat) (hb : b < w.heap.size) (hc : w.cell? ⟨b, 0, none⟩ = some (.int .i64 (k : Int))) :
    Calls Tryz.prog 207 #[.int .i64 2350, .func (.func 208) #[] #[.pointer (some ⟨b, 0, none⟩)]] w fun e w' => ∃ i : Nat, i ≤ 2350 ∧ kth k false = 44032 + k + i ∧ e = .returned (.int .i64 (i : Int)) ∧ Below w.heap.size w w' := by
  have eg : ∀ args w, (callFunc 208 args).run Tryz.prog w = .ok (.enter 208 args) w := enters_of Tryz.func208 (by kernel_rfl) rfl
  have hcon := sortSearch_any 208 #[.pointer (some ⟨b, 0, none⟩)] (fun h => decide ((k : Int) < ((kth h true : Nat) : Int) - 44032 - (h : Int))) 2350 w (by omega) eg
    (fun W hW h hh => (extraC_any h _ b W hh (Nat.lt_of_lt_of_le hb hW.size) ((hW.cell (p := ⟨b, 0, none⟩) hb).trans hc) (hT.below hW)).mono fun e w' q => ⟨q.1, hW.trans (q.2.mono hW.size)⟩)
    (fun i j hij hj hi => by
      simp only [decide_eq_true_eq] at hi ⊢
      obtain ⟨m, m1, m2, m3, m4, _⟩ := memC_kth (k := i) (by omega)
      obtain ⟨m', n1, n2, n3, n4, _⟩ := memC_kth (k := j) hj
      have s1 : rk true m + rk false m = m := cn_both 0 m
      have s2 : rk true m' + rk false m' = m' := cn_both 0 m'
      have hle : m ≤ m' := by
        apply Classical.byContradiction
        intro hge
        have := rk_step (a := m') (b := m) (by omega) n2
        omega
      have := rk_mono false m (m' - m)
      rw [show m + (m' - m) = m' by omega] at this
      omega)
  refine hcon.mono ?_
  rintro e w' ⟨i, h1, h2, h3, rfl, h5⟩
  refine ⟨i, h1, search_extra hk h1 (fun j hj => ?_) (fun j hj hj2 => ?_), rfl, h5⟩
  · have h6 : decide ((k : Int) < ((kth j true : Nat) : Int) - 44032 - (j : Int)) = false := h2 j hj
    rw [decide_eq_false_iff_not] at h6
    omega
  · have h6 : decide ((k : Int) < ((kth j true : Nat) : Int) - 44032 - (j : Int)) = true := h3 j hj hj2
    rw [decide_eq_true_iff] at h6
    omega
set_option maxRecDepth 100000 in
set_option maxHeartbeats 2000000 in
theorem extra_any (k : Int) (w : World) (hT : pt.Tabs w) (h0 : -9223372036854775808 ≤ k) (h1 : k ≤ 9223372036854775807) : Calls Tryz.prog 176 #[.int .i64 k] w fun e w' => e = .returned (plV k false) ∧ Below w.heap.size w w' := by
  unfold plV
  by_cases hk : 0 ≤ k ∧ k < 8822
  · obtain ⟨n, rfl⟩ : ∃ n : Nat, k = (n : Int) := ⟨k.toNat, by omega⟩
    have hn : n < 8822 := by omega
    have hp := plI_some (b := false) (k := n) hn
    rw [hp.1]
    have hz : (((kth n false : Nat) : Int) != 0) = true := by rw [bne, beq_eq_false_iff_ne.2 hp.2]; rfl
    rw [hz]
    have HB := Lib.hid (fun w2 => below_yes (n : Int) 8822 w2 (by omega) (by omega))
    have HF : Hid (Calls Tryz.prog 207 #[.int .i64 2350, .func (.func 208) #[] #[.pointer (some ⟨w.heap.size, 0, none⟩)]] (w.alloc (.cells #[.int .i64 (n : Int)] 3)) fun e w' => ∃ i : Nat, i ≤ 2350 ∧ kth n false = 44032 + n + i ∧ e = .returned (.int .i64 (i : Int)) ∧ Below w.heap.size w w' ∧ w'.cell? ⟨w.heap.size, 0, none⟩ = some (.int .i64 (n : Int))) := Lib.hid (by
      refine (extraFind n _ hn (hT.below ((Below.refl _ w).alloc (Nat.le_refl _) _)) w.heap.size (by simp) (by simp)).mono ?_
      rintro e w' ⟨i, h1, h2, h3, h4⟩
      refine ⟨i, h1, h2, h3, ((Below.refl _ w).alloc (Nat.le_refl _) _).trans (h4.mono (by simp)), ?_⟩
      exact (h4.cell (p := ⟨w.heap.size, 0, none⟩) (by simp)).trans (by simp))
    have n0 : (0 : Int) ≤ (n : Int) := by omega
    have n1 : (n : Int) < 8822 := by omega
    generalize kth n false = M at *
    clear hT hz hp hk h0 h1
    go_enter Tryz.func176, Tryz.ntmps176
    go_wp2_with (first | (go_at_call 177; refine (HB.out _).mono ?_; rintro e1 w1 ⟨rfl, rfl⟩) | (go_at_call 207; refine (HF.out).mono ?_; rintro e2 w2 ⟨i, hi, hM, rfl, hb2, hc2⟩; have B2 := Lib.hid hb2; have MM := Lib.hid hM; have i0 : (0 : Int) ≤ (i : Int) := (by omega); have i1 : (i : Int) ≤ 2350 := (by omega); have x1 : IntKind.i64.wrap (44032 + (n : Int)) = 44032 + (n : Int) := wrap64 (by omega) (by omega); have x2 : IntKind.i64.wrap (44032 + (n : Int) + (i : Int)) = 44032 + (n : Int) + (i : Int) := wrap64 (by omega) (by omega); have x3 : IntKind.i32.wrap (44032 + (n : Int) + (i : Int)) = 44032 + (n : Int) + (i : Int) := wrap32 (by omega) (by omega); clear hb2 hM hi))
    go_ret2
    exact ⟨by have := MM.out; rw [show ((M : Nat) : Int) = 44032 + (n : Int) + (i : Int) by omega]; rfl, B2.out⟩
  · rw [plI_none (by have e : tot false = 8822 := rfl; omega)]
    have HB := Lib.hid (fun w2 => below_no k 8822 w2 (by omega))
    clear hk hT
    go_enter Tryz.func176, Tryz.ntmps176
    go_wp2_with (go_at_call 177; refine (HB.out _).mono ?_; rintro e1 w1 ⟨rfl, rfl⟩)
    go_ret2
    exact ⟨rfl, (Below.refl _ w).alloc (Nat.le_refl _) _⟩
set_option maxRecDepth 100000 in
theorem codePl_any (k : Nat) (w : World) (hk : k < 8836) : Calls Tryz.prog 182 #[.int .i64 k] w fun e w' => e = .returned (.int .i64 (((161 + k / 94) * 256 + (161 + k % 94) : Nat) : Int)) ∧ w = w' := by
  have g0 : (0 : Int) ≤ (k : Int) := by omega
  have g1 : (k : Int) < 8836 := by omega
  obtain ⟨a, ha⟩ : ∃ a : Int, a = (k : Int) / 94 := ⟨_, rfl⟩
  obtain ⟨b, hb⟩ : ∃ b : Int, b = (k : Int) % 94 := ⟨_, rfl⟩
  have o := or_int ((161 + a) * 256) (161 + b) 8 (by omega) (by omega) (by omega) (by omega) (by omega) (by omega)
  have HX : Hid ((((161 + k / 94) * 256 + (161 + k % 94) : Nat) : Int) = (161 + a) * 256 + (161 + b)) := Lib.hid (by omega)
  have a0 : 0 ≤ a := by omega
  have a1 : a < 94 := by omega
  have b0 : 0 ≤ b := by omega
  have b1 : b < 94 := by omega
  have ea : (k : Int) / 94 = a := ha.symm
  have eb : (k : Int) % 94 = b := hb.symm
  clear ha hb
  go_enter Tryz.func182, Tryz.ntmps182
  go_wp2
  go_ret
  exact ⟨rInt HX.out.symm, rfl⟩
set_option maxRecDepth 100000 in
theorem codeEx_lo (k : Nat) (w : World) (hk : k < 5696) : Calls Tryz.prog 183 #[.int .i64 k] w fun e w' => e = .returned (.int .i64 (((k / 178 + 129) * 256 + secB (k % 178) : Nat) : Int)) ∧ w = w' := by
  have g0 : (0 : Int) ≤ (k : Int) := by omega
  have g1 : (k : Int) < 5696 := by omega
  have HS := Lib.hid (fun w2 => secB_I (k % 178) w2 (by omega))
  rw [show ((k % 178 : Nat) : Int) = (k : Int) % 178 by omega] at HS
  have hs := sec_le (t := k % 178) (by omega)
  obtain ⟨a, ha⟩ : ∃ a : Int, a = (k : Int) / 178 := ⟨_, rfl⟩
  obtain ⟨b, hb⟩ : ∃ b : Int, b = (k : Int) % 178 := ⟨_, rfl⟩
  rw [← hb] at HS
  obtain ⟨c, hc⟩ : ∃ c : Int, c = ((secB (k % 178) : Nat) : Int) := ⟨_, rfl⟩
  have c0 : 0 ≤ c := by omega
  have c1 : c < 256 := by omega
  have a0 : 0 ≤ a := by omega
  have a1 : a < 32 := by omega
  have o := or_int ((129 + a) * 256) c 8 (by omega) (by omega) (by omega) (by omega) (by omega) (by omega)
  have HX : Hid ((((k / 178 + 129) * 256 + secB (k % 178) : Nat) : Int) = (129 + a) * 256 + c) := Lib.hid (by omega)
  rw [← hc] at HS
  have b0 : 0 ≤ b := by omega
  have b1 : b < 178 := by omega
  have ea : (k : Int) / 178 = a := ha.symm
  have eb : (k : Int) % 178 = b := hb.symm
  clear ha hb hc hs
  go_enter Tryz.func183, Tryz.ntmps183
  go_wp2_with (go_at_call 210; refine (HS.out _).mono ?_; rintro e1 w1 ⟨rfl, rfl⟩)
  go_ret
  exact ⟨rInt HX.out.symm, rfl⟩
set_option maxRecDepth 100000 in
theorem codeEx_hi (k : Nat) (w : World) (h5 : 5696 ≤ k) (hk : k < 8822) : Calls Tryz.prog 183 #[.int .i64 k] w fun e w' => e = .returned (.int .i64 ((((k - 5696) / 84 + 161) * 256 + secB ((k - 5696) % 84) : Nat) : Int)) ∧ w = w' := by
  obtain ⟨q, rfl⟩ : ∃ q, k = 5696 + q := ⟨k - 5696, by omega⟩
  rw [Nat.add_sub_cancel_left]
  have g0 : (0 : Int) ≤ (q : Int) := by omega
  have g1 : (q : Int) < 3126 := by omega
  have HS := Lib.hid (fun w2 => secB_I (q % 84) w2 (by omega))
  rw [show ((q % 84 : Nat) : Int) = (q : Int) % 84 by omega] at HS
  have hs := sec_le (t := q % 84) (by omega)
  obtain ⟨a, ha⟩ : ∃ a : Int, a = (q : Int) / 84 := ⟨_, rfl⟩
  obtain ⟨b, hb⟩ : ∃ b : Int, b = (q : Int) % 84 := ⟨_, rfl⟩
  rw [← hb] at HS
  obtain ⟨c, hc⟩ : ∃ c : Int, c = ((secB (q % 84) : Nat) : Int) := ⟨_, rfl⟩
  have c0 : 0 ≤ c := by omega
  have c1 : c < 256 := by omega
  have a0 : 0 ≤ a := by omega
  have a1 : a < 38 := by omega
  have o := or_int ((161 + a) * 256) c 8 (by omega) (by omega) (by omega) (by omega) (by omega) (by omega)
  have HX : Hid ((((q / 84 + 161) * 256 + secB (q % 84) : Nat) : Int) = (161 + a) * 256 + c) := Lib.hid (by omega)
  rw [← hc] at HS
  have b0 : 0 ≤ b := by omega
  have b1 : b < 84 := by omega
  have ea : (q : Int) / 84 = a := ha.symm
  have eb : (q : Int) % 84 = b := hb.symm
  clear ha hb hc hs hk h5
  obtain ⟨z, hz⟩ : ∃ z : Int, z = ((5696 + q : Nat) : Int) := ⟨_, rfl⟩
  have ez : IntKind.i64.wrap (z - 5696) = (q : Int) := by rw [wrap64 (by omega) (by omega)]; omega
  have z0 : 5696 ≤ z := by omega
  have z1 : z < 8822 := by omega
  rw [← hz]
  clear hz
  go_enter Tryz.func183, Tryz.ntmps183
  go_wp2_with (go_at_call 210; refine (HS.out _).mono ?_; rintro e1 w1 ⟨rfl, rfl⟩)
  go_ret
  exact ⟨rInt HX.out.symm, rfl⟩
end Go.Proofs.YtiigknimfibdpaaGreatDoor.wa
namespace Go.Proofs.YtiigknimfibdpaaGreatDoor.wa
open Go.RowKit Go.Lib
set_option linter.unusedVariables false
theorem big_two (c : Nat) (w : World) (h : c < 65536) : Calls Tryz.prog 133 #[.int .u64 (c : Int), .int .i64 2] w fun e w' => e = .returned (.string (two c)) ∧ Below w.heap.size w w' := by
  have h2 := oct.big_any c 2 2 w (by omega) (by omega) rfl (by omega)
  have e : (⟨(oct.bigL 256 2 c).toArray⟩ : ByteArray) = two c := by
    unfold two
    simp [oct.bigL]
  rw [e] at h2
  exact h2
/-- The code of a syllable. -/
theorem codeOf_syl (n : Nat) (w : World) (hT : pt.Tabs w) (hn : n < 11172) : Calls Tryz.prog 140 #[.int .i32 (44032 + (n : Int))] w fun e w' => e = .returned (.tuple #[.int .i64 ((byS n : Nat) : Int), .bool true]) ∧ Below w.heap.size w w' := by
  have HR := Lib.hid (rank_syl n w hT hn)
  unfold byS
  cases hb : inB n with
  | true =>
    rw [hb] at HR
    have hl := rk_lt hn hb
    have e : tot true = 2350 := rfl
    rw [if_pos rfl]
    have HC : Hid (∀ w2, Calls Tryz.prog 182 #[.int .i64 (1410 + ((rk true n : Nat) : Int))] w2 fun e w' => e = .returned (.int .i64 (((rk true n / 94 + 176) * 256 + (rk true n % 94 + 161) : Nat) : Int)) ∧ w2 = w') := Lib.hid (fun w2 => by
      have := codePl_any (1410 + rk true n) w2 (by omega)
      rw [show ((1410 + rk true n : Nat) : Int) = 1410 + ((rk true n : Nat) : Int) by omega, show (161 + (1410 + rk true n) / 94) * 256 + (161 + (1410 + rk true n) % 94) = (rk true n / 94 + 176) * 256 + (rk true n % 94 + 161) by omega] at this
      exact this)
    have g0 : 0 ≤ ((rk true n : Nat) : Int) := by omega
    have g1 : ((rk true n : Nat) : Int) < 2350 := by omega
    generalize (((rk true n / 94 + 176) * 256 + (rk true n % 94 + 161) : Nat) : Int) = C at *
    generalize ((rk true n : Nat) : Int) = R at *
    generalize 44032 + (n : Int) = p at *
    clear hT hb hl e
    go_enter Tryz.func140, Tryz.ntmps140
    go_wp2_with (first | (go_at_call 121; refine (HR.out).mono ?_; rintro e1 w1 ⟨rfl, hb1⟩; have B1 := Lib.hid hb1; clear hb1) | (go_at_call 182; refine (HC.out _).mono ?_; rintro e2 w2 ⟨rfl, rfl⟩))
    go_ret2
    exact ⟨rfl, B1.out⟩
  | false =>
    rw [hb] at HR
    have hl := rk_lt hn hb
    have e : tot false = 8822 := rfl
    rw [if_neg (by simp)]
    have HC : Hid (∀ w2, Calls Tryz.prog 183 #[.int .i64 ((rk false n : Nat) : Int)] w2 fun e w' => e = .returned (.int .i64 (((if rk false n < 5696 then (rk false n / 178 + 129) * 256 + secB (rk false n % 178) else ((rk false n - 5696) / 84 + 161) * 256 + secB ((rk false n - 5696) % 84)) : Nat) : Int)) ∧ w2 = w') := Lib.hid (fun w2 => by
      by_cases h : rk false n < 5696
      · rw [if_pos h]; exact codeEx_lo _ w2 h
      · rw [if_neg h]; exact codeEx_hi _ w2 (by omega) (by omega))
    generalize (((if rk false n < 5696 then (rk false n / 178 + 129) * 256 + secB (rk false n % 178) else ((rk false n - 5696) / 84 + 161) * 256 + secB ((rk false n - 5696) % 84)) : Nat) : Int) = C at *
    generalize ((rk false n : Nat) : Int) = R at *
    generalize 44032 + (n : Int) = p at *
    clear hT hb hl e
    go_enter Tryz.func140, Tryz.ntmps140
    go_wp2_with (first | (go_at_call 121; refine (HR.out).mono ?_; rintro e1 w1 ⟨rfl, hb1⟩; have B1 := Lib.hid hb1; clear hb1) | (go_at_call 183; refine (HC.out _).mono ?_; rintro e2 w2 ⟨rfl, rfl⟩))
    go_ret2
    exact ⟨rfl, B1.out⟩
theorem bytesL_syl (n : Nat) (w : World) (hT : pt.Tabs w) (hn : n < 11172) : Calls Tryz.prog 99 #[.int .i32 (44032 + (n : Int))] w fun e w' => e = .returned (.tuple #[.string (two (byS n)), .bool true]) ∧ Below w.heap.size w w' := by
  have HC := Lib.hid (codeOf_syl n w hT hn)
  have hs := (sg_byS hn).1
  have HB := Lib.hid (fun w2 => big_two (byS n) w2 hs)
  have g0 : 0 ≤ ((byS n : Nat) : Int) := by omega
  have g1 : ((byS n : Nat) : Int) < 65536 := by omega
  have e1 : IntKind.u64.wrap ((byS n : Nat) : Int) = ((byS n : Nat) : Int) := by simp [IntKind.wrap, IntKind.bits, IntKind.signed]; omega
  generalize two (byS n) = T at *
  generalize ((byS n : Nat) : Int) = C at *
  generalize 44032 + (n : Int) = p at *
  clear hs hT
  go_enter Tryz.func99, Tryz.ntmps99
  go_wp2_with (first | (go_at_call 140; refine (HC.out).mono ?_; rintro e1 w1 ⟨rfl, hb1⟩; have B1 := Lib.hid hb1; clear hb1) | (go_at_call 133; refine (HB.out _).mono ?_; rintro e2 w2 ⟨rfl, hb2⟩; have B2 := Lib.hid (B1.out.trans (hb2.mono B1.out.size)); clear hb2))
  go_ret2
  exact ⟨rfl, B2.out⟩
theorem inRows_yes (l b : Nat) (w : World) (l0 : 161 ≤ l) (l1 : l ≤ 254) (b0 : 161 ≤ b) (b1 : b ≤ 254) : Calls Tryz.prog 135 #[.int .u8 l, .int .u8 b] w fun e w' => e = .returned (.bool true) ∧ w = w' := by
  have g0 : (161 : Int) ≤ (l : Int) := by omega
  have g1 : (l : Int) ≤ 254 := by omega
  have g2 : (161 : Int) ≤ (b : Int) := by omega
  have g3 : (b : Int) ≤ 254 := by omega
  clear l0 l1 b0 b1
  go_enter Tryz.func135, Tryz.ntmps135
  go_wp2
  go_ret
  exact ⟨rfl, rfl⟩
theorem placeOf_any (l b : Nat) (w : World) (l0 : 161 ≤ l) (l1 : l ≤ 254) (b0 : 161 ≤ b) (b1 : b ≤ 254) : Calls Tryz.prog 138 #[.int .u8 l, .int .u8 b] w fun e w' => e = .returned (.int .i64 (((l : Int) - 161) * 94 + ((b : Int) - 161))) ∧ w = w' := by
  have g0 : (161 : Int) ≤ (l : Int) := by omega
  have g1 : (l : Int) ≤ 254 := by omega
  have g2 : (161 : Int) ≤ (b : Int) := by omega
  have g3 : (b : Int) ≤ 254 := by omega
  have e1 : IntKind.u8.wrap ((l : Int) - 161) = (l : Int) - 161 := wrapU8 (by omega) (by omega)
  have e2 : IntKind.u8.wrap ((b : Int) - 161) = (b : Int) - 161 := wrapU8 (by omega) (by omega)
  have e3 : IntKind.i64.wrap ((l : Int) - 161) = (l : Int) - 161 := wrap64 (by omega) (by omega)
  have e4 : IntKind.i64.wrap ((b : Int) - 161) = (b : Int) - 161 := wrap64 (by omega) (by omega)
  have e5 : IntKind.i64.wrap (((l : Int) - 161) * 94) = ((l : Int) - 161) * 94 := wrap64 (by omega) (by omega)
  have e6 : IntKind.i64.wrap (((l : Int) - 161) * 94 + ((b : Int) - 161)) = ((l : Int) - 161) * 94 + ((b : Int) - 161) := wrap64 (by omega) (by omega)
  clear l0 l1 b0 b1
  go_enter Tryz.func138, Tryz.ntmps138
  go_wp2
  go_ret
  exact ⟨rfl, rfl⟩
/-- The sign of two bytes in the rows of syllables. -/
theorem signL_syl (l b : Nat) (w : World) (hT : pt.Tabs w) (l0 : 176 ≤ l) (l1 : l ≤ 200) (b0 : 161 ≤ b) (b1 : b ≤ 254) : Calls Tryz.prog 98 #[.int .u8 l, .int .u8 b] w fun e w' => e = .returned (.tuple #[.int .i32 ((kth ((l - 176) * 94 + (b - 161)) true : Nat) : Int), .bool true]) ∧ Below w.heap.size w w' := by
  obtain ⟨k, hk⟩ : ∃ k, k = (l - 176) * 94 + (b - 161) := ⟨_, rfl⟩
  have hk2 : k < 2350 := by omega
  rw [← hk]
  have hp := plI_some (b := true) (k := k) hk2
  have HP : Hid (∀ w2, pt.Tabs w2 → Calls Tryz.prog 137 #[.int .i64 (((l : Int) - 161) * 94 + ((b : Int) - 161) - 1410)] w2 fun e w' => e = .returned (.tuple #[.int .i32 ((kth k true : Nat) : Int), .bool true]) ∧ Below w2.heap.size w2 w') := Lib.hid (fun w2 h2 => by
    have := place_any (k : Int) w2 h2 (by omega) (by omega)
    unfold plV at this
    rw [hp.1] at this
    have hz : (((kth k true : Nat) : Int) != 0) = true := by rw [bne, beq_eq_false_iff_ne.2 hp.2]; rfl
    rw [hz, show (k : Int) = ((l : Int) - 161) * 94 + ((b : Int) - 161) - 1410 by omega] at this
    exact this)
  have HI := Lib.hid (fun w2 => inRows_yes l b w2 (by omega) (by omega) b0 b1)
  have HO := Lib.hid (fun w2 => placeOf_any l b w2 (by omega) (by omega) b0 b1)
  have HT := Lib.hid hT
  generalize ((kth k true : Nat) : Int) = M at *
  obtain ⟨z, hz⟩ : ∃ z : Int, z = ((l : Int) - 161) * 94 + ((b : Int) - 161) := ⟨_, rfl⟩
  have z0 : 1410 ≤ z := by omega
  have z1 : z < 3760 := by omega
  have ez : IntKind.i64.wrap (z - 1410) = z - 1410 := wrap64 (by omega) (by omega)
  rw [← hz] at HP HO
  clear hT hp hz hk hk2 l0 l1 b0 b1
  go_enter Tryz.func98, Tryz.ntmps98
  go_wp2_with (first | (go_at_call 135; refine (HI.out _).mono ?_; rintro e1 w1 ⟨rfl, rfl⟩) | (go_at_call 138; refine (HO.out _).mono ?_; rintro e2 w2 ⟨rfl, rfl⟩) | (go_at_call 137; refine (HP.out _ HT.out).mono ?_; rintro e3 w3 ⟨rfl, hb3⟩; have B3 := Lib.hid hb3; clear hb3))
  go_ret2
  exact ⟨rfl, B3.out⟩
theorem kth_one : kth 1 true = 44033 := by
  have h2 := awake_sign
  have h3 := sg_in (k := 1) (by omega)
  rw [← h3]; exact h2
theorem byS_last : byS 11171 = 50770 := by
  have h2 := awake_bytes
  unfold byW at h2
  rw [if_pos (by omega)] at h2
  injection h2
theorem aw_land : Aw pt.Tabs where
  stay w w' h hb := h.below hb
  awS w h := by
    have h1 := signL_syl 176 162 w h (by omega) (by omega) (by omega) (by omega)
    have e : (176 - 176) * 94 + (162 - 161) = 1 := rfl
    rw [e, kth_one] at h1
    exact h1
  awB w h := by
    have h1 := bytesL_syl 11171 w h (by omega)
    rw [byS_last, show two 50770 = ⟨#[198, 82]⟩ by decide +kernel] at h1
    exact h1
end Go.Proofs.YtiigknimfibdpaaGreatDoor.wa
namespace Go.Proofs.YtiigknimfibdpaaGreatDoor.wr
open Go.RowKit Go.Lib
open Go.Proofs.YtiigknimfibdpaaGreatDoor.tb
set_option linter.unusedVariables false
/-- The sign of a text that has so many ahead. -/
def saO (zs : List Nat) (A : Int) : Option Nat := if 0 ≤ A then zs[A.toNat]? else none
def opV (o : Option Nat) : Value := match o with
  | some z => .tuple #[.int .i32 (z : Int), .bool true]
  | none => .tuple #[.int .i32 0, .bool false]
theorem saO_past {zs : List Nat} {A : Int} {k : Nat} (h : zs.length ≤ k) (hA : ¬ (0 ≤ A ∧ A < (k : Int))) : saO zs A = none := by
  unfold saO
  by_cases h0 : 0 ≤ A
  · rw [if_pos h0]; exact List.getElem?_eq_none (by omega)
  · rw [if_neg h0]
set_option maxRecDepth 100000 in
set_option maxHeartbeats 2000000 in
theorem signAt_any (s : ByteArray) (zs : List Nat) (A : Int) (w : World) (hs : s.size ≤ 4000000) (hsc : pt.scan s = (zs, none)) (a0 : -1000000 ≤ A) (a1 : A ≤ 1000000) :
    Calls Tryz.prog 179 #[.string s, .int .i64 A] w fun e w' => e = .returned (opV (saO zs A)) ∧ Below w.heap.size w w' := by
  obtain ⟨PP, hPP⟩ : ∃ PP, PP = opV (saO zs A) := ⟨_, rfl⟩
  rw [← hPP]
  have HPP := Lib.hid hPP
  have HZ := Lib.hid hsc
  clear hPP hsc
  go_enter Tryz.func179, Tryz.ntmps179
  go_wp2_with fail
  go_loopw [1] (fun a wr => ∃ (pos f k : Nat), wr.heap[w.heap.size]? = some (.stringIter s pos) ∧ s.size ≤ pos + f ∧ pt.sc s f pos = (zs.drop k, none) ∧ k ≤ pos ∧ pos ≤ s.size ∧ a = .int .i64 (A - (k : Int)) ∧ ¬ (0 ≤ A ∧ A < (k : Int)) ∧ Below w.heap.size w wr) (fun _ wr => s.size - wr.iterPos w.heap.size)
  case atStart =>
    exact ⟨0, s.size, 0, World.iter_heap w s 0, by omega, by rw [List.drop_zero]; exact HZ.out, Nat.le_refl _, Nat.zero_le _, by simp, by omega, (Below.refl _ _).alloc (Nat.le_refl _) _⟩
  case round =>
    obtain ⟨pos, f, k, hit, hf, hsc, hk, hps, rfl, hne, hB⟩ := hrel
    have HIT := Lib.hid hit; have HSC := Lib.hid hsc; have HB := Lib.hid hB; have HNE := Lib.hid hne
    clear hit hsc hB hne
    by_cases hp : pos < s.size
    · have hnx : ∀ ty, (Instr.next (.pointer (some ⟨w.heap.size, 0, none⟩)) true ty).run Tryz.prog wr = _ := fun ty => run_next_any_at wr w.heap.size s pos ty HIT.out hp
      have hB1 : Below w.heap.size w (wr.iterAt w.heap.size s (pos + (Utf8.decode s pos).2)) := below_iterAt HB.out (by omega) s _
      have hI1 := iterAt_heap wr w.heap.size s pos (pos + (Utf8.decode s pos).2) HIT.out
      have hw1 : 1 ≤ (Utf8.decode s pos).2 := width_pos s pos
      have hr32 : (Utf8.decode s pos).1 ≤ 1114111 := rune_le s pos
      obtain ⟨f1, rfl⟩ : ∃ f1, f = f1 + 1 := ⟨f - 1, by omega⟩
      have hsc1 := HSC.out
      have hfit := pt.width_fits s pos hp
      cases hb : pt.bad s pos with
      | true => rw [pt.sc_bad s (f1 + 1) pos hp hf hb] at hsc1; simp at hsc1
      | false =>
        rw [pt.sc_good s f1 pos hp hb] at hsc1
        simp only [Prod.mk.injEq] at hsc1
        obtain ⟨h1, h2⟩ := hsc1
        have hkl : k < zs.length := by
          rcases Nat.lt_or_ge k zs.length with h | h
          · exact h
          · rw [List.drop_eq_nil_of_le h] at h1; cases h1
        rw [List.drop_eq_getElem_cons hkl] at h1
        injection h1 with h3 h4
        have HG : Hid (zs[k]? = some (Utf8.decode s pos).1) := Lib.hid (by rw [List.getElem?_eq_getElem hkl, h3])
        have HS2 : Hid (pt.sc s f1 (pos + (Utf8.decode s pos).2) = (zs.drop (k + 1), none)) := Lib.hid (Prod.ext h4 h2)
        have H1 := Lib.hid hB1; have H5 := Lib.hid hI1
        have hpm : s.size - (pos + (Utf8.decode s pos).2) < s.size - pos := by omega
        have hpf : s.size ≤ pos + (Utf8.decode s pos).2 + f1 := by omega
        clear hB1 hI1 hb h2 h3 h4 hkl
        generalize Utf8.decode s pos = d at *
        by_cases hz : A - (k : Int) = 0
        · have HV : Hid (PP = .tuple #[.int .i32 (d.1 : Int), .bool true]) := Lib.hid (by
            rw [HPP.out]
            unfold saO
            rw [if_pos (by omega), show A.toNat = k by omega, HG.out]
            rfl)
          go_wp2_with fail
          go_ret2
          exact ⟨by rw [HV.out]; rfl, H1.out⟩
        · have e1 : IntKind.i64.wrap (A - (k : Int) - 1) = A - (k : Int) - 1 := by simp [IntKind.wrap, IntKind.bits, IntKind.signed]; omega
          go_wp2_with fail
          go_roundw
          case rel => exact ⟨pos + d.2, f1, k + 1, H5.out, hpf, HS2.out, by omega, hfit, by go_num, by have := HNE.out; omega, H1.out⟩
          case measure => rw [iterPos_of H5.out, iterPos_of HIT.out]; exact hpm
    · have hnx : ∀ ty, (Instr.next (.pointer (some ⟨w.heap.size, 0, none⟩)) true ty).run Tryz.prog wr = _ := fun ty => run_next_end_at wr w.heap.size s pos ty HIT.out hp
      have HV : Hid (PP = .tuple #[.int .i32 0, .bool false]) := Lib.hid (by
        have h := HSC.out
        rw [pt.sc_end s f pos hp] at h
        simp only [Prod.mk.injEq] at h
        have hl : zs.length ≤ k := List.drop_eq_nil_iff.1 h.1.symm
        rw [HPP.out, saO_past hl HNE.out]
        rfl)
      go_wp2_with fail
      go_ret2
      exact ⟨by rw [HV.out]; rfl, HB.out⟩
end Go.Proofs.YtiigknimfibdpaaGreatDoor.wr
namespace Go.Proofs.YtiigknimfibdpaaGreatDoor.wr
open Go.RowKit Go.Lib
open Go.Proofs.YtiigknimfibdpaaGreatDoor.tb
set_option linter.unusedVariables false
theorem scan_t1 : pt.scan t1 = (wa.a1L, none) := by decide +kernel
theorem scan_t2 : pt.scan t2 = (wa.a2L, none) := by decide +kernel
theorem scan_t3 : pt.scan t3 = (wa.a6L, none) := by decide +kernel
/-- The lists, as their codes and signs; the spans, as numbers. -/
def lsZ : List (Nat × List Nat) := [(41377, wa.a1L), (41633, wa.a2L), (42657, wa.a6L)]
def spZ : List (Nat × Nat × Nat) := spP.map fun p => (p.f.toNat, p.t.toNat, p.c.toNat)
def lsS (C : Int) : List (Nat × List Nat) → Option Nat
  | [] => none
  | q :: l => match saO q.2 (C - (q.1 : Int)) with
    | some z => some z
    | none => lsS C l
def spS (C : Int) : List (Nat × Nat × Nat) → Option Nat
  | [] => none
  | q :: l => if (q.1 : Int) ≤ C ∧ C < (q.1 : Int) + (q.2.2 : Int) then some (q.2.1 + (C.toNat - q.1)) else spS C l
/-- What signOfCode finds. -/
def soc (C : Int) : Option Nat := match lsS C lsZ with
  | some z => some z
  | none => spS C spZ
/-- A piece of lists. -/
theorem ls_at (j : Nat) (h : j < 3) : (lsP.getD j p0).f = ((lsZ.getD j (0, [])).1 : Int) ∧ pt.scan (lsP.getD j p0).s = ((lsZ.getD j (0, [])).2, none) ∧ (lsP.getD j p0).s.size ≤ 4000000 ∧ 0 ≤ (lsP.getD j p0).f ∧ (lsP.getD j p0).f ≤ 65535 ∧ lsZ.drop j = lsZ.getD j (0, []) :: lsZ.drop (j + 1) := by
  have h3 : j = 0 ∨ j = 1 ∨ j = 2 := by omega
  rcases h3 with rfl | rfl | rfl
  · exact ⟨rfl, scan_t1, ls_small _ (.head _), by decide, by decide, rfl⟩
  · exact ⟨rfl, scan_t2, ls_small _ (.tail _ (.head _)), by decide, by decide, rfl⟩
  · exact ⟨rfl, scan_t3, ls_small _ (.tail _ (.tail _ (.head _))), by decide, by decide, rfl⟩
theorem sp_nat : ((List.range 19).all fun j => decide ((spP.getD j p0).f = ((spZ.getD j (0, 0, 0)).1 : Int)) && decide ((spP.getD j p0).t = ((spZ.getD j (0, 0, 0)).2.1 : Int)) && decide ((spP.getD j p0).c = ((spZ.getD j (0, 0, 0)).2.2 : Int)) && decide ((spZ.getD j (0, 0, 0)).1 ≤ 65535) && decide ((spZ.getD j (0, 0, 0)).2.1 ≤ 65535) && decide ((spZ.getD j (0, 0, 0)).2.2 ≤ 100)) = true := by decide +kernel
theorem sp_at (j : Nat) (h : j < 19) : (spP.getD j p0).f = ((spZ.getD j (0, 0, 0)).1 : Int) ∧ (spP.getD j p0).t = ((spZ.getD j (0, 0, 0)).2.1 : Int) ∧ (spP.getD j p0).c = ((spZ.getD j (0, 0, 0)).2.2 : Int) ∧ (spZ.getD j (0, 0, 0)).1 ≤ 65535 ∧ (spZ.getD j (0, 0, 0)).2.1 ≤ 65535 ∧ (spZ.getD j (0, 0, 0)).2.2 ≤ 100 := by
  have := List.all_eq_true.1 sp_nat j (List.mem_range.2 h)
  simpa only [Bool.and_eq_true, decide_eq_true_eq, and_assoc] using this
theorem spZ_len : spZ.length = 19 := by decide +kernel
theorem sp_drop (j : Nat) (h : j < 19) : spZ.drop j = spZ.getD j (0, 0, 0) :: spZ.drop (j + 1) := by
  have hl : j < spZ.length := by rw [spZ_len]; exact h
  rw [List.drop_eq_getElem_cons hl]
  congr 1
  simp [List.getD, List.getElem?_eq_getElem hl]
set_option maxRecDepth 100000 in
set_option maxHeartbeats 4000000 in
theorem signOf_any (C : Int) (w : World) (c0 : 0 ≤ C) (c1 : C ≤ 65535) : Calls Tryz.prog 139 #[.int .i64 C] w fun e w' => e = .returned (opV (soc C)) ∧ Below w.heap.size w w' := by
  obtain ⟨PP, hPP⟩ : ∃ PP, PP = opV (soc C) := ⟨_, rfl⟩
  rw [← hPP]
  have HPP := Lib.hid hPP
  have HL := Lib.hid (fun W => lists_any W)
  have HS := Lib.hid (fun W => spans_any W)
  clear hPP
  go_enter Tryz.func139, Tryz.ntmps139
  go_wp2_with (go_at_call 178; refine (HL.out _).mono ?_; rintro e1 w1 ⟨g1, rfl, hr1, hb1⟩; have R1 := Lib.hid hr1; have B1 := Lib.hid hb1; clear hr1 hb1)
  go_loopw [13] (fun i wr => ∃ j : Nat, j ≤ 3 ∧ i = .int .i64 j ∧ lsS C lsZ = lsS C (lsZ.drop j) ∧ RowC wr (some ⟨g1, 0, none⟩) 3 3 lsP ∧ Below w.heap.size w wr) (fun i _ => 3 - (RowKit.intOf i).toNat)
  case atStart => exact ⟨0, by omega, rfl, rfl, R1.out, B1.out⟩
  case round =>
    obtain ⟨j, hj, rfl, hls, hrc, hB⟩ := hrel
    have HLS := Lib.hid hls; have HR := Lib.hid hrc; have HB := Lib.hid hB
    clear hls hrc hB
    by_cases hlt : j < 3
    · obtain ⟨a, ha, _, _, hc, _, _, _⟩ := HR.out.at j hlt
      cases ha
      rw [show (⟨g1, 0, none⟩ : Addr).add (j * 4) = ⟨g1, j * 4, none⟩ by rw [Addr.add_lit, Nat.zero_add]] at hc
      obtain ⟨k0, k1, k2, k3⟩ := hc
      dsimp only at k1 k2 k3
      obtain ⟨f1, f2, f3, f4, f5, f6⟩ := ls_at j hlt
      have HSA := Lib.hid (fun W => signAt_any (lsP.getD j p0).s (lsZ.getD j (0, [])).2 (C - (lsP.getD j p0).f) W f3 f2 (by omega) (by omega))
      have HLN : Hid (lsS C (lsZ.drop j) = match saO (lsZ.getD j (0, [])).2 (C - (lsP.getD j p0).f) with | some z => some z | none => lsS C (lsZ.drop (j + 1))) := Lib.hid (by rw [f6, f1]; rfl)
      have e1 : IntKind.i64.wrap (C - (lsP.getD j p0).f) = C - (lsP.getD j p0).f := wa.wrap64 (by omega) (by omega)
      have HB1 := Lib.hid (HB.out.alloc HB.out.size (.cells #[.int .i64 (lsP.getD j p0).f, .int .i32 (lsP.getD j p0).t, .int .i64 (lsP.getD j p0).c, .string (lsP.getD j p0).s] 139))
      have HR1 := Lib.hid (HR.out.below ((Below.refl wr.heap.size wr).alloc (Nat.le_refl _) (.cells #[.int .i64 (lsP.getD j p0).f, .int .i32 (lsP.getD j p0).t, .int .i64 (lsP.getD j p0).c, .string (lsP.getD j p0).s] 139)))
      clear f1 f2 f3 f6
      generalize lsZ.getD j (0, []) = Z at *
      generalize lsP.getD j p0 = p at *
      cases hs : saO Z.2 (C - p.f) with
      | some z =>
        rw [hs] at HSA HLN
        have HV : Hid (PP = .tuple #[.int .i32 (z : Int), .bool true]) := Lib.hid (by rw [HPP.out]; unfold soc; rw [HLS.out, HLN.out]; rfl)
        unfold opV at HSA
        generalize p.f = F at *
        generalize p.t = T at *
        generalize p.c = D at *
        generalize p.s = S at *
        clear hs
        go_wp2_with (go_at_call 179; refine (HSA.out _).mono ?_; rintro e2 w2 ⟨rfl, hb2⟩; have B2 := Lib.hid (HB1.out.trans (hb2.mono HB1.out.size)); clear hb2)
        go_ret2
        exact ⟨by rw [HV.out]; rfl, B2.out⟩
      | none =>
        rw [hs] at HSA HLN
        unfold opV at HSA
        generalize p.f = F at *
        generalize p.t = T at *
        generalize p.c = D at *
        generalize p.s = S at *
        clear hs
        go_wp2_with (go_at_call 179; refine (HSA.out _).mono ?_; rintro e2 w2 ⟨rfl, hb2⟩; have B2 := Lib.hid (HB1.out.trans (hb2.mono HB1.out.size)); have R2 := Lib.hid (HR1.out.below hb2); clear hb2)
        go_roundw
        case rel => exact ⟨j + 1, by omega, by go_num, by rw [HLS.out, HLN.out], R2.out, B2.out⟩
        case measure => simp [RowKit.intOf]; omega
    · obtain rfl : j = 3 := by omega
      have HPS : Hid (PP = opV (spS C spZ)) := Lib.hid (by rw [HPP.out]; unfold soc; rw [HLS.out]; rfl)
      clear HLS HR hlt
      go_wp2_with (go_at_call 180; refine (HS.out _).mono ?_; rintro e1 w3 ⟨g3, rfl, hr3, hb3⟩; have R3 := Lib.hid hr3; have B3 := Lib.hid (HB.out.trans (hb3.mono HB.out.size)); clear hr3 hb3)
      go_loopw [32] (fun i wr => ∃ j : Nat, j ≤ 19 ∧ i = .int .i64 j ∧ spS C spZ = spS C (spZ.drop j) ∧ RowC wr (some ⟨g3, 0, none⟩) 19 19 spP ∧ Below w.heap.size w wr) (fun i _ => 19 - (RowKit.intOf i).toNat)
      case atStart => exact ⟨0, by omega, rfl, rfl, R3.out, B3.out⟩
      case round =>
        obtain ⟨j, hj, rfl, hls, hrc, hB⟩ := hrel
        have HLS := Lib.hid hls; have HR := Lib.hid hrc; have HBB := Lib.hid hB
        clear hls hrc hB
        by_cases hlt : j < 19
        · obtain ⟨a, ha, _, _, hc, _, _, _⟩ := HR.out.at j hlt
          cases ha
          rw [show (⟨g3, 0, none⟩ : Addr).add (j * 4) = ⟨g3, j * 4, none⟩ by rw [Addr.add_lit, Nat.zero_add]] at hc
          obtain ⟨k0, k1, k2, k3⟩ := hc
          dsimp only at k1 k2 k3
          obtain ⟨f1, f2, f3, f4, f5, f6⟩ := sp_at j hlt
          have HLN : Hid (spS C (spZ.drop j) = if ((spZ.getD j (0, 0, 0)).1 : Int) ≤ C ∧ C < ((spZ.getD j (0, 0, 0)).1 : Int) + ((spZ.getD j (0, 0, 0)).2.2 : Int) then some ((spZ.getD j (0, 0, 0)).2.1 + (C.toNat - (spZ.getD j (0, 0, 0)).1)) else spS C (spZ.drop (j + 1))) := Lib.hid (by rw [sp_drop j hlt]; rfl)
          generalize spZ.getD j (0, 0, 0) = Z at *
          obtain ⟨Zf, Zt, Zc⟩ := Z
          simp only at f1 f2 f3 f4 f5 f6 HLN
          have HB1 := Lib.hid (HBB.out.alloc HBB.out.size (.cells #[.int .i64 (spP.getD j p0).f, .int .i32 (spP.getD j p0).t, .int .i64 (spP.getD j p0).c, .string (spP.getD j p0).s] 139))
          have HR1 := Lib.hid (HR.out.below ((Below.refl wr.heap.size wr).alloc (Nat.le_refl _) (.cells #[.int .i64 (spP.getD j p0).f, .int .i32 (spP.getD j p0).t, .int .i64 (spP.getD j p0).c, .string (spP.getD j p0).s] 139)))
          generalize spP.getD j p0 = p at *
          have q4 : 0 ≤ p.f := by omega
          have q5 : p.f ≤ 65535 := by omega
          have q6 : 0 ≤ p.t := by omega
          have q7 : p.t ≤ 65535 := by omega
          have q8 : 0 ≤ p.c := by omega
          have q9 : p.c ≤ 100 := by omega
          have e1 : IntKind.i64.wrap (C - p.f) = C - p.f := wa.wrap64 (by omega) (by omega)
          by_cases hin : 0 ≤ C - p.f ∧ C - p.f < p.c
          · have HBL := Lib.hid (fun W => wa.below_yes (C - p.f) p.c W hin.1 hin.2)
            have e2 : IntKind.i32.wrap (C - p.f) = C - p.f := wa.wrap32 (by omega) (by omega)
            have e3 : IntKind.i32.wrap (p.t + (C - p.f)) = p.t + (C - p.f) := wa.wrap32 (by omega) (by omega)
            have HV : Hid (PP = .tuple #[.int .i32 (p.t + (C - p.f)), .bool true]) := Lib.hid (by
              rw [HPS.out, HLS.out, HLN.out, if_pos (by omega)]
              show Value.tuple #[.int .i32 ((Zt + (C.toNat - Zf) : Nat) : Int), .bool true] = _
              rw [show ((Zt + (C.toNat - Zf) : Nat) : Int) = p.t + (C - p.f) by omega])
            clear f1 f2 f3 hin HLN
            generalize p.f = F at *
            generalize p.t = T at *
            generalize p.c = D at *
            generalize p.s = S at *
            go_wp2_with (go_at_call 177; refine (HBL.out _).mono ?_; rintro e2 w2 ⟨rfl, rfl⟩)
            go_ret2
            exact ⟨by rw [HV.out]; rfl, HB1.out⟩
          · have HBL := Lib.hid (fun W => wa.below_no (C - p.f) p.c W (by omega))
            have HN : Hid (spS C (spZ.drop j) = spS C (spZ.drop (j + 1))) := Lib.hid (by rw [HLN.out, if_neg (by omega)])
            clear f1 f2 f3 hin HLN
            generalize p.f = F at *
            generalize p.t = T at *
            generalize p.c = D at *
            generalize p.s = S at *
            go_wp2_with (go_at_call 177; refine (HBL.out _).mono ?_; rintro e2 w2 ⟨rfl, rfl⟩)
            go_roundw
            case rel => exact ⟨j + 1, by omega, by go_num, by rw [HLS.out, HN.out], HR1.out, HB1.out⟩
            case measure => simp [RowKit.intOf]; omega
        · obtain rfl : j = 19 := by omega
          have HV : Hid (PP = .tuple #[.int .i32 0, .bool false]) := Lib.hid (by
            rw [HPS.out, HLS.out, List.drop_eq_nil_of_le (Nat.le_of_eq spZ_len)]
            rfl)
          go_wp2_with fail
          go_ret2
          exact ⟨by rw [HV.out]; rfl, HBB.out⟩
end Go.Proofs.YtiigknimfibdpaaGreatDoor.wr
namespace Go.Proofs.YtiigknimfibdpaaGreatDoor.wr
open Go.RowKit Go.Lib
open Go.Proofs.YtiigknimfibdpaaGreatDoor.tb
open Go.Proofs.YtiigknimfibdpaaGreatDoor.wa (rowJ cdJ row sgW sec kth plV plI plI_kth plI_none sgV sgV_pos tot)
set_option linter.unusedVariables false
theorem soc_all : ((List.range 1128).all fun j => soc ((cdJ j : Nat) : Int) == (if rowJ j = 0 then none else some (rowJ j))) = true := by decide +kernel
theorem soc_J {j : Nat} (h : j < 1128) : soc ((cdJ j : Nat) : Int) = if rowJ j = 0 then none else some (rowJ j) := by
  have := List.all_eq_true.1 soc_all j (List.mem_range.2 h)
  simpa using this
theorem ls_ends : (lsZ.all fun q => decide (q.1 + q.2.length ≤ 44289)) = true := by decide +kernel
theorem sp_ends : (spZ.all fun q => decide (q.1 + q.2.2 ≤ 44289)) = true := by decide +kernel
theorem lsS_far (C : Int) (h : 44289 ≤ C) : ∀ l : List (Nat × List Nat), (l.all fun q => decide (q.1 + q.2.length ≤ 44289)) = true → lsS C l = none
  | [], _ => rfl
  | q :: l, hl => by
    simp only [List.all_cons, Bool.and_eq_true, decide_eq_true_eq] at hl
    unfold lsS
    rw [show saO q.2 (C - (q.1 : Int)) = none from saO_past (Nat.le_refl _) (by omega)]
    exact lsS_far C h l hl.2
theorem spS_far (C : Int) (h : 44289 ≤ C) : ∀ l : List (Nat × Nat × Nat), (l.all fun q => decide (q.1 + q.2.2 ≤ 44289)) = true → spS C l = none
  | [], _ => rfl
  | q :: l, hl => by
    simp only [List.all_cons, Bool.and_eq_true, decide_eq_true_eq] at hl
    unfold spS
    rw [if_neg (by omega)]
    exact spS_far C h l hl.2
theorem soc_far {C : Int} (h : 44289 ≤ C) : soc C = none := by
  unfold soc
  rw [lsS_far C h _ ls_ends]
  exact spS_far C h _ sp_ends
theorem soc_row {l b : Nat} (l0 : 161 ≤ l) (l1 : l ≤ 254) (b0 : 161 ≤ b) (b1 : b ≤ 254) : opV (soc ((l * 256 + b : Nat) : Int)) = sgV (row l b) := by
  by_cases h : l ≤ 172
  · obtain ⟨h1, h2⟩ := wa.row_J l0 h b0 b1
    have h3 := soc_J h2
    rw [show cdJ ((l - 161) * 94 + (b - 161)) = l * 256 + b by unfold cdJ; omega] at h3
    rw [h3, h1]
    by_cases hz : rowJ ((l - 161) * 94 + (b - 161)) = 0
    · rw [if_pos hz, hz]; rfl
    · rw [if_neg hz, sgV_pos hz]; rfl
  · rw [soc_far (by omega), wa.row_hi (.inl (by omega))]; rfl
/-- What extraOfBytes answers. -/
def exV (l b : Nat) : Value := match sec b with
  | none => .tuple #[.int .i32 0, .bool false]
  | some t => if l < 129 then .tuple #[.int .i32 0, .bool false] else if l < 161 then plV (((l - 129) * 178 + t : Nat) : Int) false else if t < 84 then plV ((5696 + (l - 161) * 84 + t : Nat) : Int) false else .tuple #[.int .i32 0, .bool false]
theorem sec_lt {b t : Nat} (h : sec b = some t) : t < 178 ∧ (b < 161 ↔ t < 84) := by
  unfold sec at h
  by_cases h1 : 65 ≤ b ∧ b ≤ 90
  · rw [if_pos h1] at h; injection h with h; omega
  · rw [if_neg h1] at h
    by_cases h2 : 97 ≤ b ∧ b ≤ 122
    · rw [if_pos h2] at h; injection h with h; omega
    · rw [if_neg h2] at h
      by_cases h3 : 129 ≤ b ∧ b ≤ 254
      · rw [if_pos h3] at h; injection h with h; omega
      · rw [if_neg h3] at h; cases h
theorem plV_shape (k : Int) (b : Bool) : ∃ (z : Int) (t : Bool), plV k b = .tuple #[.int .i32 z, .bool t] := ⟨_, _, rfl⟩
set_option maxRecDepth 100000 in
set_option maxHeartbeats 2000000 in
theorem extraOf_any (l b : Nat) (w : World) (hT : pt.Tabs w) (hl : l < 256) (hb : b < 256) : Calls Tryz.prog 136 #[.int .u8 l, .int .u8 b] w fun e w' => e = .returned (exV l b) ∧ Below w.heap.size w w' := by
  have HN := Lib.hid (fun W => wa.secnum_any b W hb)
  have g0 : (0 : Int) ≤ (l : Int) := by omega
  have g1 : (l : Int) < 256 := by omega
  have HT := Lib.hid hT
  unfold exV
  unfold wa.snV at HN
  cases hs : sec b with
  | none =>
    rw [hs] at HN
    clear hs hT
    go_enter Tryz.func136, Tryz.ntmps136
    go_wp2_with (go_at_call 175; refine (HN.out _).mono ?_; rintro e1 w1 ⟨rfl, rfl⟩)
    go_ret2
    exact ⟨rfl, Below.refl _ _⟩
  | some t =>
    rw [hs] at HN
    have ht := (sec_lt hs).1
    have t0 : (0 : Int) ≤ (t : Int) := by omega
    have t1 : (t : Int) < 178 := by omega
    clear hs
    show Calls _ _ _ _ fun e w' => e = .returned (if l < 129 then _ else if l < 161 then _ else if t < 84 then _ else _) ∧ _
    by_cases h1 : l < 129
    · rw [if_pos h1]
      have k1 : (l : Int) < 129 := by omega
      clear h1 hT
      go_enter Tryz.func136, Tryz.ntmps136
      go_wp2_with (go_at_call 175; refine (HN.out _).mono ?_; rintro e1 w1 ⟨rfl, rfl⟩)
      go_ret2
      exact ⟨rfl, Below.refl _ _⟩
    · rw [if_neg h1]
      have k1 : ¬ (l : Int) < 129 := by omega
      by_cases h2 : l < 161
      · rw [if_pos h2]
        have k2 : (l : Int) < 161 := by omega
        have HE := Lib.hid (fun W h => wa.extra_any ((((l - 129) * 178 + t : Nat)) : Int) W h (by omega) (by omega))
        rw [show ((((l - 129) * 178 + t : Nat)) : Int) = ((l : Int) - 129) * 178 + (t : Int) by omega] at HE ⊢
        have e1 : IntKind.u8.wrap ((l : Int) - 129) = (l : Int) - 129 := wa.wrapU8 (by omega) (by omega)
        have e2 : IntKind.i64.wrap ((l : Int) - 129) = (l : Int) - 129 := wa.wrap64 (by omega) (by omega)
        have e3 : IntKind.i64.wrap (((l : Int) - 129) * 178) = ((l : Int) - 129) * 178 := wa.wrap64 (by omega) (by omega)
        have e4 : IntKind.i64.wrap (((l : Int) - 129) * 178 + (t : Int)) = ((l : Int) - 129) * 178 + (t : Int) := wa.wrap64 (by omega) (by omega)
        obtain ⟨z, u, hz⟩ := plV_shape (((l : Int) - 129) * 178 + (t : Int)) false
        rw [hz] at HE ⊢
        clear h1 h2 hT hz
        go_enter Tryz.func136, Tryz.ntmps136
        go_wp2_with (first | (go_at_call 175; refine (HN.out _).mono ?_; rintro e1 w1 ⟨rfl, rfl⟩) | (go_at_call 176; refine (HE.out _ HT.out).mono ?_; rintro e2 w2 ⟨rfl, hb2⟩; have B2 := Lib.hid hb2; clear hb2))
        go_ret2
        exact ⟨rfl, B2.out⟩
      · rw [if_neg h2]
        have k2 : ¬ (l : Int) < 161 := by omega
        by_cases h3 : t < 84
        · rw [if_pos h3]
          have k3 : (t : Int) < 84 := by omega
          have HE := Lib.hid (fun W h => wa.extra_any (((5696 + (l - 161) * 84 + t : Nat)) : Int) W h (by omega) (by omega))
          rw [show (((5696 + (l - 161) * 84 + t : Nat)) : Int) = 5696 + ((l : Int) - 161) * 84 + (t : Int) by omega] at HE ⊢
          have e1 : IntKind.u8.wrap ((l : Int) - 161) = (l : Int) - 161 := wa.wrapU8 (by omega) (by omega)
          have e2 : IntKind.i64.wrap ((l : Int) - 161) = (l : Int) - 161 := wa.wrap64 (by omega) (by omega)
          have e3 : IntKind.i64.wrap (((l : Int) - 161) * 84) = ((l : Int) - 161) * 84 := wa.wrap64 (by omega) (by omega)
          have e4 : IntKind.i64.wrap (5696 + ((l : Int) - 161) * 84) = 5696 + ((l : Int) - 161) * 84 := wa.wrap64 (by omega) (by omega)
          have e5 : IntKind.i64.wrap (5696 + ((l : Int) - 161) * 84 + (t : Int)) = 5696 + ((l : Int) - 161) * 84 + (t : Int) := wa.wrap64 (by omega) (by omega)
          obtain ⟨z, u, hz⟩ := plV_shape (5696 + ((l : Int) - 161) * 84 + (t : Int)) false
          rw [hz] at HE ⊢
          clear h1 h2 h3 hT hz
          go_enter Tryz.func136, Tryz.ntmps136
          go_wp2_with (first | (go_at_call 175; refine (HN.out _).mono ?_; rintro e1 w1 ⟨rfl, rfl⟩) | (go_at_call 176; refine (HE.out _ HT.out).mono ?_; rintro e2 w2 ⟨rfl, hb2⟩; have B2 := Lib.hid hb2; clear hb2))
          go_ret2
          exact ⟨rfl, B2.out⟩
        · rw [if_neg h3]
          have k3 : ¬ (t : Int) < 84 := by omega
          clear h1 h2 h3 hT
          go_enter Tryz.func136, Tryz.ntmps136
          go_wp2_with (go_at_call 175; refine (HN.out _).mono ?_; rintro e1 w1 ⟨rfl, rfl⟩)
          go_ret2
          exact ⟨rfl, Below.refl _ _⟩
theorem plV_sg (k : Nat) : plV (k : Int) false = sgV (kth k false) := by
  unfold plV sgV
  rw [plI_kth]
  by_cases h : kth k false = 0
  · rw [h]; rfl
  · rw [decide_eq_true h]
    have : (((kth k false : Nat) : Int) != 0) = true := by rw [bne, beq_eq_false_iff_ne.2 (show ((kth k false : Nat) : Int) ≠ 0 by omega)]; rfl
    rw [this]
/-- Beside the rows extraOfBytes is the document's. -/
theorem exV_sg {l b : Nat} (hl : l < 256) (hb : b < 256) (h : ¬ (161 ≤ l ∧ l ≤ 254 ∧ 161 ≤ b ∧ b ≤ 254)) : exV l b = sgV (sgW l b) := by
  unfold exV sgW
  cases hs : sec b with
  | none => rfl
  | some t =>
    obtain ⟨h1, h2⟩ := sec_lt hs
    have hb2 : b ≤ 254 := by
      unfold sec at hs
      by_cases q : b ≤ 254
      · exact q
      · rw [if_neg (by omega), if_neg (by omega), if_neg (by omega)] at hs; cases hs
    show (if l < 129 then _ else if l < 161 then _ else if t < 84 then _ else _) = sgV (if l < 129 ∨ 254 < l then _ else if l < 161 then _ else if b < 161 then _ else _)
    by_cases k1 : l < 129
    · rw [if_pos k1, if_pos (.inl k1)]; rfl
    rw [if_neg k1]
    by_cases k2 : l < 161
    · rw [if_pos k2, if_neg (by omega), if_pos k2]; exact plV_sg _
    rw [if_neg k2]
    by_cases k3 : 254 < l
    · rw [if_pos (show l < 129 ∨ 254 < l from .inr k3)]
      by_cases k4 : t < 84
      · rw [if_pos k4, plV_sg, wa.kth_none (by have e : tot false = 8822 := rfl; omega)]
      · rw [if_neg k4]; rfl
    · rw [if_neg (show ¬ (l < 129 ∨ 254 < l) by omega), if_neg k2]
      have k5 : b < 161 := by omega
      rw [if_pos k5, if_pos (h2.1 k5)]; exact plV_sg _
theorem rBool' {a b : Bool} (h : a = b) : Ending.returned (.bool a) = .returned (.bool b) := by rw [h]
set_option maxRecDepth 100000 in
theorem inRows_no (l b : Nat) (w : World) (h : ¬ (161 ≤ l ∧ l ≤ 254 ∧ 161 ≤ b ∧ b ≤ 254)) : Calls Tryz.prog 135 #[.int .u8 l, .int .u8 b] w fun e w' => e = .returned (.bool false) ∧ w = w' := by
  have hc : (l : Int) < 161 ∨ ((161 : Int) ≤ l ∧ (254 : Int) < l) ∨ ((161 : Int) ≤ l ∧ (l : Int) ≤ 254 ∧ (b : Int) < 161) ∨ ((161 : Int) ≤ l ∧ (l : Int) ≤ 254 ∧ (161 : Int) ≤ b ∧ decide ((b : Int) ≤ 254) = false) := by
    rw [decide_eq_false_iff_not]; omega
  clear h
  rcases hc with h | ⟨h, h'⟩ | ⟨h, h', h''⟩ | ⟨h, h', h'', h3⟩
  · go_enter Tryz.func135, Tryz.ntmps135
    go_wp2
    go_ret
    exact ⟨rfl, rfl⟩
  · go_enter Tryz.func135, Tryz.ntmps135
    go_wp2
    go_ret
    exact ⟨rfl, rfl⟩
  · go_enter Tryz.func135, Tryz.ntmps135
    go_wp2
    go_ret
    exact ⟨rfl, rfl⟩
  · have H3 := Lib.hid h3
    clear h3
    go_enter Tryz.func135, Tryz.ntmps135
    go_wp2
    go_ret
    exact ⟨rBool' H3.out, rfl⟩
set_option maxRecDepth 100000 in
set_option maxHeartbeats 2000000 in
/-- Sign, in the rows of other signs. -/
theorem signL_row (l b : Nat) (w : World) (hT : pt.Tabs w) (l0 : 161 ≤ l) (l1 : l ≤ 254) (b0 : 161 ≤ b) (b1 : b ≤ 254) (hn : ¬ (176 ≤ l ∧ l ≤ 200)) : Calls Tryz.prog 98 #[.int .u8 l, .int .u8 b] w fun e w' => e = .returned (sgV (row l b)) ∧ Below w.heap.size w w' := by
  have hrow := soc_row l0 l1 b0 b1
  have HI := Lib.hid (fun w2 => wa.inRows_yes l b w2 l0 l1 b0 b1)
  have HO := Lib.hid (fun w2 => wa.placeOf_any l b w2 l0 l1 b0 b1)
  have HP : Hid (∀ w2, pt.Tabs w2 → Calls Tryz.prog 137 #[.int .i64 (((l : Int) - 161) * 94 + ((b : Int) - 161) - 1410)] w2 fun e w' => e = .returned (.tuple #[.int .i32 0, .bool false]) ∧ Below w2.heap.size w2 w') := Lib.hid (fun w2 h2 => by
    have := wa.place_any (((l : Int) - 161) * 94 + ((b : Int) - 161) - 1410) w2 h2 (by omega) (by omega)
    unfold plV at this
    rw [plI_none (by have e : tot true = 2350 := rfl; omega)] at this
    exact this)
  have HS : Hid (∀ w2, Calls Tryz.prog 139 #[.int .i64 ((l : Int) * 256 + (b : Int))] w2 fun e w' => e = .returned (opV (soc ((l * 256 + b : Nat) : Int))) ∧ Below w2.heap.size w2 w') := Lib.hid (fun w2 => by
    have := signOf_any (((l * 256 + b : Nat)) : Int) w2 (by omega) (by omega)
    rw [show (((l * 256 + b : Nat)) : Int) = (l : Int) * 256 + (b : Int) by omega] at this ⊢
    exact this)
  rw [← hrow]
  have hsh : ∃ (z : Int) (t : Bool), opV (soc ((l * 256 + b : Nat) : Int)) = .tuple #[.int .i32 z, .bool t] := by
    cases soc ((l * 256 + b : Nat) : Int) with
    | none => exact ⟨_, _, rfl⟩
    | some z => exact ⟨_, _, rfl⟩
  obtain ⟨z, t, hz⟩ := hsh
  rw [hz] at HS ⊢
  have o := wa.or_int ((l : Int) * 256) (b : Int) 8 (by omega) (by omega) (by omega) (by omega) (by omega) (by omega)
  have e0 : IntKind.i64.wrap ((l : Int) * 256) = (l : Int) * 256 := wa.wrap64 (by omega) (by omega)
  have e8 : IntKind.i64.wrap (l : Int) = (l : Int) := wa.wrap64 (by omega) (by omega)
  have e9 : IntKind.i64.wrap (b : Int) = (b : Int) := wa.wrap64 (by omega) (by omega)
  obtain ⟨y, hy⟩ : ∃ y : Int, y = ((l : Int) - 161) * 94 + ((b : Int) - 161) := ⟨_, rfl⟩
  have y0 : 0 ≤ y := by omega
  have y1 : y < 10000 := by omega
  have ez : IntKind.i64.wrap (y - 1410) = y - 1410 := wa.wrap64 (by omega) (by omega)
  rw [← hy] at HP HO
  have g0 : (161 : Int) ≤ (l : Int) := by omega
  have g1 : (l : Int) ≤ 254 := by omega
  have g2 : (161 : Int) ≤ (b : Int) := by omega
  have g3 : (b : Int) ≤ 254 := by omega
  have HT := Lib.hid hT
  clear hT hy hz hrow l0 l1 b0 b1 hn
  go_enter Tryz.func98, Tryz.ntmps98
  go_wp2_with (first | (go_at_call 135; refine (HI.out _).mono ?_; rintro e1 w1 ⟨rfl, rfl⟩) | (go_at_call 138; refine (HO.out _).mono ?_; rintro e2 w2 ⟨rfl, rfl⟩) | (go_at_call 137; refine (HP.out _ HT.out).mono ?_; rintro e3 w3 ⟨rfl, hb3⟩; have B3 := Lib.hid hb3; clear hb3) | (go_at_call 139; refine (HS.out _).mono ?_; rintro e4 w4 ⟨rfl, hb4⟩; have B4 := Lib.hid (B3.out.trans (hb4.mono B3.out.size)); clear hb4))
  go_ret2
  exact ⟨rfl, B4.out⟩
set_option maxRecDepth 100000 in
theorem signL_any (l b : Nat) (w : World) (hT : pt.Tabs w) (hl : l < 256) (hb : b < 256) : Calls Tryz.prog 98 #[.int .u8 l, .int .u8 b] w fun e w' => e = .returned (sgV (sgW l b)) ∧ Below w.heap.size w w' := by
  by_cases h : 161 ≤ l ∧ l ≤ 254 ∧ 161 ≤ b ∧ b ≤ 254
  · obtain ⟨l0, l1, b0, b1⟩ := h
    have hs : sgW l b = if 176 ≤ l ∧ l ≤ 200 then kth ((l - 176) * 94 + (b - 161)) true else row l b := by
      unfold sgW
      rw [wa.sec_hi b0 b1]
      show (if _ then _ else _) = _
      rw [if_neg (by omega), if_neg (by omega), if_neg (by omega)]
    rw [hs]
    by_cases h2 : 176 ≤ l ∧ l ≤ 200
    · rw [if_pos h2]
      have hp := wa.plI_some (b := true) (k := (l - 176) * 94 + (b - 161)) (by have e : tot true = 2350 := rfl; omega)
      rw [sgV_pos (by have := hp.2; omega)]
      exact wa.signL_syl l b w hT h2.1 h2.2 b0 b1
    · rw [if_neg h2]
      exact signL_row l b w hT l0 l1 b0 b1 h2
  · rw [← exV_sg hl hb h]
    have HI := Lib.hid (fun w2 => inRows_no l b w2 h)
    have HE := Lib.hid (extraOf_any l b w hT hl hb)
    have hsh : ∃ (z : Int) (t : Bool), exV l b = .tuple #[.int .i32 z, .bool t] := by
      unfold exV
      cases sec b with
      | none => exact ⟨_, _, rfl⟩
      | some t =>
        show ∃ (z : Int) (u : Bool), (if l < 129 then _ else if l < 161 then _ else if t < 84 then _ else _) = _
        by_cases k1 : l < 129
        · rw [if_pos k1]; exact ⟨_, _, rfl⟩
        · rw [if_neg k1]
          by_cases k2 : l < 161
          · rw [if_pos k2]; exact ⟨_, _, rfl⟩
          · rw [if_neg k2]
            by_cases k3 : t < 84
            · rw [if_pos k3]; exact ⟨_, _, rfl⟩
            · rw [if_neg k3]; exact ⟨_, _, rfl⟩
    obtain ⟨z, t, hz⟩ := hsh
    rw [hz] at HE ⊢
    clear hz h hT
    go_enter Tryz.func98, Tryz.ntmps98
    go_wp2_with (first | (go_at_call 135; refine (HI.out _).mono ?_; rintro e1 w1 ⟨rfl, rfl⟩) | (go_at_call 136; refine (HE.out).mono ?_; rintro e2 w2 ⟨rfl, hb2⟩; have B2 := Lib.hid hb2; clear hb2))
    go_ret2
    exact ⟨rfl, B2.out⟩
end Go.Proofs.YtiigknimfibdpaaGreatDoor.wr
