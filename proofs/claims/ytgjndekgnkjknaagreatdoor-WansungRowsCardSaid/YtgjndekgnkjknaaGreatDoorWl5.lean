/- The landed wansung: Extra, Rank; codes of syllables, Bytes of syllables; the example: contracts. -/
import Derived.Test.YtgjndekgnkjknaaGreatDoorWl4
import Derived.Test.YtgjndekgnkjknaaGreatDoorOctA
namespace Go.Proofs.YtgjndekgnkjknaaGreatDoor.wa
open Go.RowKit Go.Lib
set_option linter.unusedVariables false
theorem or_int (x y : Int) (i : Nat) (hx : 0 ≤ x) (hm : x % 2 ^ i = 0) (hx1 : x < 2147483648) (hy : 0 ≤ y) (hy1 : y < 2 ^ i) (hy2 : y < 2147483648) : bits .or .i64 x y = x + y :=
  bits_join .i64 31 (by decide) (fun n a b => wrap64 (by omega) (by omega)) i x y hx hm (by omega) hy hy1 (by omega)
theorem rankL_any (p : Int) (w : World) (hT : pt.Tabs w) (h0 : -2147483648 ≤ p) (h1 : p ≤ 2147483647) : Calls Tryz.prog 69 #[.int .i32 p] w fun e w' => e = .returned (rkV p) ∧ Below w.heap.size w w' := by
  unfold rkV
  by_cases h : 44032 ≤ p ∧ p ≤ 55203
  · rw [if_pos h]
    obtain ⟨n, rfl⟩ : ∃ n : Nat, p = 44032 + (n : Int) := ⟨(p - 44032).toNat, by omega⟩
    rw [show (44032 + (n : Int) - 44032).toNat = n by omega]
    exact rank_syl n w hT (by omega)
  · rw [if_neg h]
    have hc : p < 44032 ∨ (44032 ≤ p ∧ 55203 < p) := by omega
    clear h hT h0 h1
    rcases hc with h | ⟨h, h'⟩
    all_goals
      go_enter Tryz.func69, Tryz.ntmps69
      go_wp2_with fail
      go_ret3
      exact ⟨rfl, (Below.refl _ w).alloc (Nat.le_refl _) _⟩
/-- The search that Extra does. -/
theorem extraFind (k : Nat) (w : World) (hk : k < 8822) (hT : pt.Tabs w) (b : Nat) (hb : b < w.heap.size) (hc : w.cell? ⟨b, 0, none⟩ = some (.int .i64 (k : Int))) :
    Calls Tryz.prog 80 #[.int .i64 2350, .func (.func 81) #[] #[.pointer (some ⟨b, 0, none⟩)]] w fun e w' => ∃ i : Nat, i ≤ 2350 ∧ kth k false = 44032 + k + i ∧ e = .returned (.int .i64 (i : Int)) ∧ Below w.heap.size w w' := by
  have eg : ∀ args w, (callFunc 81 args).run Tryz.prog w = .ok (.enter 81 args) w := enters_of Tryz.func81 (by kernel_rfl) rfl
  have hcon := sortSearch_any 81 #[.pointer (some ⟨b, 0, none⟩)] (fun h => decide ((k : Int) < ((kth h true : Nat) : Int) - 44032 - (h : Int))) 2350 w (by omega) eg
    (fun W hW h hh => (extraC_any h _ b W hh (Nat.lt_of_lt_of_le hb hW.size) ((hW.cell (p := ⟨b, 0, none⟩) hb).trans hc) (hT.below hW)).mono fun e w' q => ⟨q.1, hW.trans (q.2.mono hW.size)⟩)
    (fun i j hij hj hi => by
      simp only [decide_eq_true_eq] at hi ⊢
      obtain ⟨m, m1, m2, m3, m4, _⟩ := memC_kth (k := i) (by omega)
      obtain ⟨m', n1, n2, n3, n4, _⟩ := memC_kth (k := j) hj
      have s1 : rk true m + rk false m = m := cn_both 0 m
      have s2 : rk true m' + rk false m' = m' := cn_both 0 m'
      have hle : m ≤ m' := by
        apply Classical.byContradiction
        intro hge
        have := rk_step (a := m') (b := m) (by omega) n2
        omega
      have := rk_mono false m (m' - m)
      rw [show m + (m' - m) = m' by omega] at this
      omega)
  refine hcon.mono ?_
  rintro e w' ⟨i, h1, h2, h3, rfl, h5⟩
  refine ⟨i, h1, search_extra hk h1 (fun j hj => ?_) (fun j hj hj2 => ?_), rfl, h5⟩
  · have h6 : decide ((k : Int) < ((kth j true : Nat) : Int) - 44032 - (j : Int)) = false := h2 j hj
    rw [decide_eq_false_iff_not] at h6
    omega
  · have h6 : decide ((k : Int) < ((kth j true : Nat) : Int) - 44032 - (j : Int)) = true := h3 j hj hj2
    rw [decide_eq_true_iff] at h6
    omega
set_option maxRecDepth 100000 in
set_option maxHeartbeats 2000000 in
theorem extra_any (k : Int) (w : World) (hT : pt.Tabs w) (h0 : -9223372036854775808 ≤ k) (h1 : k ≤ 9223372036854775807) : Calls Tryz.prog 65 #[.int .i64 k] w fun e w' => e = .returned (plV k false) ∧ Below w.heap.size w w' := by
  unfold plV
  by_cases hk : 0 ≤ k ∧ k < 8822
  · obtain ⟨n, rfl⟩ : ∃ n : Nat, k = (n : Int) := ⟨k.toNat, by omega⟩
    have hn : n < 8822 := by omega
    have hp := plI_some (b := false) (k := n) hn
    rw [hp.1]
    have hz : (((kth n false : Nat) : Int) != 0) = true := by rw [bne, beq_eq_false_iff_ne.2 hp.2]; rfl
    rw [hz]
    have HB := Lib.hid (fun w2 => below_yes (n : Int) 8822 w2 (by omega) (by omega))
    have HF : Hid (Calls Tryz.prog 80 #[.int .i64 2350, .func (.func 81) #[] #[.pointer (some ⟨w.heap.size, 0, none⟩)]] (w.alloc (.cells #[.int .i64 (n : Int)] 3)) fun e w' => ∃ i : Nat, i ≤ 2350 ∧ kth n false = 44032 + n + i ∧ e = .returned (.int .i64 (i : Int)) ∧ Below w.heap.size w w' ∧ w'.cell? ⟨w.heap.size, 0, none⟩ = some (.int .i64 (n : Int))) := Lib.hid (by
      refine (extraFind n _ hn (hT.below ((Below.refl _ w).alloc (Nat.le_refl _) _)) w.heap.size (by simp) (by simp)).mono ?_
      rintro e w' ⟨i, h1, h2, h3, h4⟩
      refine ⟨i, h1, h2, h3, ((Below.refl _ w).alloc (Nat.le_refl _) _).trans (h4.mono (by simp)), ?_⟩
      exact (h4.cell (p := ⟨w.heap.size, 0, none⟩) (by simp)).trans (by simp))
    have n0 : (0 : Int) ≤ (n : Int) := by omega
    have n1 : (n : Int) < 8822 := by omega
    generalize kth n false = M at *
    clear hT hz hp hk h0 h1
    go_enter Tryz.func65, Tryz.ntmps65
    go_wp2_with (first | (go_at_call 66; refine (HB.out _).mono ?_; rintro e1 w1 ⟨rfl, rfl⟩) | (go_at_call 80; refine (HF.out).mono ?_; rintro e2 w2 ⟨i, hi, hM, rfl, hb2, hc2⟩; have B2 := Lib.hid hb2; have MM := Lib.hid hM; have i0 : (0 : Int) ≤ (i : Int) := (by omega); have i1 : (i : Int) ≤ 2350 := (by omega); have x1 : IntKind.i64.wrap (44032 + (n : Int)) = 44032 + (n : Int) := wrap64 (by omega) (by omega); have x2 : IntKind.i64.wrap (44032 + (n : Int) + (i : Int)) = 44032 + (n : Int) + (i : Int) := wrap64 (by omega) (by omega); have x3 : IntKind.i32.wrap (44032 + (n : Int) + (i : Int)) = 44032 + (n : Int) + (i : Int) := wrap32 (by omega) (by omega); clear hb2 hM hi))
    go_ret2
    exact ⟨by have := MM.out; rw [show ((M : Nat) : Int) = 44032 + (n : Int) + (i : Int) by omega]; rfl, B2.out⟩
  · rw [plI_none (by have e : tot false = 8822 := rfl; omega)]
    have HB := Lib.hid (fun w2 => below_no k 8822 w2 (by omega))
    clear hk hT
    go_enter Tryz.func65, Tryz.ntmps65
    go_wp2_with (go_at_call 66; refine (HB.out _).mono ?_; rintro e1 w1 ⟨rfl, rfl⟩)
    go_ret2
    exact ⟨rfl, (Below.refl _ w).alloc (Nat.le_refl _) _⟩
set_option maxRecDepth 100000 in
theorem codePl_any (k : Nat) (w : World) (hk : k < 8836) : Calls Tryz.prog 71 #[.int .i64 k] w fun e w' => e = .returned (.int .i64 (((161 + k / 94) * 256 + (161 + k % 94) : Nat) : Int)) ∧ w = w' := by
  have g0 : (0 : Int) ≤ (k : Int) := by omega
  have g1 : (k : Int) < 8836 := by omega
  obtain ⟨a, ha⟩ : ∃ a : Int, a = (k : Int) / 94 := ⟨_, rfl⟩
  obtain ⟨b, hb⟩ : ∃ b : Int, b = (k : Int) % 94 := ⟨_, rfl⟩
  have o := or_int ((161 + a) * 256) (161 + b) 8 (by omega) (by omega) (by omega) (by omega) (by omega) (by omega)
  have HX : Hid ((((161 + k / 94) * 256 + (161 + k % 94) : Nat) : Int) = (161 + a) * 256 + (161 + b)) := Lib.hid (by omega)
  have a0 : 0 ≤ a := by omega
  have a1 : a < 94 := by omega
  have b0 : 0 ≤ b := by omega
  have b1 : b < 94 := by omega
  have ea : (k : Int) / 94 = a := ha.symm
  have eb : (k : Int) % 94 = b := hb.symm
  clear ha hb
  go_enter Tryz.func71, Tryz.ntmps71
  go_wp2
  go_ret
  exact ⟨rInt HX.out.symm, rfl⟩
set_option maxRecDepth 100000 in
theorem codeEx_lo (k : Nat) (w : World) (hk : k < 5696) : Calls Tryz.prog 72 #[.int .i64 k] w fun e w' => e = .returned (.int .i64 (((k / 178 + 129) * 256 + secB (k % 178) : Nat) : Int)) ∧ w = w' := by
  have g0 : (0 : Int) ≤ (k : Int) := by omega
  have g1 : (k : Int) < 5696 := by omega
  have HS := Lib.hid (fun w2 => secB_I (k % 178) w2 (by omega))
  rw [show ((k % 178 : Nat) : Int) = (k : Int) % 178 by omega] at HS
  have hs := sec_le (t := k % 178) (by omega)
  obtain ⟨a, ha⟩ : ∃ a : Int, a = (k : Int) / 178 := ⟨_, rfl⟩
  obtain ⟨b, hb⟩ : ∃ b : Int, b = (k : Int) % 178 := ⟨_, rfl⟩
  rw [← hb] at HS
  obtain ⟨c, hc⟩ : ∃ c : Int, c = ((secB (k % 178) : Nat) : Int) := ⟨_, rfl⟩
  have c0 : 0 ≤ c := by omega
  have c1 : c < 256 := by omega
  have a0 : 0 ≤ a := by omega
  have a1 : a < 32 := by omega
  have o := or_int ((129 + a) * 256) c 8 (by omega) (by omega) (by omega) (by omega) (by omega) (by omega)
  have HX : Hid ((((k / 178 + 129) * 256 + secB (k % 178) : Nat) : Int) = (129 + a) * 256 + c) := Lib.hid (by omega)
  rw [← hc] at HS
  have b0 : 0 ≤ b := by omega
  have b1 : b < 178 := by omega
  have ea : (k : Int) / 178 = a := ha.symm
  have eb : (k : Int) % 178 = b := hb.symm
  clear ha hb hc hs
  go_enter Tryz.func72, Tryz.ntmps72
  go_wp2_with (go_at_call 89; refine (HS.out _).mono ?_; rintro e1 w1 ⟨rfl, rfl⟩)
  go_ret
  exact ⟨rInt HX.out.symm, rfl⟩
set_option maxRecDepth 100000 in
theorem codeEx_hi (k : Nat) (w : World) (h5 : 5696 ≤ k) (hk : k < 8822) : Calls Tryz.prog 72 #[.int .i64 k] w fun e w' => e = .returned (.int .i64 ((((k - 5696) / 84 + 161) * 256 + secB ((k - 5696) % 84) : Nat) : Int)) ∧ w = w' := by
  obtain ⟨q, rfl⟩ : ∃ q, k = 5696 + q := ⟨k - 5696, by omega⟩
  rw [Nat.add_sub_cancel_left]
  have g0 : (0 : Int) ≤ (q : Int) := by omega
  have g1 : (q : Int) < 3126 := by omega
  have HS := Lib.hid (fun w2 => secB_I (q % 84) w2 (by omega))
  rw [show ((q % 84 : Nat) : Int) = (q : Int) % 84 by omega] at HS
  have hs := sec_le (t := q % 84) (by omega)
  obtain ⟨a, ha⟩ : ∃ a : Int, a = (q : Int) / 84 := ⟨_, rfl⟩
  obtain ⟨b, hb⟩ : ∃ b : Int, b = (q : Int) % 84 := ⟨_, rfl⟩
  rw [← hb] at HS
  obtain ⟨c, hc⟩ : ∃ c : Int, c = ((secB (q % 84) : Nat) : Int) := ⟨_, rfl⟩
  have c0 : 0 ≤ c := by omega
  have c1 : c < 256 := by omega
  have a0 : 0 ≤ a := by omega
  have a1 : a < 38 := by omega
  have o := or_int ((161 + a) * 256) c 8 (by omega) (by omega) (by omega) (by omega) (by omega) (by omega)
  have HX : Hid ((((q / 84 + 161) * 256 + secB (q % 84) : Nat) : Int) = (161 + a) * 256 + c) := Lib.hid (by omega)
  rw [← hc] at HS
  have b0 : 0 ≤ b := by omega
  have b1 : b < 84 := by omega
  have ea : (q : Int) / 84 = a := ha.symm
  have eb : (q : Int) % 84 = b := hb.symm
  clear ha hb hc hs hk h5
  obtain ⟨z, hz⟩ : ∃ z : Int, z = ((5696 + q : Nat) : Int) := ⟨_, rfl⟩
  have ez : IntKind.i64.wrap (z - 5696) = (q : Int) := by rw [wrap64 (by omega) (by omega)]; omega
  have z0 : 5696 ≤ z := by omega
  have z1 : z < 8822 := by omega
  rw [← hz]
  clear hz
  go_enter Tryz.func72, Tryz.ntmps72
  go_wp2_with (go_at_call 89; refine (HS.out _).mono ?_; rintro e1 w1 ⟨rfl, rfl⟩)
  go_ret
  exact ⟨rInt HX.out.symm, rfl⟩
end Go.Proofs.YtgjndekgnkjknaaGreatDoor.wa
