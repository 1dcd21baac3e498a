/- Several texts in one. -/
import Derived.Test.YtbgbgigpcegenaaGreatDoorZ4
import Derived.Test.YtbgbgigpcegenaaGreatDoorZ3
import Derived.Lib.OthersKept
import Derived.WalkKit
import Derived.Test.YtbgbgigpcegenaaGreatDoorChecked
import Derived.WalkSmall
import Derived.Lib.Hide
namespace Go.Proofs.YtbgbgigpcegenaaGreatDoor.wa
open Go.RowKit Go.Lib
set_option linter.unusedVariables false
theorem or_int (x y : Int) (i : Nat) (hx : 0 ≤ x) (hm : x % 2 ^ i = 0) (hx1 : x < 2147483648) (hy : 0 ≤ y) (hy1 : y < 2 ^ i) (hy2 : y < 2147483648) : bits .or .i64 x y = x + y :=
  bits_join .i64 31 (by decide) (fun n a b => wrap64 (by omega) (by omega)) i x y hx hm (by omega) hy hy1 (by omega)
/-- The search that Extra does. -/
theorem extraFind (k : Nat) (w : World) (hk : k < 8822) (hT : pt.Tabs w) (b : Nat) (hb : b < w.heap.size) (hc : w.cell? ⟨b, 0, none⟩ = some (.int .i64 (k : Int))) :
    Calls Tryz.prog 178 #[.int .i64 2350, .func (.func 179) #[] #[.pointer (some ⟨b, 0, none⟩)]] w fun e w' => ∃ i : Nat, i ≤ 2350 ∧ kth k false = 44032 + k + i ∧ e = .returned (.int .i64 (i : Int)) ∧ Below w.heap.size w w' := by
  have eg : ∀ args w, (callFunc 179 args).run Tryz.prog w = .ok (.enter 179 args) w := enters_of Tryz.func179 (by kernel_rfl) rfl
  have hcon := sortSearch_any 179 #[.pointer (some ⟨b, 0, none⟩)] (fun h => decide ((k : Int) < ((kth h true : Nat) : Int) - 44032 - (h : Int))) 2350 w (by omega) eg
    (fun W hW h hh => (extraC_any h _ b W hh (Nat.lt_of_lt_of_le hb hW.size) ((hW.cell (p := ⟨b, 0, none⟩) hb).trans hc) (hT.below hW)).mono fun e w' q => ⟨q.1, hW.trans (q.2.mono hW.size)⟩)
    (fun i j hij hj hi => by
      simp only [decide_eq_true_eq] at hi ⊢
      obtain ⟨m, m1, m2, m3, m4, _⟩ := memC_kth (k := i) (by omega)
      obtain ⟨m', n1, n2, n3, n4, _⟩ := memC_kth (k := j) hj
      have s1 : rk true m + rk false m = m := cn_both 0 m
      have s2 : rk true m' + rk false m' = m' := cn_both 0 m'
      have hle : m ≤ m' := by
        apply Classical.byContradiction
        intro hge
        have := rk_step (a := m') (b := m) (by omega) n2
        omega
      have := rk_mono false m (m' - m)
      rw [show m + (m' - m) = m' by omega] at this
      omega)
  refine hcon.mono ?_
  rintro e w' ⟨i, h1, h2, h3, rfl, h5⟩
  refine ⟨i, h1, search_extra hk h1 (fun j hj => ?_) (fun j hj hj2 => ?_), rfl, h5⟩
  · have h6 : decide ((k : Int) < ((kth j true : Nat) : Int) - 44032 - (j : Int)) = false := h2 j hj
    rw [decide_eq_false_iff_not] at h6
    omega
  · have h6 : decide ((k : Int) < ((kth j true : Nat) : Int) - 44032 - (j : Int)) = true := h3 j hj hj2
    rw [decide_eq_true_iff] at h6
    omega
set_option maxRecDepth 100000 in
set_option maxHeartbeats 2000000 in
theorem extra_any (k : Int) (w : World) (hT : pt.Tabs w) (h0 : -9223372036854775808 ≤ k) (h1 : k ≤ 9223372036854775807) : Calls Tryz.prog 146 #[.int .i64 k] w fun e w' => e = .returned (plV k false) ∧ Below w.heap.size w w' := by
  unfold plV
  by_cases hk : 0 ≤ k ∧ k < 8822
  · obtain ⟨n, rfl⟩ : ∃ n : Nat, k = (n : Int) := ⟨k.toNat, by omega⟩
    have hn : n < 8822 := by omega
    have hp := plI_some (b := false) (k := n) hn
    rw [hp.1]
    have hz : (((kth n false : Nat) : Int) != 0) = true := by rw [bne, beq_eq_false_iff_ne.2 hp.2]; rfl
    rw [hz]
    have HB := Lib.hid (fun w2 => below_yes (n : Int) 8822 w2 (by omega) (by omega))
    have HF : Hid (Calls Tryz.prog 178 #[.int .i64 2350, .func (.func 179) #[] #[.pointer (some ⟨w.heap.size, 0, none⟩)]] (w.alloc (.cells #[.int .i64 (n : Int)] 3)) fun e w' => ∃ i : Nat, i ≤ 2350 ∧ kth n false = 44032 + n + i ∧ e = .returned (.int .i64 (i : Int)) ∧ Below w.heap.size w w' ∧ w'.cell? ⟨w.heap.size, 0, none⟩ = some (.int .i64 (n : Int))) := Lib.hid (by
      refine (extraFind n _ hn (hT.below ((Below.refl _ w).alloc (Nat.le_refl _) _)) w.heap.size (by simp) (by simp)).mono ?_
      rintro e w' ⟨i, h1, h2, h3, h4⟩
      refine ⟨i, h1, h2, h3, ((Below.refl _ w).alloc (Nat.le_refl _) _).trans (h4.mono (by simp)), ?_⟩
      exact (h4.cell (p := ⟨w.heap.size, 0, none⟩) (by simp)).trans (by simp))
    have n0 : (0 : Int) ≤ (n : Int) := by omega
    have n1 : (n : Int) < 8822 := by omega
    generalize kth n false = M at *
    clear hT hz hp hk h0 h1
    go_enter Tryz.func146, Tryz.ntmps146
    go_wp2_with (first | (go_at_call 147; refine (HB.out _).mono ?_; rintro e1 w1 ⟨rfl, rfl⟩) | (go_at_call 178; refine (HF.out).mono ?_; rintro e2 w2 ⟨i, hi, hM, rfl, hb2, hc2⟩; have B2 := Lib.hid hb2; have MM := Lib.hid hM; have i0 : (0 : Int) ≤ (i : Int) := (by omega); have i1 : (i : Int) ≤ 2350 := (by omega); have x1 : IntKind.i64.wrap (44032 + (n : Int)) = 44032 + (n : Int) := wrap64 (by omega) (by omega); have x2 : IntKind.i64.wrap (44032 + (n : Int) + (i : Int)) = 44032 + (n : Int) + (i : Int) := wrap64 (by omega) (by omega); have x3 : IntKind.i32.wrap (44032 + (n : Int) + (i : Int)) = 44032 + (n : Int) + (i : Int) := wrap32 (by omega) (by omega); clear hb2 hM hi))
    go_ret2
    exact ⟨by have := MM.out; rw [show ((M : Nat) : Int) = 44032 + (n : Int) + (i : Int) by omega]; rfl, B2.out⟩
  · rw [plI_none (by have e : tot false = 8822 := rfl; omega)]
    have HB := Lib.hid (fun w2 => below_no k 8822 w2 (by omega))
    clear hk hT
    go_enter Tryz.func146, Tryz.ntmps146
    go_wp2_with (go_at_call 147; refine (HB.out _).mono ?_; rintro e1 w1 ⟨rfl, rfl⟩)
    go_ret2
    exact ⟨rfl, (Below.refl _ w).alloc (Nat.le_refl _) _⟩
set_option maxRecDepth 100000 in
theorem codePl_any (k : Nat) (w : World) (hk : k < 8836) : Calls Tryz.prog 154 #[.int .i64 k] w fun e w' => e = .returned (.int .i64 (((161 + k / 94) * 256 + (161 + k % 94) : Nat) : Int)) ∧ w = w' := by
  have g0 : (0 : Int) ≤ (k : Int) := by omega
  have g1 : (k : Int) < 8836 := by omega
  obtain ⟨a, ha⟩ : ∃ a : Int, a = (k : Int) / 94 := ⟨_, rfl⟩
  obtain ⟨b, hb⟩ : ∃ b : Int, b = (k : Int) % 94 := ⟨_, rfl⟩
  have o := or_int ((161 + a) * 256) (161 + b) 8 (by omega) (by omega) (by omega) (by omega) (by omega) (by omega)
  have HX : Hid ((((161 + k / 94) * 256 + (161 + k % 94) : Nat) : Int) = (161 + a) * 256 + (161 + b)) := Lib.hid (by omega)
  have a0 : 0 ≤ a := by omega
  have a1 : a < 94 := by omega
  have b0 : 0 ≤ b := by omega
  have b1 : b < 94 := by omega
  have ea : (k : Int) / 94 = a := ha.symm
  have eb : (k : Int) % 94 = b := hb.symm
  clear ha hb
  go_enter Tryz.func154, Tryz.ntmps154
  go_wp2
  go_ret
  exact ⟨rInt HX.out.symm, rfl⟩
set_option maxRecDepth 100000 in
theorem codeEx_lo (k : Nat) (w : World) (hk : k < 5696) : Calls Tryz.prog 155 #[.int .i64 k] w fun e w' => e = .returned (.int .i64 (((k / 178 + 129) * 256 + secB (k % 178) : Nat) : Int)) ∧ w = w' := by
  have g0 : (0 : Int) ≤ (k : Int) := by omega
  have g1 : (k : Int) < 5696 := by omega
  have HS := Lib.hid (fun w2 => secB_I (k % 178) w2 (by omega))
  rw [show ((k % 178 : Nat) : Int) = (k : Int) % 178 by omega] at HS
  have hs := sec_le (t := k % 178) (by omega)
  obtain ⟨a, ha⟩ : ∃ a : Int, a = (k : Int) / 178 := ⟨_, rfl⟩
  obtain ⟨b, hb⟩ : ∃ b : Int, b = (k : Int) % 178 := ⟨_, rfl⟩
  rw [← hb] at HS
  obtain ⟨c, hc⟩ : ∃ c : Int, c = ((secB (k % 178) : Nat) : Int) := ⟨_, rfl⟩
  have c0 : 0 ≤ c := by omega
  have c1 : c < 256 := by omega
  have a0 : 0 ≤ a := by omega
  have a1 : a < 32 := by omega
  have o := or_int ((129 + a) * 256) c 8 (by omega) (by omega) (by omega) (by omega) (by omega) (by omega)
  have HX : Hid ((((k / 178 + 129) * 256 + secB (k % 178) : Nat) : Int) = (129 + a) * 256 + c) := Lib.hid (by omega)
  rw [← hc] at HS
  have b0 : 0 ≤ b := by omega
  have b1 : b < 178 := by omega
  have ea : (k : Int) / 178 = a := ha.symm
  have eb : (k : Int) % 178 = b := hb.symm
  clear ha hb hc hs
  go_enter Tryz.func155, Tryz.ntmps155
  go_wp2_with (go_at_call 184; refine (HS.out _).mono ?_; rintro e1 w1 ⟨rfl, rfl⟩)
  go_ret
  exact ⟨rInt HX.out.symm, rfl⟩
set_option maxRecDepth 100000 in
theorem codeEx_hi (k : Nat) (w : World) (h5 : 5696 ≤ k) (hk : k < 8822) : Calls Tryz.prog 155 #[.int .i64 k] w fun e w' => e = .returned (.int .i64 ((((k - 5696) / 84 + 161) * 256 + secB ((k - 5696) % 84) : Nat) : Int)) ∧ w = w' := by
  obtain ⟨q, rfl⟩ : ∃ q, k = 5696 + q := ⟨k - 5696, by omega⟩
  rw [Nat.add_sub_cancel_left]
  have g0 : (0 : Int) ≤ (q : Int) := by omega
  have g1 : (q : Int) < 3126 := by omega
  have HS := Lib.hid (fun w2 => secB_I (q % 84) w2 (by omega))
  rw [show ((q % 84 : Nat) : Int) = (q : Int) % 84 by omega] at HS
  have hs := sec_le (t := q % 84) (by omega)
  obtain ⟨a, ha⟩ : ∃ a : Int, a = (q : Int) / 84 := ⟨_, rfl⟩
  obtain ⟨b, hb⟩ : ∃ b : Int, b = (q : Int) % 84 := ⟨_, rfl⟩
  rw [← hb] at HS
  obtain ⟨c, hc⟩ : ∃ c : Int, c = ((secB (q % 84) : Nat) : Int) := ⟨_, rfl⟩
  have c0 : 0 ≤ c := by omega
  have c1 : c < 256 := by omega
  have a0 : 0 ≤ a := by omega
  have a1 : a < 38 := by omega
  have o := or_int ((161 + a) * 256) c 8 (by omega) (by omega) (by omega) (by omega) (by omega) (by omega)
  have HX : Hid ((((q / 84 + 161) * 256 + secB (q % 84) : Nat) : Int) = (161 + a) * 256 + c) := Lib.hid (by omega)
  rw [← hc] at HS
  have b0 : 0 ≤ b := by omega
  have b1 : b < 84 := by omega
  have ea : (q : Int) / 84 = a := ha.symm
  have eb : (q : Int) % 84 = b := hb.symm
  clear ha hb hc hs hk h5
  obtain ⟨z, hz⟩ : ∃ z : Int, z = ((5696 + q : Nat) : Int) := ⟨_, rfl⟩
  have ez : IntKind.i64.wrap (z - 5696) = (q : Int) := by rw [wrap64 (by omega) (by omega)]; omega
  have z0 : 5696 ≤ z := by omega
  have z1 : z < 8822 := by omega
  rw [← hz]
  clear hz
  go_enter Tryz.func155, Tryz.ntmps155
  go_wp2_with (go_at_call 184; refine (HS.out _).mono ?_; rintro e1 w1 ⟨rfl, rfl⟩)
  go_ret
  exact ⟨rInt HX.out.symm, rfl⟩
end Go.Proofs.YtbgbgigpcegenaaGreatDoor.wa
namespace Go.Proofs.YtbgbgigpcegenaaGreatDoor.wa
open Go.RowKit Go.Lib
set_option linter.unusedVariables false
theorem big_two (c : Nat) (w : World) (h : c < 65536) : Calls Tryz.prog 92 #[.int .u64 (c : Int), .int .i64 2] w fun e w' => e = .returned (.string (two c)) ∧ Below w.heap.size w w' := by
  have h2 := oct.big_any c 2 2 w (by omega) (by omega) rfl (by omega)
  have e : (⟨(oct.bigL 256 2 c).toArray⟩ : ByteArray) = two c := by
    unfold two
    simp [oct.bigL]
  rw [e] at h2
  exact h2
/-- The code of a syllable. -/
theorem codeOf_syl (n : Nat) (w : World) (hT : pt.Tabs w) (hn : n < 11172) : Calls Tryz.prog 111 #[.int .i32 (44032 + (n : Int))] w fun e w' => e = .returned (.tuple #[.int .i64 ((byS n : Nat) : Int), .bool true]) ∧ Below w.heap.size w w' := by
  have HR := Lib.hid (rank_syl n w hT hn)
  unfold byS
  cases hb : inB n with
  | true =>
    rw [hb] at HR
    have hl := rk_lt hn hb
    have e : tot true = 2350 := rfl
    rw [if_pos rfl]
    have HC : Hid (∀ w2, Calls Tryz.prog 154 #[.int .i64 (1410 + ((rk true n : Nat) : Int))] w2 fun e w' => e = .returned (.int .i64 (((rk true n / 94 + 176) * 256 + (rk true n % 94 + 161) : Nat) : Int)) ∧ w2 = w') := Lib.hid (fun w2 => by
      have := codePl_any (1410 + rk true n) w2 (by omega)
      rw [show ((1410 + rk true n : Nat) : Int) = 1410 + ((rk true n : Nat) : Int) by omega, show (161 + (1410 + rk true n) / 94) * 256 + (161 + (1410 + rk true n) % 94) = (rk true n / 94 + 176) * 256 + (rk true n % 94 + 161) by omega] at this
      exact this)
    have g0 : 0 ≤ ((rk true n : Nat) : Int) := by omega
    have g1 : ((rk true n : Nat) : Int) < 2350 := by omega
    generalize (((rk true n / 94 + 176) * 256 + (rk true n % 94 + 161) : Nat) : Int) = C at *
    generalize ((rk true n : Nat) : Int) = R at *
    generalize 44032 + (n : Int) = p at *
    clear hT hb hl e
    go_enter Tryz.func111, Tryz.ntmps111
    go_wp2_with (first | (go_at_call 152; refine (HR.out).mono ?_; rintro e1 w1 ⟨rfl, hb1⟩; have B1 := Lib.hid hb1; clear hb1) | (go_at_call 154; refine (HC.out _).mono ?_; rintro e2 w2 ⟨rfl, rfl⟩))
    go_ret2
    exact ⟨rfl, B1.out⟩
  | false =>
    rw [hb] at HR
    have hl := rk_lt hn hb
    have e : tot false = 8822 := rfl
    rw [if_neg (by simp)]
    have HC : Hid (∀ w2, Calls Tryz.prog 155 #[.int .i64 ((rk false n : Nat) : Int)] w2 fun e w' => e = .returned (.int .i64 (((if rk false n < 5696 then (rk false n / 178 + 129) * 256 + secB (rk false n % 178) else ((rk false n - 5696) / 84 + 161) * 256 + secB ((rk false n - 5696) % 84)) : Nat) : Int)) ∧ w2 = w') := Lib.hid (fun w2 => by
      by_cases h : rk false n < 5696
      · rw [if_pos h]; exact codeEx_lo _ w2 h
      · rw [if_neg h]; exact codeEx_hi _ w2 (by omega) (by omega))
    generalize (((if rk false n < 5696 then (rk false n / 178 + 129) * 256 + secB (rk false n % 178) else ((rk false n - 5696) / 84 + 161) * 256 + secB ((rk false n - 5696) % 84)) : Nat) : Int) = C at *
    generalize ((rk false n : Nat) : Int) = R at *
    generalize 44032 + (n : Int) = p at *
    clear hT hb hl e
    go_enter Tryz.func111, Tryz.ntmps111
    go_wp2_with (first | (go_at_call 152; refine (HR.out).mono ?_; rintro e1 w1 ⟨rfl, hb1⟩; have B1 := Lib.hid hb1; clear hb1) | (go_at_call 155; refine (HC.out _).mono ?_; rintro e2 w2 ⟨rfl, rfl⟩))
    go_ret2
    exact ⟨rfl, B1.out⟩
theorem bytesL_syl (n : Nat) (w : World) (hT : pt.Tabs w) (hn : n < 11172) : Calls Tryz.prog 58 #[.int .i32 (44032 + (n : Int))] w fun e w' => e = .returned (.tuple #[.string (two (byS n)), .bool true]) ∧ Below w.heap.size w w' := by
  have HC := Lib.hid (codeOf_syl n w hT hn)
  have hs := (sg_byS hn).1
  have HB := Lib.hid (fun w2 => big_two (byS n) w2 hs)
  have g0 : 0 ≤ ((byS n : Nat) : Int) := by omega
  have g1 : ((byS n : Nat) : Int) < 65536 := by omega
  have e1 : IntKind.u64.wrap ((byS n : Nat) : Int) = ((byS n : Nat) : Int) := by simp [IntKind.wrap, IntKind.bits, IntKind.signed]; omega
  generalize two (byS n) = T at *
  generalize ((byS n : Nat) : Int) = C at *
  generalize 44032 + (n : Int) = p at *
  clear hs hT
  go_enter Tryz.func58, Tryz.ntmps58
  go_wp2_with (first | (go_at_call 111; refine (HC.out).mono ?_; rintro e1 w1 ⟨rfl, hb1⟩; have B1 := Lib.hid hb1; clear hb1) | (go_at_call 92; refine (HB.out _).mono ?_; rintro e2 w2 ⟨rfl, hb2⟩; have B2 := Lib.hid (B1.out.trans (hb2.mono B1.out.size)); clear hb2))
  go_ret2
  exact ⟨rfl, B2.out⟩
theorem inRows_yes (l b : Nat) (w : World) (l0 : 161 ≤ l) (l1 : l ≤ 254) (b0 : 161 ≤ b) (b1 : b ≤ 254) : Calls Tryz.prog 106 #[.int .u8 l, .int .u8 b] w fun e w' => e = .returned (.bool true) ∧ w = w' := by
  have g0 : (161 : Int) ≤ (l : Int) := by omega
  have g1 : (l : Int) ≤ 254 := by omega
  have g2 : (161 : Int) ≤ (b : Int) := by omega
  have g3 : (b : Int) ≤ 254 := by omega
  clear l0 l1 b0 b1
  go_enter Tryz.func106, Tryz.ntmps106
  go_wp2
  go_ret
  exact ⟨rfl, rfl⟩
theorem placeOf_any (l b : Nat) (w : World) (l0 : 161 ≤ l) (l1 : l ≤ 254) (b0 : 161 ≤ b) (b1 : b ≤ 254) : Calls Tryz.prog 109 #[.int .u8 l, .int .u8 b] w fun e w' => e = .returned (.int .i64 (((l : Int) - 161) * 94 + ((b : Int) - 161))) ∧ w = w' := by
  have g0 : (161 : Int) ≤ (l : Int) := by omega
  have g1 : (l : Int) ≤ 254 := by omega
  have g2 : (161 : Int) ≤ (b : Int) := by omega
  have g3 : (b : Int) ≤ 254 := by omega
  have e1 : IntKind.u8.wrap ((l : Int) - 161) = (l : Int) - 161 := wrapU8 (by omega) (by omega)
  have e2 : IntKind.u8.wrap ((b : Int) - 161) = (b : Int) - 161 := wrapU8 (by omega) (by omega)
  have e3 : IntKind.i64.wrap ((l : Int) - 161) = (l : Int) - 161 := wrap64 (by omega) (by omega)
  have e4 : IntKind.i64.wrap ((b : Int) - 161) = (b : Int) - 161 := wrap64 (by omega) (by omega)
  have e5 : IntKind.i64.wrap (((l : Int) - 161) * 94) = ((l : Int) - 161) * 94 := wrap64 (by omega) (by omega)
  have e6 : IntKind.i64.wrap (((l : Int) - 161) * 94 + ((b : Int) - 161)) = ((l : Int) - 161) * 94 + ((b : Int) - 161) := wrap64 (by omega) (by omega)
  clear l0 l1 b0 b1
  go_enter Tryz.func109, Tryz.ntmps109
  go_wp2
  go_ret
  exact ⟨rfl, rfl⟩
/-- The sign of two bytes in the rows of syllables. -/
theorem signL_syl (l b : Nat) (w : World) (hT : pt.Tabs w) (l0 : 176 ≤ l) (l1 : l ≤ 200) (b0 : 161 ≤ b) (b1 : b ≤ 254) : Calls Tryz.prog 57 #[.int .u8 l, .int .u8 b] w fun e w' => e = .returned (.tuple #[.int .i32 ((kth ((l - 176) * 94 + (b - 161)) true : Nat) : Int), .bool true]) ∧ Below w.heap.size w w' := by
  obtain ⟨k, hk⟩ : ∃ k, k = (l - 176) * 94 + (b - 161) := ⟨_, rfl⟩
  have hk2 : k < 2350 := by omega
  rw [← hk]
  have hp := plI_some (b := true) (k := k) hk2
  have HP : Hid (∀ w2, pt.Tabs w2 → Calls Tryz.prog 108 #[.int .i64 (((l : Int) - 161) * 94 + ((b : Int) - 161) - 1410)] w2 fun e w' => e = .returned (.tuple #[.int .i32 ((kth k true : Nat) : Int), .bool true]) ∧ Below w2.heap.size w2 w') := Lib.hid (fun w2 h2 => by
    have := place_any (k : Int) w2 h2 (by omega) (by omega)
    unfold plV at this
    rw [hp.1] at this
    have hz : (((kth k true : Nat) : Int) != 0) = true := by rw [bne, beq_eq_false_iff_ne.2 hp.2]; rfl
    rw [hz, show (k : Int) = ((l : Int) - 161) * 94 + ((b : Int) - 161) - 1410 by omega] at this
    exact this)
  have HI := Lib.hid (fun w2 => inRows_yes l b w2 (by omega) (by omega) b0 b1)
  have HO := Lib.hid (fun w2 => placeOf_any l b w2 (by omega) (by omega) b0 b1)
  have HT := Lib.hid hT
  generalize ((kth k true : Nat) : Int) = M at *
  obtain ⟨z, hz⟩ : ∃ z : Int, z = ((l : Int) - 161) * 94 + ((b : Int) - 161) := ⟨_, rfl⟩
  have z0 : 1410 ≤ z := by omega
  have z1 : z < 3760 := by omega
  have ez : IntKind.i64.wrap (z - 1410) = z - 1410 := wrap64 (by omega) (by omega)
  rw [← hz] at HP HO
  clear hT hp hz hk hk2 l0 l1 b0 b1
  go_enter Tryz.func57, Tryz.ntmps57
  go_wp2_with (first | (go_at_call 106; refine (HI.out _).mono ?_; rintro e1 w1 ⟨rfl, rfl⟩) | (go_at_call 109; refine (HO.out _).mono ?_; rintro e2 w2 ⟨rfl, rfl⟩) | (go_at_call 108; refine (HP.out _ HT.out).mono ?_; rintro e3 w3 ⟨rfl, hb3⟩; have B3 := Lib.hid hb3; clear hb3))
  go_ret2
  exact ⟨rfl, B3.out⟩
theorem kth_one : kth 1 true = 44033 := by
  have h2 := awake_sign
  have h3 := sg_in (k := 1) (by omega)
  rw [← h3]; exact h2
theorem byS_last : byS 11171 = 50770 := by
  have h2 := awake_bytes
  unfold byW at h2
  rw [if_pos (by omega)] at h2
  injection h2
theorem aw_land : Aw pt.Tabs where
  stay w w' h hb := h.below hb
  awS w h := by
    have h1 := signL_syl 176 162 w h (by omega) (by omega) (by omega) (by omega)
    have e : (176 - 176) * 94 + (162 - 161) = 1 := rfl
    rw [e, kth_one] at h1
    exact h1
  awB w h := by
    have h1 := bytesL_syl 11171 w h (by omega)
    rw [byS_last, show two 50770 = ⟨#[198, 82]⟩ by decide +kernel] at h1
    exact h1
end Go.Proofs.YtbgbgigpcegenaaGreatDoor.wa
namespace Go.Proofs.YtbgbgigpcegenaaGreatDoor.tb
open Go.RowKit Go.Lib
set_option linter.unusedVariables false
theorem size_nil {s : ByteArray} (h : s.data.toList = []) : s.size = 0 := by
  have e : s.data.toList.length = s.size := by rw [Array.length_toList]; rfl
  rw [h] at e; exact e.symm
/-- The pairs of a piece. -/
def piece (f t c : Int) (s : ByteArray) : Option (List (Int × Int)) :=
  if s.size = 0 then
    (if f < 0 ∨ c < 1 ∨ 1048576 < c ∨ 1048576 - c < f ∨ validRune t = false then none
     else if validRune (t + c - 1) = false ∨ (t < 55296 ∧ 57343 < t + c - 1) then none
     else some (sqp f t c.toNat))
  else (if (pt.scan s).2.isSome = true ∨ f < 0 ∨ 1048576 - ((pt.zsOf s).length : Int) < f then none else some (lsp f (pt.zsOf s)))
end Go.Proofs.YtbgbgigpcegenaaGreatDoor.tb
namespace Go.Proofs.YtbgbgigpcegenaaGreatDoor.tb
open Go.RowKit Go.Lib
set_option linter.unusedVariables false
/-- A piece. -/
structure Pce where
  f : Int
  t : Int
  c : Int
  s : ByteArray
/-- A piece as Go may hold it. -/
structure Pce.ok (p : Pce) : Prop where
  f0 : -9223372036854775808 ≤ p.f
  f1 : p.f ≤ 9223372036854775807
  t0 : -2147483648 ≤ p.t
  t1 : p.t ≤ 2147483647
  c0 : -9223372036854775808 ≤ p.c
  c1 : p.c ≤ 9223372036854775807
  s1 : p.s.size ≤ 9223372036854775807
def p0 : Pce := ⟨0, 0, 0, ⟨#[]⟩⟩
/-- The cells of a piece. -/
structure CellsC (w : World) (b : Addr) (p : Pce) : Prop where
  k0 : w.cell? b = some (.int .i64 p.f)
  k1 : w.cell? ⟨b.block, b.off + 1, none⟩ = some (.int .i32 p.t)
  k2 : w.cell? ⟨b.block, b.off + 2, none⟩ = some (.int .i64 p.c)
  k3 : w.cell? ⟨b.block, b.off + 3, none⟩ = some (.string p.s)
theorem CellsC.below {w w' : World} {b : Addr} {p : Pce} (h : CellsC w b p) {B : Nat} (hb : Below B w w') (hB : w.heap.size ≤ B) : CellsC w' b p := by
  have hl := World.block_lt_of_cell? w _ h.k0
  have H : ∀ o, w'.cell? ⟨b.block, o, none⟩ = w.cell? ⟨b.block, o, none⟩ := fun o => hb.cell (p := ⟨b.block, o, none⟩) (by show b.block < B; omega)
  exact ⟨(hb.cell (by omega)).trans h.k0, (H _).trans h.k1, (H _).trans h.k2, (H _).trans h.k3⟩
/-- A slice of pieces, none or a row. -/
def RowC (w : World) (A : Option Addr) (n c : Nat) (l : List Pce) : Prop :=
  l.length = n ∧ (∀ p ∈ l, p.ok) ∧ ((A = none ∧ n = 0 ∧ c = 0) ∨ ∃ a, A = some a ∧ n ≤ c ∧ c ≤ maxLen ∧ ∀ i, i < n → CellsC w (a.add (i * 4)) (l.getD i p0))
theorem RowC.below {w w' : World} {A : Option Addr} {n c : Nat} {l : List Pce} (h : RowC w A n c l) (hb : Below w.heap.size w w') : RowC w' A n c l := by
  obtain ⟨h1, h2, h | ⟨a, h3, h4, h5, h6⟩⟩ := h
  · exact ⟨h1, h2, .inl h⟩
  · exact ⟨h1, h2, .inr ⟨a, h3, h4, h5, fun i hi => (h6 i hi).below hb (Nat.le_refl _)⟩⟩
theorem RowC.at {w : World} {A : Option Addr} {n c : Nat} {l : List Pce} (h : RowC w A n c l) (i : Nat) (hi : i < n) : ∃ a, A = some a ∧ n ≤ c ∧ c ≤ maxLen ∧ CellsC w (a.add (i * 4)) (l.getD i p0) ∧ (l.getD i p0).ok ∧ l.take (i + 1) = l.take i ++ [l.getD i p0] ∧ l.drop i = l.getD i p0 :: l.drop (i + 1) := by
  obtain ⟨h1, h2, ⟨_, h3, _⟩ | ⟨a, h3, h4, h5, h6⟩⟩ := h
  · omega
  · have hil : i < l.length := by omega
    refine ⟨a, h3, h4, h5, h6 i hi, h2 _ (by simp [List.getD, List.getElem?_eq_getElem hil]), ?_, ?_⟩
    · rw [List.take_add_one, List.getElem?_eq_getElem hil]; simp [List.getD, List.getElem?_eq_getElem hil]
    · rw [List.drop_eq_getElem_cons hil]; simp [List.getD, List.getElem?_eq_getElem hil]
end Go.Proofs.YtbgbgigpcegenaaGreatDoor.tb
namespace Go.Proofs.YtbgbgigpcegenaaGreatDoor.tb
open Go.RowKit Go.Lib
set_option linter.unusedVariables false
theorem seq_any (f t c : Int) (w : World) : Calls Tryz.prog 83 #[.int .i64 f, .int .i32 t, .int .i64 c] w fun e w' => e = .returned (.agg #[.int .i64 f, .int .i32 t, .int .i64 c, .string ⟨#[]⟩]) ∧ Below w.heap.size w w' := by
  go_enter Tryz.func83, Tryz.ntmps83
  go_wp2
  refine bodyPost_ret (v := .agg #[.int .i64 f, .int .i32 t, .int .i64 c, .string ⟨#[]⟩]) (by simp [results, Tryz.results83, go_sem]) rfl ⟨rfl, ?_⟩
  repeat (first | (with_reducible exact Below.refl _ _) | (with_reducible refine Below.setCell ?_ (by simp) _) | (with_reducible refine Below.alloc ?_ (by simp) _))
theorem list_any (f : Int) (s : ByteArray) (w : World) : Calls Tryz.prog 100 #[.int .i64 f, .string s] w fun e w' => e = .returned (.agg #[.int .i64 f, .int .i32 0, .int .i64 0, .string s]) ∧ Below w.heap.size w w' := by
  go_enter Tryz.func100, Tryz.ntmps100
  go_wp2
  refine bodyPost_ret (v := .agg #[.int .i64 f, .int .i32 0, .int .i64 0, .string s]) (by simp [results, Tryz.results100, go_sem]) rfl ⟨rfl, ?_⟩
  repeat (first | (with_reducible exact Below.refl _ _) | (with_reducible refine Below.setCell ?_ (by simp) _) | (with_reducible refine Below.alloc ?_ (by simp) _))
def pcell (p : Pce) : List Value := [.int .i64 p.f, .int .i32 p.t, .int .i64 p.c, .string p.s]
theorem pcells_at : ∀ (l : List Pce) (i : Nat), i < l.length → (l.flatMap pcell)[i * 4]? = some (.int .i64 (l.getD i p0).f) ∧ (l.flatMap pcell)[i * 4 + 1]? = some (.int .i32 (l.getD i p0).t) ∧ (l.flatMap pcell)[i * 4 + 2]? = some (.int .i64 (l.getD i p0).c) ∧ (l.flatMap pcell)[i * 4 + 3]? = some (.string (l.getD i p0).s)
  | [], i, h => by simp at h
  | r :: l, i, h => by
    have e : (r :: l).flatMap pcell = .int .i64 r.f :: .int .i32 r.t :: .int .i64 r.c :: .string r.s :: l.flatMap pcell := rfl
    rw [e]
    cases i with
    | zero => exact ⟨rfl, rfl, rfl, rfl⟩
    | succ i =>
      have := pcells_at l i (by simpa using h)
      rw [show (i + 1) * 4 = i * 4 + 1 + 1 + 1 + 1 by omega]
      simpa using this
theorem rowC_new (w : World) (l : List Pce) (hok : ∀ p ∈ l, p.ok) (hl : l.length ≤ 1000) (t : TypeId) : RowC (w.alloc (.cells (l.flatMap pcell).toArray t)) (some ⟨w.heap.size, 0, none⟩) l.length l.length l := by
  refine ⟨rfl, hok, .inr ⟨_, rfl, Nat.le_refl _, by unfold maxLen; omega, fun i hi => ?_⟩⟩
  obtain ⟨a, b, c, d⟩ := pcells_at l i hi
  have e : (⟨w.heap.size, 0, none⟩ : Addr).add (i * 4) = ⟨w.heap.size, i * 4, none⟩ := by rw [Addr.add_lit, Nat.zero_add]
  rw [e]
  refine ⟨?_, ?_, ?_, ?_⟩
  · rw [World.cell?_alloc_mark]; simpa using a
  · show (w.alloc _).cell? ⟨w.heap.size, i * 4 + 1, none⟩ = _; rw [World.cell?_alloc_mark]; simpa using b
  · show (w.alloc _).cell? ⟨w.heap.size, i * 4 + 2, none⟩ = _; rw [World.cell?_alloc_mark]; simpa using c
  · show (w.alloc _).cell? ⟨w.heap.size, i * 4 + 3, none⟩ = _; rw [World.cell?_alloc_mark]; simpa using d
end Go.Proofs.YtbgbgigpcegenaaGreatDoor.tb
namespace Go.Proofs.YtbgbgigpcegenaaGreatDoor.wr
open Go Go.Lib
open Go.Proofs.YtbgbgigpcegenaaGreatDoor.tb (Pce)
set_option linter.unusedVariables false
set_option maxRecDepth 1000000
def t1 : ByteArray := ⟨#[227, 128, 128, 227, 128, 129, 227, 128, 130, 194, 183, 226, 128, 165, 226, 128, 166, 194, 168, 227, 128, 131, 194, 173, 226, 128, 149, 226, 136, 165, 239, 188, 188, 226, 136, 188, 226, 128, 152, 226, 128, 153, 226, 128, 156, 226, 128, 157, 227, 128, 148, 227, 128, 149, 227, 128, 136, 227, 128, 137, 227, 128, 138, 227, 128, 139, 227, 128, 140, 227, 128, 141, 227, 128, 142, 227, 128, 143, 227, 128, 144, 227, 128, 145, 194, 177, 195, 151, 195, 183, 226, 137, 160, 226, 137, 164, 226, 137, 165, 226, 136, 158, 226, 136, 180, 194, 176, 226, 128, 178, 226, 128, 179, 226, 132, 131, 226, 132, 171, 239, 191, 160, 239, 191, 161, 239, 191, 165, 226, 153, 130, 226, 153, 128, 226, 136, 160, 226, 138, 165, 226, 140, 146, 226, 136, 130, 226, 136, 135, 226, 137, 161, 226, 137, 146, 194, 167, 226, 128, 187, 226, 152, 134, 226, 152, 133, 226, 151, 139, 226, 151, 143, 226, 151, 142, 226, 151, 135, 226, 151, 134, 226, 150, 161, 226, 150, 160, 226, 150, 179, 226, 150, 178, 226, 150, 189, 226, 150, 188, 226, 134, 146, 226, 134, 144, 226, 134, 145, 226, 134, 147, 226, 134, 148, 227, 128, 147, 226, 137, 170, 226, 137, 171, 226, 136, 154, 226, 136, 189, 226, 136, 157, 226, 136, 181, 226, 136, 171, 226, 136, 172, 226, 136, 136, 226, 136, 139, 226, 138, 134, 226, 138, 135, 226, 138, 130, 226, 138, 131, 226, 136, 170, 226, 136, 169, 226, 136, 167, 226, 136, 168, 239, 191, 162]⟩
def t2 : ByteArray := ⟨#[226, 135, 146, 226, 135, 148, 226, 136, 128, 226, 136, 131, 194, 180, 239, 189, 158, 203, 135, 203, 152, 203, 157, 203, 154, 203, 153, 194, 184, 203, 155, 194, 161, 194, 191, 203, 144, 226, 136, 174, 226, 136, 145, 226, 136, 143, 194, 164, 226, 132, 137, 226, 128, 176, 226, 151, 129, 226, 151, 128, 226, 150, 183, 226, 150, 182, 226, 153, 164, 226, 153, 160, 226, 153, 161, 226, 153, 165, 226, 153, 167, 226, 153, 163, 226, 138, 153, 226, 151, 136, 226, 150, 163, 226, 151, 144, 226, 151, 145, 226, 150, 146, 226, 150, 164, 226, 150, 165, 226, 150, 168, 226, 150, 167, 226, 150, 166, 226, 150, 169, 226, 153, 168, 226, 152, 143, 226, 152, 142, 226, 152, 156, 226, 152, 158, 194, 182, 226, 128, 160, 226, 128, 161, 226, 134, 149, 226, 134, 151, 226, 134, 153, 226, 134, 150, 226, 134, 152, 226, 153, 173, 226, 153, 169, 226, 153, 170, 226, 153, 172, 227, 137, 191, 227, 136, 156, 226, 132, 150, 227, 143, 135, 226, 132, 162, 227, 143, 130, 227, 143, 152, 226, 132, 161, 226, 130, 172, 194, 174]⟩
def t3 : ByteArray := ⟨#[226, 148, 128, 226, 148, 130, 226, 148, 140, 226, 148, 144, 226, 148, 152, 226, 148, 148, 226, 148, 156, 226, 148, 172, 226, 148, 164, 226, 148, 180, 226, 148, 188, 226, 148, 129, 226, 148, 131, 226, 148, 143, 226, 148, 147, 226, 148, 155, 226, 148, 151, 226, 148, 163, 226, 148, 179, 226, 148, 171, 226, 148, 187, 226, 149, 139, 226, 148, 160, 226, 148, 175, 226, 148, 168, 226, 148, 183, 226, 148, 191, 226, 148, 157, 226, 148, 176, 226, 148, 165, 226, 148, 184, 226, 149, 130, 226, 148, 146, 226, 148, 145, 226, 148, 154, 226, 148, 153, 226, 148, 150, 226, 148, 149, 226, 148, 142, 226, 148, 141, 226, 148, 158, 226, 148, 159, 226, 148, 161, 226, 148, 162, 226, 148, 166, 226, 148, 167, 226, 148, 169, 226, 148, 170, 226, 148, 173, 226, 148, 174, 226, 148, 177, 226, 148, 178, 226, 148, 181, 226, 148, 182, 226, 148, 185, 226, 148, 186, 226, 148, 189, 226, 148, 190, 226, 149, 128, 226, 149, 129, 226, 149, 131, 226, 149, 132, 226, 149, 133, 226, 149, 134, 226, 149, 135, 226, 149, 136, 226, 149, 137, 226, 149, 138]⟩
/-- The rows that follow no rule. -/
def lsP : List Pce := [⟨41377, 0, 0, t1⟩, ⟨41633, 0, 0, t2⟩, ⟨42657, 0, 0, t3⟩]
/-- The rows of numbers one behind the other. -/
def spP : List Pce := [⟨41889, 65281, 59, ⟨#[]⟩⟩, ⟨41948, 65510, 1, ⟨#[]⟩⟩, ⟨41949, 65341, 33, ⟨#[]⟩⟩, ⟨41982, 65507, 1, ⟨#[]⟩⟩, ⟨42145, 12593, 94, ⟨#[]⟩⟩, ⟨42401, 8560, 10, ⟨#[]⟩⟩, ⟨42416, 8544, 10, ⟨#[]⟩⟩, ⟨42433, 913, 17, ⟨#[]⟩⟩, ⟨42450, 931, 7, ⟨#[]⟩⟩, ⟨42465, 945, 17, ⟨#[]⟩⟩, ⟨42482, 963, 7, ⟨#[]⟩⟩, ⟨43681, 12353, 83, ⟨#[]⟩⟩, ⟨43937, 12449, 86, ⟨#[]⟩⟩, ⟨44193, 1040, 6, ⟨#[]⟩⟩, ⟨44199, 1025, 1, ⟨#[]⟩⟩, ⟨44200, 1046, 26, ⟨#[]⟩⟩, ⟨44241, 1072, 6, ⟨#[]⟩⟩, ⟨44247, 1105, 1, ⟨#[]⟩⟩, ⟨44248, 1078, 26, ⟨#[]⟩⟩]
end Go.Proofs.YtbgbgigpcegenaaGreatDoor.wr
namespace Go.Proofs.YtbgbgigpcegenaaGreatDoor.wr
open Go.RowKit Go.Lib
open Go.Proofs.YtbgbgigpcegenaaGreatDoor.tb
set_option linter.unusedVariables false
theorem ls_ok : ∀ p ∈ lsP, p.ok := by
  intro p hp
  simp only [lsP, List.mem_cons, List.mem_nil_iff, or_false] at hp
  rcases hp with rfl | rfl | rfl <;> exact ⟨by decide, by decide, by decide, by decide, by decide, by decide, by decide +kernel⟩
theorem ls_small : ∀ p ∈ lsP, p.s.size ≤ 4000000 := by
  intro p hp
  simp only [lsP, List.mem_cons, List.mem_nil_iff, or_false] at hp
  rcases hp with rfl | rfl | rfl <;> decide +kernel
theorem sp_all : (spP.all fun p => decide (-9223372036854775808 ≤ p.f) && decide (p.f ≤ 9223372036854775807) && decide (-2147483648 ≤ p.t) && decide (p.t ≤ 2147483647) && decide (-9223372036854775808 ≤ p.c) && decide (p.c ≤ 9223372036854775807) && decide (p.s.size ≤ 4000000)) = true := by decide +kernel
theorem sp_ok : ∀ p ∈ spP, p.ok ∧ p.s.size ≤ 4000000 := by
  intro p hp
  have h := List.all_eq_true.1 sp_all p hp
  simp only [Bool.and_eq_true, decide_eq_true_eq] at h
  obtain ⟨⟨⟨⟨⟨⟨h1, h2⟩, h3⟩, h4⟩, h5⟩, h6⟩, h7⟩ := h
  exact ⟨⟨h1, h2, h3, h4, h5, h6, by omega⟩, h7⟩
/-- What lists and spans answer. -/
def RowsOf (l : List Pce) (n : Nat) (w : World) (e : Ending) (w' : World) : Prop := ∃ g, e = .returned (.slice (some ⟨g, 0, none⟩) n n) ∧ RowC w' (some ⟨g, 0, none⟩) n n l ∧ Below w.heap.size w w'
set_option maxRecDepth 1000000 in
set_option maxHeartbeats 4000000 in
theorem lists_any (w : World) : Calls Tryz.prog 149 #[] w (RowsOf lsP 3 w) := by
  have HB := Lib.hid (Below.refl w.heap.size w)
  have HL1 : Hid (∀ W, Calls Tryz.prog 100 #[.int .i64 41377, .string t1] W fun e w' => e = .returned (.agg #[.int .i64 41377, .int .i32 0, .int .i64 0, .string t1]) ∧ Below W.heap.size W w') := Lib.hid (fun W => list_any _ _ _)
  have HL2 : Hid (∀ W, Calls Tryz.prog 100 #[.int .i64 41633, .string t2] W fun e w' => e = .returned (.agg #[.int .i64 41633, .int .i32 0, .int .i64 0, .string t2]) ∧ Below W.heap.size W w') := Lib.hid (fun W => list_any _ _ _)
  have HL3 : Hid (∀ W, Calls Tryz.prog 100 #[.int .i64 42657, .string t3] W fun e w' => e = .returned (.agg #[.int .i64 42657, .int .i32 0, .int .i64 0, .string t3]) ∧ Below W.heap.size W w') := Lib.hid (fun W => list_any _ _ _)
  have HR : Hid (∀ W, Below w.heap.size w W → RowsOf lsP 3 w (.returned (.slice (some ⟨W.heap.size, 0, none⟩) 3 3)) (W.alloc (.cells #[.int .i64 41377, .int .i32 0, .int .i64 0, .string t1, .int .i64 41633, .int .i32 0, .int .i64 0, .string t2, .int .i64 42657, .int .i32 0, .int .i64 0, .string t3] 111))) := Lib.hid (fun W hb => ⟨_, rfl, rowC_new W lsP ls_ok (by decide) 111, hb.alloc hb.size _⟩)
  go_enter Tryz.func149, Tryz.ntmps149
  go_wp2_with (first
    | (go_at_call 100; refine (HL3.out _).mono ?_; rintro e1 w1 ⟨rfl, hb1⟩; have HB := Lib.hid (HB.out.trans (hb1.mono HB.out.size)); clear hb1)
    | (go_at_call 100; refine (HL2.out _).mono ?_; rintro e1 w1 ⟨rfl, hb1⟩; have HB := Lib.hid (HB.out.trans (hb1.mono HB.out.size)); clear hb1)
    | (go_at_call 100; refine (HL1.out _).mono ?_; rintro e1 w1 ⟨rfl, hb1⟩; have HB := Lib.hid (HB.out.trans (hb1.mono HB.out.size)); clear hb1))
  go_ret
  exact HR.out _ HB.out
set_option maxRecDepth 1000000 in
set_option maxHeartbeats 4000000 in
theorem spans_any (w : World) : Calls Tryz.prog 151 #[] w (RowsOf spP 19 w) := by
  have HB := Lib.hid (Below.refl w.heap.size w)
  have HR : Hid (∀ W, Below w.heap.size w W → RowsOf spP 19 w (.returned (.slice (some ⟨W.heap.size, 0, none⟩) 19 19)) (W.alloc (.cells (spP.flatMap pcell).toArray 111))) := Lib.hid (fun W hb => ⟨_, rfl, rowC_new W spP (fun p hp => (sp_ok p hp).1) (by decide) 111, hb.alloc hb.size _⟩)
  go_enter Tryz.func151, Tryz.ntmps151
  go_wp2_with (go_at_call 83; refine (seq_any _ _ _ _).mono ?_; rintro e1 w1 ⟨rfl, hb1⟩; have HB := Lib.hid (HB.out.trans (hb1.mono HB.out.size)); clear hb1)
  go_ret
  exact HR.out _ HB.out
end Go.Proofs.YtbgbgigpcegenaaGreatDoor.wr
namespace Go.Proofs.YtbgbgigpcegenaaGreatDoor.wr
open Go.RowKit Go.Lib
open Go.Proofs.YtbgbgigpcegenaaGreatDoor.tb
set_option linter.unusedVariables false
/-- The sign of a text that has so many ahead. -/
def saO (zs : List Nat) (A : Int) : Option Nat := if 0 ≤ A then zs[A.toNat]? else none
def opV (o : Option Nat) : Value := match o with
  | some z => .tuple #[.int .i32 (z : Int), .bool true]
  | none => .tuple #[.int .i32 0, .bool false]
theorem saO_past {zs : List Nat} {A : Int} {k : Nat} (h : zs.length ≤ k) (hA : ¬ (0 ≤ A ∧ A < (k : Int))) : saO zs A = none := by
  unfold saO
  by_cases h0 : 0 ≤ A
  · rw [if_pos h0]; exact List.getElem?_eq_none (by omega)
  · rw [if_neg h0]
set_option maxRecDepth 100000 in
set_option maxHeartbeats 2000000 in
theorem signAt_any (s : ByteArray) (zs : List Nat) (A : Int) (w : World) (hs : s.size ≤ 4000000) (hsc : pt.scan s = (zs, none)) (a0 : -1000000 ≤ A) (a1 : A ≤ 1000000) :
    Calls Tryz.prog 150 #[.string s, .int .i64 A] w fun e w' => e = .returned (opV (saO zs A)) ∧ Below w.heap.size w w' := by
  obtain ⟨PP, hPP⟩ : ∃ PP, PP = opV (saO zs A) := ⟨_, rfl⟩
  rw [← hPP]
  have HPP := Lib.hid hPP
  have HZ := Lib.hid hsc
  clear hPP hsc
  go_enter Tryz.func150, Tryz.ntmps150
  go_wp2_with fail
  go_loopw [1] (fun a wr => ∃ (pos f k : Nat), wr.heap[w.heap.size]? = some (.stringIter s pos) ∧ s.size ≤ pos + f ∧ pt.sc s f pos = (zs.drop k, none) ∧ k ≤ pos ∧ pos ≤ s.size ∧ a = .int .i64 (A - (k : Int)) ∧ ¬ (0 ≤ A ∧ A < (k : Int)) ∧ Below w.heap.size w wr) (fun _ wr => s.size - wr.iterPos w.heap.size)
  case atStart =>
    exact ⟨0, s.size, 0, World.iter_heap w s 0, by omega, by rw [List.drop_zero]; exact HZ.out, Nat.le_refl _, Nat.zero_le _, by simp, by omega, (Below.refl _ _).alloc (Nat.le_refl _) _⟩
  case round =>
    obtain ⟨pos, f, k, hit, hf, hsc, hk, hps, rfl, hne, hB⟩ := hrel
    have HIT := Lib.hid hit; have HSC := Lib.hid hsc; have HB := Lib.hid hB; have HNE := Lib.hid hne
    clear hit hsc hB hne
    by_cases hp : pos < s.size
    · have hnx : ∀ ty, (Instr.next (.pointer (some ⟨w.heap.size, 0, none⟩)) true ty).run Tryz.prog wr = _ := fun ty => run_next_any_at wr w.heap.size s pos ty HIT.out hp
      have hB1 : Below w.heap.size w (wr.iterAt w.heap.size s (pos + (Utf8.decode s pos).2)) := below_iterAt HB.out (by omega) s _
      have hI1 := iterAt_heap wr w.heap.size s pos (pos + (Utf8.decode s pos).2) HIT.out
      have hw1 : 1 ≤ (Utf8.decode s pos).2 := width_pos s pos
      have hr32 : (Utf8.decode s pos).1 ≤ 1114111 := rune_le s pos
      obtain ⟨f1, rfl⟩ : ∃ f1, f = f1 + 1 := ⟨f - 1, by omega⟩
      have hsc1 := HSC.out
      have hfit := pt.width_fits s pos hp
      cases hb : pt.bad s pos with
      | true => rw [pt.sc_bad s (f1 + 1) pos hp hf hb] at hsc1; simp at hsc1
      | false =>
        rw [pt.sc_good s f1 pos hp hb] at hsc1
        simp only [Prod.mk.injEq] at hsc1
        obtain ⟨h1, h2⟩ := hsc1
        have hkl : k < zs.length := by
          rcases Nat.lt_or_ge k zs.length with h | h
          · exact h
          · rw [List.drop_eq_nil_of_le h] at h1; cases h1
        rw [List.drop_eq_getElem_cons hkl] at h1
        injection h1 with h3 h4
        have HG : Hid (zs[k]? = some (Utf8.decode s pos).1) := Lib.hid (by rw [List.getElem?_eq_getElem hkl, h3])
        have HS2 : Hid (pt.sc s f1 (pos + (Utf8.decode s pos).2) = (zs.drop (k + 1), none)) := Lib.hid (Prod.ext h4 h2)
        have H1 := Lib.hid hB1; have H5 := Lib.hid hI1
        have hpm : s.size - (pos + (Utf8.decode s pos).2) < s.size - pos := by omega
        have hpf : s.size ≤ pos + (Utf8.decode s pos).2 + f1 := by omega
        clear hB1 hI1 hb h2 h3 h4 hkl
        generalize Utf8.decode s pos = d at *
        by_cases hz : A - (k : Int) = 0
        · have HV : Hid (PP = .tuple #[.int .i32 (d.1 : Int), .bool true]) := Lib.hid (by
            rw [HPP.out]
            unfold saO
            rw [if_pos (by omega), show A.toNat = k by omega, HG.out]
            rfl)
          go_wp2_with fail
          go_ret2
          exact ⟨by rw [HV.out]; rfl, H1.out⟩
        · have e1 : IntKind.i64.wrap (A - (k : Int) - 1) = A - (k : Int) - 1 := by simp [IntKind.wrap, IntKind.bits, IntKind.signed]; omega
          go_wp2_with fail
          go_roundw
          case rel => exact ⟨pos + d.2, f1, k + 1, H5.out, hpf, HS2.out, by omega, hfit, by go_num, by have := HNE.out; omega, H1.out⟩
          case measure => rw [iterPos_of H5.out, iterPos_of HIT.out]; exact hpm
    · have hnx : ∀ ty, (Instr.next (.pointer (some ⟨w.heap.size, 0, none⟩)) true ty).run Tryz.prog wr = _ := fun ty => run_next_end_at wr w.heap.size s pos ty HIT.out hp
      have HV : Hid (PP = .tuple #[.int .i32 0, .bool false]) := Lib.hid (by
        have h := HSC.out
        rw [pt.sc_end s f pos hp] at h
        simp only [Prod.mk.injEq] at h
        have hl : zs.length ≤ k := List.drop_eq_nil_iff.1 h.1.symm
        rw [HPP.out, saO_past hl HNE.out]
        rfl)
      go_wp2_with fail
      go_ret2
      exact ⟨by rw [HV.out]; rfl, HB.out⟩
end Go.Proofs.YtbgbgigpcegenaaGreatDoor.wr
namespace Go.Proofs.YtbgbgigpcegenaaGreatDoor.wr
open Go.RowKit Go.Lib
open Go.Proofs.YtbgbgigpcegenaaGreatDoor.tb
set_option linter.unusedVariables false
theorem scan_t1 : pt.scan t1 = (wa.a1L, none) := by decide +kernel
theorem scan_t2 : pt.scan t2 = (wa.a2L, none) := by decide +kernel
theorem scan_t3 : pt.scan t3 = (wa.a6L, none) := by decide +kernel
/-- The lists, as their codes and signs; the spans, as numbers. -/
def lsZ : List (Nat × List Nat) := [(41377, wa.a1L), (41633, wa.a2L), (42657, wa.a6L)]
def spZ : List (Nat × Nat × Nat) := spP.map fun p => (p.f.toNat, p.t.toNat, p.c.toNat)
def lsS (C : Int) : List (Nat × List Nat) → Option Nat
  | [] => none
  | q :: l => match saO q.2 (C - (q.1 : Int)) with
    | some z => some z
    | none => lsS C l
def spS (C : Int) : List (Nat × Nat × Nat) → Option Nat
  | [] => none
  | q :: l => if (q.1 : Int) ≤ C ∧ C < (q.1 : Int) + (q.2.2 : Int) then some (q.2.1 + (C.toNat - q.1)) else spS C l
/-- What signOfCode finds. -/
def soc (C : Int) : Option Nat := match lsS C lsZ with
  | some z => some z
  | none => spS C spZ
/-- A piece of lists. -/
theorem ls_at (j : Nat) (h : j < 3) : (lsP.getD j p0).f = ((lsZ.getD j (0, [])).1 : Int) ∧ pt.scan (lsP.getD j p0).s = ((lsZ.getD j (0, [])).2, none) ∧ (lsP.getD j p0).s.size ≤ 4000000 ∧ 0 ≤ (lsP.getD j p0).f ∧ (lsP.getD j p0).f ≤ 65535 ∧ lsZ.drop j = lsZ.getD j (0, []) :: lsZ.drop (j + 1) := by
  have h3 : j = 0 ∨ j = 1 ∨ j = 2 := by omega
  rcases h3 with rfl | rfl | rfl
  · exact ⟨rfl, scan_t1, ls_small _ (.head _), by decide, by decide, rfl⟩
  · exact ⟨rfl, scan_t2, ls_small _ (.tail _ (.head _)), by decide, by decide, rfl⟩
  · exact ⟨rfl, scan_t3, ls_small _ (.tail _ (.tail _ (.head _))), by decide, by decide, rfl⟩
theorem sp_nat : ((List.range 19).all fun j => decide ((spP.getD j p0).f = ((spZ.getD j (0, 0, 0)).1 : Int)) && decide ((spP.getD j p0).t = ((spZ.getD j (0, 0, 0)).2.1 : Int)) && decide ((spP.getD j p0).c = ((spZ.getD j (0, 0, 0)).2.2 : Int)) && decide ((spZ.getD j (0, 0, 0)).1 ≤ 65535) && decide ((spZ.getD j (0, 0, 0)).2.1 ≤ 65535) && decide ((spZ.getD j (0, 0, 0)).2.2 ≤ 100)) = true := by decide +kernel
theorem sp_at (j : Nat) (h : j < 19) : (spP.getD j p0).f = ((spZ.getD j (0, 0, 0)).1 : Int) ∧ (spP.getD j p0).t = ((spZ.getD j (0, 0, 0)).2.1 : Int) ∧ (spP.getD j p0).c = ((spZ.getD j (0, 0, 0)).2.2 : Int) ∧ (spZ.getD j (0, 0, 0)).1 ≤ 65535 ∧ (spZ.getD j (0, 0, 0)).2.1 ≤ 65535 ∧ (spZ.getD j (0, 0, 0)).2.2 ≤ 100 := by
  have := List.all_eq_true.1 sp_nat j (List.mem_range.2 h)
  simpa only [Bool.and_eq_true, decide_eq_true_eq, and_assoc] using this
theorem spZ_len : spZ.length = 19 := by decide +kernel
theorem sp_drop (j : Nat) (h : j < 19) : spZ.drop j = spZ.getD j (0, 0, 0) :: spZ.drop (j + 1) := by
  have hl : j < spZ.length := by rw [spZ_len]; exact h
  rw [List.drop_eq_getElem_cons hl]
  congr 1
  simp [List.getD, List.getElem?_eq_getElem hl]
set_option maxRecDepth 100000 in
set_option maxHeartbeats 4000000 in
theorem signOf_any (C : Int) (w : World) (c0 : 0 ≤ C) (c1 : C ≤ 65535) : Calls Tryz.prog 110 #[.int .i64 C] w fun e w' => e = .returned (opV (soc C)) ∧ Below w.heap.size w w' := by
  obtain ⟨PP, hPP⟩ : ∃ PP, PP = opV (soc C) := ⟨_, rfl⟩
  rw [← hPP]
  have HPP := Lib.hid hPP
  have HL := Lib.hid (fun W => lists_any W)
  have HS := Lib.hid (fun W => spans_any W)
  clear hPP
  go_enter Tryz.func110, Tryz.ntmps110
  go_wp2_with (go_at_call 149; refine (HL.out _).mono ?_; rintro e1 w1 ⟨g1, rfl, hr1, hb1⟩; have R1 := Lib.hid hr1; have B1 := Lib.hid hb1; clear hr1 hb1)
  go_loopw [13] (fun i wr => ∃ j : Nat, j ≤ 3 ∧ i = .int .i64 j ∧ lsS C lsZ = lsS C (lsZ.drop j) ∧ RowC wr (some ⟨g1, 0, none⟩) 3 3 lsP ∧ Below w.heap.size w wr) (fun i _ => 3 - (RowKit.intOf i).toNat)
  case atStart => exact ⟨0, by omega, rfl, rfl, R1.out, B1.out⟩
  case round =>
    obtain ⟨j, hj, rfl, hls, hrc, hB⟩ := hrel
    have HLS := Lib.hid hls; have HR := Lib.hid hrc; have HB := Lib.hid hB
    clear hls hrc hB
    by_cases hlt : j < 3
    · obtain ⟨a, ha, _, _, hc, _, _, _⟩ := HR.out.at j hlt
      cases ha
      rw [show (⟨g1, 0, none⟩ : Addr).add (j * 4) = ⟨g1, j * 4, none⟩ by rw [Addr.add_lit, Nat.zero_add]] at hc
      obtain ⟨k0, k1, k2, k3⟩ := hc
      dsimp only at k1 k2 k3
      obtain ⟨f1, f2, f3, f4, f5, f6⟩ := ls_at j hlt
      have HSA := Lib.hid (fun W => signAt_any (lsP.getD j p0).s (lsZ.getD j (0, [])).2 (C - (lsP.getD j p0).f) W f3 f2 (by omega) (by omega))
      have HLN : Hid (lsS C (lsZ.drop j) = match saO (lsZ.getD j (0, [])).2 (C - (lsP.getD j p0).f) with | some z => some z | none => lsS C (lsZ.drop (j + 1))) := Lib.hid (by rw [f6, f1]; rfl)
      have e1 : IntKind.i64.wrap (C - (lsP.getD j p0).f) = C - (lsP.getD j p0).f := wa.wrap64 (by omega) (by omega)
      have HB1 := Lib.hid (HB.out.alloc HB.out.size (.cells #[.int .i64 (lsP.getD j p0).f, .int .i32 (lsP.getD j p0).t, .int .i64 (lsP.getD j p0).c, .string (lsP.getD j p0).s] 111))
      have HR1 := Lib.hid (HR.out.below ((Below.refl wr.heap.size wr).alloc (Nat.le_refl _) (.cells #[.int .i64 (lsP.getD j p0).f, .int .i32 (lsP.getD j p0).t, .int .i64 (lsP.getD j p0).c, .string (lsP.getD j p0).s] 111)))
      clear f1 f2 f3 f6
      generalize lsZ.getD j (0, []) = Z at *
      generalize lsP.getD j p0 = p at *
      cases hs : saO Z.2 (C - p.f) with
      | some z =>
        rw [hs] at HSA HLN
        have HV : Hid (PP = .tuple #[.int .i32 (z : Int), .bool true]) := Lib.hid (by rw [HPP.out]; unfold soc; rw [HLS.out, HLN.out]; rfl)
        unfold opV at HSA
        generalize p.f = F at *
        generalize p.t = T at *
        generalize p.c = D at *
        generalize p.s = S at *
        clear hs
        go_wp2_with (go_at_call 150; refine (HSA.out _).mono ?_; rintro e2 w2 ⟨rfl, hb2⟩; have B2 := Lib.hid (HB1.out.trans (hb2.mono HB1.out.size)); clear hb2)
        go_ret2
        exact ⟨by rw [HV.out]; rfl, B2.out⟩
      | none =>
        rw [hs] at HSA HLN
        unfold opV at HSA
        generalize p.f = F at *
        generalize p.t = T at *
        generalize p.c = D at *
        generalize p.s = S at *
        clear hs
        go_wp2_with (go_at_call 150; refine (HSA.out _).mono ?_; rintro e2 w2 ⟨rfl, hb2⟩; have B2 := Lib.hid (HB1.out.trans (hb2.mono HB1.out.size)); have R2 := Lib.hid (HR1.out.below hb2); clear hb2)
        go_roundw
        case rel => exact ⟨j + 1, by omega, by go_num, by rw [HLS.out, HLN.out], R2.out, B2.out⟩
        case measure => simp [RowKit.intOf]; omega
    · obtain rfl : j = 3 := by omega
      have HPS : Hid (PP = opV (spS C spZ)) := Lib.hid (by rw [HPP.out]; unfold soc; rw [HLS.out]; rfl)
      clear HLS HR hlt
      go_wp2_with (go_at_call 151; refine (HS.out _).mono ?_; rintro e1 w3 ⟨g3, rfl, hr3, hb3⟩; have R3 := Lib.hid hr3; have B3 := Lib.hid (HB.out.trans (hb3.mono HB.out.size)); clear hr3 hb3)
      go_loopw [32] (fun i wr => ∃ j : Nat, j ≤ 19 ∧ i = .int .i64 j ∧ spS C spZ = spS C (spZ.drop j) ∧ RowC wr (some ⟨g3, 0, none⟩) 19 19 spP ∧ Below w.heap.size w wr) (fun i _ => 19 - (RowKit.intOf i).toNat)
      case atStart => exact ⟨0, by omega, rfl, rfl, R3.out, B3.out⟩
      case round =>
        obtain ⟨j, hj, rfl, hls, hrc, hB⟩ := hrel
        have HLS := Lib.hid hls; have HR := Lib.hid hrc; have HBB := Lib.hid hB
        clear hls hrc hB
        by_cases hlt : j < 19
        · obtain ⟨a, ha, _, _, hc, _, _, _⟩ := HR.out.at j hlt
          cases ha
          rw [show (⟨g3, 0, none⟩ : Addr).add (j * 4) = ⟨g3, j * 4, none⟩ by rw [Addr.add_lit, Nat.zero_add]] at hc
          obtain ⟨k0, k1, k2, k3⟩ := hc
          dsimp only at k1 k2 k3
          obtain ⟨f1, f2, f3, f4, f5, f6⟩ := sp_at j hlt
          have HLN : Hid (spS C (spZ.drop j) = if ((spZ.getD j (0, 0, 0)).1 : Int) ≤ C ∧ C < ((spZ.getD j (0, 0, 0)).1 : Int) + ((spZ.getD j (0, 0, 0)).2.2 : Int) then some ((spZ.getD j (0, 0, 0)).2.1 + (C.toNat - (spZ.getD j (0, 0, 0)).1)) else spS C (spZ.drop (j + 1))) := Lib.hid (by rw [sp_drop j hlt]; rfl)
          generalize spZ.getD j (0, 0, 0) = Z at *
          obtain ⟨Zf, Zt, Zc⟩ := Z
          simp only at f1 f2 f3 f4 f5 f6 HLN
          have HB1 := Lib.hid (HBB.out.alloc HBB.out.size (.cells #[.int .i64 (spP.getD j p0).f, .int .i32 (spP.getD j p0).t, .int .i64 (spP.getD j p0).c, .string (spP.getD j p0).s] 111))
          have HR1 := Lib.hid (HR.out.below ((Below.refl wr.heap.size wr).alloc (Nat.le_refl _) (.cells #[.int .i64 (spP.getD j p0).f, .int .i32 (spP.getD j p0).t, .int .i64 (spP.getD j p0).c, .string (spP.getD j p0).s] 111)))
          generalize spP.getD j p0 = p at *
          have q4 : 0 ≤ p.f := by omega
          have q5 : p.f ≤ 65535 := by omega
          have q6 : 0 ≤ p.t := by omega
          have q7 : p.t ≤ 65535 := by omega
          have q8 : 0 ≤ p.c := by omega
          have q9 : p.c ≤ 100 := by omega
          have e1 : IntKind.i64.wrap (C - p.f) = C - p.f := wa.wrap64 (by omega) (by omega)
          by_cases hin : 0 ≤ C - p.f ∧ C - p.f < p.c
          · have HBL := Lib.hid (fun W => wa.below_yes (C - p.f) p.c W hin.1 hin.2)
            have e2 : IntKind.i32.wrap (C - p.f) = C - p.f := wa.wrap32 (by omega) (by omega)
            have e3 : IntKind.i32.wrap (p.t + (C - p.f)) = p.t + (C - p.f) := wa.wrap32 (by omega) (by omega)
            have HV : Hid (PP = .tuple #[.int .i32 (p.t + (C - p.f)), .bool true]) := Lib.hid (by
              rw [HPS.out, HLS.out, HLN.out, if_pos (by omega)]
              show Value.tuple #[.int .i32 ((Zt + (C.toNat - Zf) : Nat) : Int), .bool true] = _
              rw [show ((Zt + (C.toNat - Zf) : Nat) : Int) = p.t + (C - p.f) by omega])
            clear f1 f2 f3 hin HLN
            generalize p.f = F at *
            generalize p.t = T at *
            generalize p.c = D at *
            generalize p.s = S at *
            go_wp2_with (go_at_call 147; refine (HBL.out _).mono ?_; rintro e2 w2 ⟨rfl, rfl⟩)
            go_ret2
            exact ⟨by rw [HV.out]; rfl, HB1.out⟩
          · have HBL := Lib.hid (fun W => wa.below_no (C - p.f) p.c W (by omega))
            have HN : Hid (spS C (spZ.drop j) = spS C (spZ.drop (j + 1))) := Lib.hid (by rw [HLN.out, if_neg (by omega)])
            clear f1 f2 f3 hin HLN
            generalize p.f = F at *
            generalize p.t = T at *
            generalize p.c = D at *
            generalize p.s = S at *
            go_wp2_with (go_at_call 147; refine (HBL.out _).mono ?_; rintro e2 w2 ⟨rfl, rfl⟩)
            go_roundw
            case rel => exact ⟨j + 1, by omega, by go_num, by rw [HLS.out, HN.out], HR1.out, HB1.out⟩
            case measure => simp [RowKit.intOf]; omega
        · obtain rfl : j = 19 := by omega
          have HV : Hid (PP = .tuple #[.int .i32 0, .bool false]) := Lib.hid (by
            rw [HPS.out, HLS.out, List.drop_eq_nil_of_le (Nat.le_of_eq spZ_len)]
            rfl)
          go_wp2_with fail
          go_ret2
          exact ⟨by rw [HV.out]; rfl, HBB.out⟩
end Go.Proofs.YtbgbgigpcegenaaGreatDoor.wr
namespace Go.Proofs.YtbgbgigpcegenaaGreatDoor.wr
open Go.RowKit Go.Lib
open Go.Proofs.YtbgbgigpcegenaaGreatDoor.tb
open Go.Proofs.YtbgbgigpcegenaaGreatDoor.wa (rowJ cdJ row sgW sec kth plV plI plI_kth plI_none sgV sgV_pos tot)
set_option linter.unusedVariables false
theorem soc_all : ((List.range 1128).all fun j => soc ((cdJ j : Nat) : Int) == (if rowJ j = 0 then none else some (rowJ j))) = true := by decide +kernel
theorem soc_J {j : Nat} (h : j < 1128) : soc ((cdJ j : Nat) : Int) = if rowJ j = 0 then none else some (rowJ j) := by
  have := List.all_eq_true.1 soc_all j (List.mem_range.2 h)
  simpa using this
theorem ls_ends : (lsZ.all fun q => decide (q.1 + q.2.length ≤ 44289)) = true := by decide +kernel
theorem sp_ends : (spZ.all fun q => decide (q.1 + q.2.2 ≤ 44289)) = true := by decide +kernel
theorem lsS_far (C : Int) (h : 44289 ≤ C) : ∀ l : List (Nat × List Nat), (l.all fun q => decide (q.1 + q.2.length ≤ 44289)) = true → lsS C l = none
  | [], _ => rfl
  | q :: l, hl => by
    simp only [List.all_cons, Bool.and_eq_true, decide_eq_true_eq] at hl
    unfold lsS
    rw [show saO q.2 (C - (q.1 : Int)) = none from saO_past (Nat.le_refl _) (by omega)]
    exact lsS_far C h l hl.2
theorem spS_far (C : Int) (h : 44289 ≤ C) : ∀ l : List (Nat × Nat × Nat), (l.all fun q => decide (q.1 + q.2.2 ≤ 44289)) = true → spS C l = none
  | [], _ => rfl
  | q :: l, hl => by
    simp only [List.all_cons, Bool.and_eq_true, decide_eq_true_eq] at hl
    unfold spS
    rw [if_neg (by omega)]
    exact spS_far C h l hl.2
theorem soc_far {C : Int} (h : 44289 ≤ C) : soc C = none := by
  unfold soc
  rw [lsS_far C h _ ls_ends]
  exact spS_far C h _ sp_ends
theorem soc_row {l b : Nat} (l0 : 161 ≤ l) (l1 : l ≤ 254) (b0 : 161 ≤ b) (b1 : b ≤ 254) : opV (soc ((l * 256 + b : Nat) : Int)) = sgV (row l b) := by
  by_cases h : l ≤ 172
  · obtain ⟨h1, h2⟩ := wa.row_J l0 h b0 b1
    have h3 := soc_J h2
    rw [show cdJ ((l - 161) * 94 + (b - 161)) = l * 256 + b by unfold cdJ; omega] at h3
    rw [h3, h1]
    by_cases hz : rowJ ((l - 161) * 94 + (b - 161)) = 0
    · rw [if_pos hz, hz]; rfl
    · rw [if_neg hz, sgV_pos hz]; rfl
  · rw [soc_far (by omega), wa.row_hi (.inl (by omega))]; rfl
/-- What extraOfBytes answers. -/
def exV (l b : Nat) : Value := match sec b with
  | none => .tuple #[.int .i32 0, .bool false]
  | some t => if l < 129 then .tuple #[.int .i32 0, .bool false] else if l < 161 then plV (((l - 129) * 178 + t : Nat) : Int) false else if t < 84 then plV ((5696 + (l - 161) * 84 + t : Nat) : Int) false else .tuple #[.int .i32 0, .bool false]
theorem sec_lt {b t : Nat} (h : sec b = some t) : t < 178 ∧ (b < 161 ↔ t < 84) := by
  unfold sec at h
  by_cases h1 : 65 ≤ b ∧ b ≤ 90
  · rw [if_pos h1] at h; injection h with h; omega
  · rw [if_neg h1] at h
    by_cases h2 : 97 ≤ b ∧ b ≤ 122
    · rw [if_pos h2] at h; injection h with h; omega
    · rw [if_neg h2] at h
      by_cases h3 : 129 ≤ b ∧ b ≤ 254
      · rw [if_pos h3] at h; injection h with h; omega
      · rw [if_neg h3] at h; cases h
theorem plV_shape (k : Int) (b : Bool) : ∃ (z : Int) (t : Bool), plV k b = .tuple #[.int .i32 z, .bool t] := ⟨_, _, rfl⟩
set_option maxRecDepth 100000 in
set_option maxHeartbeats 2000000 in
theorem extraOf_any (l b : Nat) (w : World) (hT : pt.Tabs w) (hl : l < 256) (hb : b < 256) : Calls Tryz.prog 107 #[.int .u8 l, .int .u8 b] w fun e w' => e = .returned (exV l b) ∧ Below w.heap.size w w' := by
  have HN := Lib.hid (fun W => wa.secnum_any b W hb)
  have g0 : (0 : Int) ≤ (l : Int) := by omega
  have g1 : (l : Int) < 256 := by omega
  have HT := Lib.hid hT
  unfold exV
  unfold wa.snV at HN
  cases hs : sec b with
  | none =>
    rw [hs] at HN
    clear hs hT
    go_enter Tryz.func107, Tryz.ntmps107
    go_wp2_with (go_at_call 145; refine (HN.out _).mono ?_; rintro e1 w1 ⟨rfl, rfl⟩)
    go_ret2
    exact ⟨rfl, Below.refl _ _⟩
  | some t =>
    rw [hs] at HN
    have ht := (sec_lt hs).1
    have t0 : (0 : Int) ≤ (t : Int) := by omega
    have t1 : (t : Int) < 178 := by omega
    clear hs
    show Calls _ _ _ _ fun e w' => e = .returned (if l < 129 then _ else if l < 161 then _ else if t < 84 then _ else _) ∧ _
    by_cases h1 : l < 129
    · rw [if_pos h1]
      have k1 : (l : Int) < 129 := by omega
      clear h1 hT
      go_enter Tryz.func107, Tryz.ntmps107
      go_wp2_with (go_at_call 145; refine (HN.out _).mono ?_; rintro e1 w1 ⟨rfl, rfl⟩)
      go_ret2
      exact ⟨rfl, Below.refl _ _⟩
    · rw [if_neg h1]
      have k1 : ¬ (l : Int) < 129 := by omega
      by_cases h2 : l < 161
      · rw [if_pos h2]
        have k2 : (l : Int) < 161 := by omega
        have HE := Lib.hid (fun W h => wa.extra_any ((((l - 129) * 178 + t : Nat)) : Int) W h (by omega) (by omega))
        rw [show ((((l - 129) * 178 + t : Nat)) : Int) = ((l : Int) - 129) * 178 + (t : Int) by omega] at HE ⊢
        have e1 : IntKind.u8.wrap ((l : Int) - 129) = (l : Int) - 129 := wa.wrapU8 (by omega) (by omega)
        have e2 : IntKind.i64.wrap ((l : Int) - 129) = (l : Int) - 129 := wa.wrap64 (by omega) (by omega)
        have e3 : IntKind.i64.wrap (((l : Int) - 129) * 178) = ((l : Int) - 129) * 178 := wa.wrap64 (by omega) (by omega)
        have e4 : IntKind.i64.wrap (((l : Int) - 129) * 178 + (t : Int)) = ((l : Int) - 129) * 178 + (t : Int) := wa.wrap64 (by omega) (by omega)
        obtain ⟨z, u, hz⟩ := plV_shape (((l : Int) - 129) * 178 + (t : Int)) false
        rw [hz] at HE ⊢
        clear h1 h2 hT hz
        go_enter Tryz.func107, Tryz.ntmps107
        go_wp2_with (first | (go_at_call 145; refine (HN.out _).mono ?_; rintro e1 w1 ⟨rfl, rfl⟩) | (go_at_call 146; refine (HE.out _ HT.out).mono ?_; rintro e2 w2 ⟨rfl, hb2⟩; have B2 := Lib.hid hb2; clear hb2))
        go_ret2
        exact ⟨rfl, B2.out⟩
      · rw [if_neg h2]
        have k2 : ¬ (l : Int) < 161 := by omega
        by_cases h3 : t < 84
        · rw [if_pos h3]
          have k3 : (t : Int) < 84 := by omega
          have HE := Lib.hid (fun W h => wa.extra_any (((5696 + (l - 161) * 84 + t : Nat)) : Int) W h (by omega) (by omega))
          rw [show (((5696 + (l - 161) * 84 + t : Nat)) : Int) = 5696 + ((l : Int) - 161) * 84 + (t : Int) by omega] at HE ⊢
          have e1 : IntKind.u8.wrap ((l : Int) - 161) = (l : Int) - 161 := wa.wrapU8 (by omega) (by omega)
          have e2 : IntKind.i64.wrap ((l : Int) - 161) = (l : Int) - 161 := wa.wrap64 (by omega) (by omega)
          have e3 : IntKind.i64.wrap (((l : Int) - 161) * 84) = ((l : Int) - 161) * 84 := wa.wrap64 (by omega) (by omega)
          have e4 : IntKind.i64.wrap (5696 + ((l : Int) - 161) * 84) = 5696 + ((l : Int) - 161) * 84 := wa.wrap64 (by omega) (by omega)
          have e5 : IntKind.i64.wrap (5696 + ((l : Int) - 161) * 84 + (t : Int)) = 5696 + ((l : Int) - 161) * 84 + (t : Int) := wa.wrap64 (by omega) (by omega)
          obtain ⟨z, u, hz⟩ := plV_shape (5696 + ((l : Int) - 161) * 84 + (t : Int)) false
          rw [hz] at HE ⊢
          clear h1 h2 h3 hT hz
          go_enter Tryz.func107, Tryz.ntmps107
          go_wp2_with (first | (go_at_call 145; refine (HN.out _).mono ?_; rintro e1 w1 ⟨rfl, rfl⟩) | (go_at_call 146; refine (HE.out _ HT.out).mono ?_; rintro e2 w2 ⟨rfl, hb2⟩; have B2 := Lib.hid hb2; clear hb2))
          go_ret2
          exact ⟨rfl, B2.out⟩
        · rw [if_neg h3]
          have k3 : ¬ (t : Int) < 84 := by omega
          clear h1 h2 h3 hT
          go_enter Tryz.func107, Tryz.ntmps107
          go_wp2_with (go_at_call 145; refine (HN.out _).mono ?_; rintro e1 w1 ⟨rfl, rfl⟩)
          go_ret2
          exact ⟨rfl, Below.refl _ _⟩
theorem plV_sg (k : Nat) : plV (k : Int) false = sgV (kth k false) := by
  unfold plV sgV
  rw [plI_kth]
  by_cases h : kth k false = 0
  · rw [h]; rfl
  · rw [decide_eq_true h]
    have : (((kth k false : Nat) : Int) != 0) = true := by rw [bne, beq_eq_false_iff_ne.2 (show ((kth k false : Nat) : Int) ≠ 0 by omega)]; rfl
    rw [this]
/-- Beside the rows extraOfBytes is the document's. -/
theorem exV_sg {l b : Nat} (hl : l < 256) (hb : b < 256) (h : ¬ (161 ≤ l ∧ l ≤ 254 ∧ 161 ≤ b ∧ b ≤ 254)) : exV l b = sgV (sgW l b) := by
  unfold exV sgW
  cases hs : sec b with
  | none => rfl
  | some t =>
    obtain ⟨h1, h2⟩ := sec_lt hs
    have hb2 : b ≤ 254 := by
      unfold sec at hs
      by_cases q : b ≤ 254
      · exact q
      · rw [if_neg (by omega), if_neg (by omega), if_neg (by omega)] at hs; cases hs
    show (if l < 129 then _ else if l < 161 then _ else if t < 84 then _ else _) = sgV (if l < 129 ∨ 254 < l then _ else if l < 161 then _ else if b < 161 then _ else _)
    by_cases k1 : l < 129
    · rw [if_pos k1, if_pos (.inl k1)]; rfl
    rw [if_neg k1]
    by_cases k2 : l < 161
    · rw [if_pos k2, if_neg (by omega), if_pos k2]; exact plV_sg _
    rw [if_neg k2]
    by_cases k3 : 254 < l
    · rw [if_pos (show l < 129 ∨ 254 < l from .inr k3)]
      by_cases k4 : t < 84
      · rw [if_pos k4, plV_sg, wa.kth_none (by have e : tot false = 8822 := rfl; omega)]
      · rw [if_neg k4]; rfl
    · rw [if_neg (show ¬ (l < 129 ∨ 254 < l) by omega), if_neg k2]
      have k5 : b < 161 := by omega
      rw [if_pos k5, if_pos (h2.1 k5)]; exact plV_sg _
theorem rBool' {a b : Bool} (h : a = b) : Ending.returned (.bool a) = .returned (.bool b) := by rw [h]
set_option maxRecDepth 100000 in
theorem inRows_no (l b : Nat) (w : World) (h : ¬ (161 ≤ l ∧ l ≤ 254 ∧ 161 ≤ b ∧ b ≤ 254)) : Calls Tryz.prog 106 #[.int .u8 l, .int .u8 b] w fun e w' => e = .returned (.bool false) ∧ w = w' := by
  have hc : (l : Int) < 161 ∨ ((161 : Int) ≤ l ∧ (254 : Int) < l) ∨ ((161 : Int) ≤ l ∧ (l : Int) ≤ 254 ∧ (b : Int) < 161) ∨ ((161 : Int) ≤ l ∧ (l : Int) ≤ 254 ∧ (161 : Int) ≤ b ∧ decide ((b : Int) ≤ 254) = false) := by
    rw [decide_eq_false_iff_not]; omega
  clear h
  rcases hc with h | ⟨h, h'⟩ | ⟨h, h', h''⟩ | ⟨h, h', h'', h3⟩
  · go_enter Tryz.func106, Tryz.ntmps106
    go_wp2
    go_ret
    exact ⟨rfl, rfl⟩
  · go_enter Tryz.func106, Tryz.ntmps106
    go_wp2
    go_ret
    exact ⟨rfl, rfl⟩
  · go_enter Tryz.func106, Tryz.ntmps106
    go_wp2
    go_ret
    exact ⟨rfl, rfl⟩
  · have H3 := Lib.hid h3
    clear h3
    go_enter Tryz.func106, Tryz.ntmps106
    go_wp2
    go_ret
    exact ⟨rBool' H3.out, rfl⟩
set_option maxRecDepth 100000 in
set_option maxHeartbeats 2000000 in
/-- Sign, in the rows of other signs. -/
theorem signL_row (l b : Nat) (w : World) (hT : pt.Tabs w) (l0 : 161 ≤ l) (l1 : l ≤ 254) (b0 : 161 ≤ b) (b1 : b ≤ 254) (hn : ¬ (176 ≤ l ∧ l ≤ 200)) : Calls Tryz.prog 57 #[.int .u8 l, .int .u8 b] w fun e w' => e = .returned (sgV (row l b)) ∧ Below w.heap.size w w' := by
  have hrow := soc_row l0 l1 b0 b1
  have HI := Lib.hid (fun w2 => wa.inRows_yes l b w2 l0 l1 b0 b1)
  have HO := Lib.hid (fun w2 => wa.placeOf_any l b w2 l0 l1 b0 b1)
  have HP : Hid (∀ w2, pt.Tabs w2 → Calls Tryz.prog 108 #[.int .i64 (((l : Int) - 161) * 94 + ((b : Int) - 161) - 1410)] w2 fun e w' => e = .returned (.tuple #[.int .i32 0, .bool false]) ∧ Below w2.heap.size w2 w') := Lib.hid (fun w2 h2 => by
    have := wa.place_any (((l : Int) - 161) * 94 + ((b : Int) - 161) - 1410) w2 h2 (by omega) (by omega)
    unfold plV at this
    rw [plI_none (by have e : tot true = 2350 := rfl; omega)] at this
    exact this)
  have HS : Hid (∀ w2, Calls Tryz.prog 110 #[.int .i64 ((l : Int) * 256 + (b : Int))] w2 fun e w' => e = .returned (opV (soc ((l * 256 + b : Nat) : Int))) ∧ Below w2.heap.size w2 w') := Lib.hid (fun w2 => by
    have := signOf_any (((l * 256 + b : Nat)) : Int) w2 (by omega) (by omega)
    rw [show (((l * 256 + b : Nat)) : Int) = (l : Int) * 256 + (b : Int) by omega] at this ⊢
    exact this)
  rw [← hrow]
  have hsh : ∃ (z : Int) (t : Bool), opV (soc ((l * 256 + b : Nat) : Int)) = .tuple #[.int .i32 z, .bool t] := by
    cases soc ((l * 256 + b : Nat) : Int) with
    | none => exact ⟨_, _, rfl⟩
    | some z => exact ⟨_, _, rfl⟩
  obtain ⟨z, t, hz⟩ := hsh
  rw [hz] at HS ⊢
  have o := wa.or_int ((l : Int) * 256) (b : Int) 8 (by omega) (by omega) (by omega) (by omega) (by omega) (by omega)
  have e0 : IntKind.i64.wrap ((l : Int) * 256) = (l : Int) * 256 := wa.wrap64 (by omega) (by omega)
  have e8 : IntKind.i64.wrap (l : Int) = (l : Int) := wa.wrap64 (by omega) (by omega)
  have e9 : IntKind.i64.wrap (b : Int) = (b : Int) := wa.wrap64 (by omega) (by omega)
  obtain ⟨y, hy⟩ : ∃ y : Int, y = ((l : Int) - 161) * 94 + ((b : Int) - 161) := ⟨_, rfl⟩
  have y0 : 0 ≤ y := by omega
  have y1 : y < 10000 := by omega
  have ez : IntKind.i64.wrap (y - 1410) = y - 1410 := wa.wrap64 (by omega) (by omega)
  rw [← hy] at HP HO
  have g0 : (161 : Int) ≤ (l : Int) := by omega
  have g1 : (l : Int) ≤ 254 := by omega
  have g2 : (161 : Int) ≤ (b : Int) := by omega
  have g3 : (b : Int) ≤ 254 := by omega
  have HT := Lib.hid hT
  clear hT hy hz hrow l0 l1 b0 b1 hn
  go_enter Tryz.func57, Tryz.ntmps57
  go_wp2_with (first | (go_at_call 106; refine (HI.out _).mono ?_; rintro e1 w1 ⟨rfl, rfl⟩) | (go_at_call 109; refine (HO.out _).mono ?_; rintro e2 w2 ⟨rfl, rfl⟩) | (go_at_call 108; refine (HP.out _ HT.out).mono ?_; rintro e3 w3 ⟨rfl, hb3⟩; have B3 := Lib.hid hb3; clear hb3) | (go_at_call 110; refine (HS.out _).mono ?_; rintro e4 w4 ⟨rfl, hb4⟩; have B4 := Lib.hid (B3.out.trans (hb4.mono B3.out.size)); clear hb4))
  go_ret2
  exact ⟨rfl, B4.out⟩
set_option maxRecDepth 100000 in
theorem signL_any (l b : Nat) (w : World) (hT : pt.Tabs w) (hl : l < 256) (hb : b < 256) : Calls Tryz.prog 57 #[.int .u8 l, .int .u8 b] w fun e w' => e = .returned (sgV (sgW l b)) ∧ Below w.heap.size w w' := by
  by_cases h : 161 ≤ l ∧ l ≤ 254 ∧ 161 ≤ b ∧ b ≤ 254
  · obtain ⟨l0, l1, b0, b1⟩ := h
    have hs : sgW l b = if 176 ≤ l ∧ l ≤ 200 then kth ((l - 176) * 94 + (b - 161)) true else row l b := by
      unfold sgW
      rw [wa.sec_hi b0 b1]
      show (if _ then _ else _) = _
      rw [if_neg (by omega), if_neg (by omega), if_neg (by omega)]
    rw [hs]
    by_cases h2 : 176 ≤ l ∧ l ≤ 200
    · rw [if_pos h2]
      have hp := wa.plI_some (b := true) (k := (l - 176) * 94 + (b - 161)) (by have e : tot true = 2350 := rfl; omega)
      rw [sgV_pos (by have := hp.2; omega)]
      exact wa.signL_syl l b w hT h2.1 h2.2 b0 b1
    · rw [if_neg h2]
      exact signL_row l b w hT l0 l1 b0 b1 h2
  · rw [← exV_sg hl hb h]
    have HI := Lib.hid (fun w2 => inRows_no l b w2 h)
    have HE := Lib.hid (extraOf_any l b w hT hl hb)
    have hsh : ∃ (z : Int) (t : Bool), exV l b = .tuple #[.int .i32 z, .bool t] := by
      unfold exV
      cases sec b with
      | none => exact ⟨_, _, rfl⟩
      | some t =>
        show ∃ (z : Int) (u : Bool), (if l < 129 then _ else if l < 161 then _ else if t < 84 then _ else _) = _
        by_cases k1 : l < 129
        · rw [if_pos k1]; exact ⟨_, _, rfl⟩
        · rw [if_neg k1]
          by_cases k2 : l < 161
          · rw [if_pos k2]; exact ⟨_, _, rfl⟩
          · rw [if_neg k2]
            by_cases k3 : t < 84
            · rw [if_pos k3]; exact ⟨_, _, rfl⟩
            · rw [if_neg k3]; exact ⟨_, _, rfl⟩
    obtain ⟨z, t, hz⟩ := hsh
    rw [hz] at HE ⊢
    clear hz h hT
    go_enter Tryz.func57, Tryz.ntmps57
    go_wp2_with (first | (go_at_call 106; refine (HI.out _).mono ?_; rintro e1 w1 ⟨rfl, rfl⟩) | (go_at_call 107; refine (HE.out).mono ?_; rintro e2 w2 ⟨rfl, hb2⟩; have B2 := Lib.hid hb2; clear hb2))
    go_ret2
    exact ⟨rfl, B2.out⟩
end Go.Proofs.YtbgbgigpcegenaaGreatDoor.wr
namespace Go.Proofs.YtbgbgigpcegenaaGreatDoor.jo
set_option linter.unusedVariables false
/-- 99: none; 98: it isn't there. -/
def medL : List Nat := [98, 98, 99, 0, 1, 2, 3, 4, 98, 98, 5, 6, 7, 8, 9, 10, 98, 98, 11, 12, 13, 14, 15, 16, 98, 98, 17, 18, 19, 20, 98, 98]
def med (c : Nat) : Nat := medL.getD c 98
def fin (c : Nat) : Nat := if c = 0 ∨ c = 18 ∨ 29 < c then 98 else if c < 18 then c - 1 else c - 2
def aloL : List Nat := [0, 1, 103, 2, 105, 106, 3, 4, 5, 109, 110, 111, 112, 113, 114, 115, 6, 7, 8, 118, 9, 10, 11, 12, 13, 14, 15, 16, 17, 18]
def aloFrom (p : Nat) : Nat → List Nat → Nat
  | _, [] => 0
  | i, q :: l => if q = p then 12593 + i else aloFrom p (i + 1) l
def alo (p : Nat) : Nat := aloFrom p 0 aloL
/-- The sign of a code from 32768 on; 0: there is none. -/
def sgn (c : Nat) : Nat :=
  if c / 1024 % 32 = 0 ∨ 20 < c / 1024 % 32 ∨ med (c / 32 % 32) = 98 ∨ fin (c % 32) = 98 then 0
  else if 2 ≤ c / 1024 % 32 ∧ med (c / 32 % 32) < 98 then 44032 + ((c / 1024 % 32 - 2) * 21 + med (c / 32 % 32)) * 28 + fin (c % 32)
  else if c / 1024 % 32 = 1 ∧ med (c / 32 % 32) < 98 ∧ fin (c % 32) = 0 then 12623 + med (c / 32 % 32)
  else if 2 ≤ c / 1024 % 32 ∧ med (c / 32 % 32) = 99 ∧ fin (c % 32) = 0 then alo (c / 1024 % 32 - 2)
  else if c / 1024 % 32 = 1 ∧ med (c / 32 % 32) = 99 ∧ 0 < fin (c % 32) then alo (100 + fin (c % 32))
  else 0
/-- The code of a medial, of a final. -/
def medC (m : Nat) : Nat := m + 3 + (if 5 ≤ m then 2 else 0) + (if 11 ≤ m then 2 else 0) + (if 17 ≤ m then 2 else 0)
def finC (f : Nat) : Nat := if 17 ≤ f then f + 2 else f + 1
/-- The code of a sign; 0: there is none. -/
def code (p : Nat) : Nat :=
  if 44032 ≤ p ∧ p ≤ 55203 then 32768 + ((p - 44032) / 588 + 2) * 1024 + medC ((p - 44032) / 28 % 21) * 32 + finC ((p - 44032) % 28)
  else if 12623 ≤ p ∧ p ≤ 12643 then 32768 + 1024 + medC (p - 12623) * 32 + 1
  else if 12593 ≤ p ∧ p ≤ 12622 then (if aloL.getD (p - 12593) 0 < 100 then 32768 + (aloL.getD (p - 12593) 0 + 2) * 1024 + 64 + 1 else 32768 + 1024 + 64 + finC (aloL.getD (p - 12593) 0 - 100))
  else 0
theorem all_back : (List.range 128).all (fun a => (List.range 256).all fun b => decide (sgn (32768 + a * 256 + b) = 0) || decide (code (sgn (32768 + a * 256 + b)) = 32768 + a * 256 + b)) = true := by decide +kernel
/-- A code's sign leads back to it. -/
theorem code_sgn {c : Nat} (h0 : 32768 ≤ c) (h1 : c < 65536) (h : sgn c ≠ 0) : code (sgn c) = c := by
  have h2 := List.all_eq_true.1 all_back ((c - 32768) / 256) (List.mem_range.2 (by omega))
  have h3 := List.all_eq_true.1 h2 ((c - 32768) % 256) (List.mem_range.2 (by omega))
  rw [show 32768 + (c - 32768) / 256 * 256 + (c - 32768) % 256 = c by omega, Bool.or_eq_true, decide_eq_true_eq, decide_eq_true_eq] at h3
  exact h3.resolve_left h
/-- Signs that have a code. -/
def hasJ (p : Nat) : Prop := (44032 ≤ p ∧ p ≤ 55203) ∨ (12593 ≤ p ∧ p ≤ 12643)
end Go.Proofs.YtbgbgigpcegenaaGreatDoor.jo
namespace Go.Proofs.YtbgbgigpcegenaaGreatDoor.jo
open Go.RowKit Go.Lib
set_option linter.unusedVariables false
theorem wrap64 {x : Int} (h0 : -9223372036854775808 ≤ x) (h1 : x ≤ 9223372036854775807) : IntKind.i64.wrap x = x := by simp [IntKind.wrap, IntKind.bits, IntKind.signed]; omega
theorem wrap32 {x : Int} (h0 : -2147483648 ≤ x) (h1 : x ≤ 2147483647) : IntKind.i32.wrap x = x := by simp [IntKind.wrap, IntKind.bits, IntKind.signed]; omega
theorem rInt {k : IntKind} {a b : Int} (h : a = b) : Ending.returned (.int k a) = .returned (.int k b) := by rw [h]
/-- The number of a medial's code: -1: none; -2: it isn't there. -/
def medI (c : Nat) : Int := if med c = 98 then -2 else if med c = 99 then -1 else med c
def finI (c : Nat) : Int := if fin c = 98 then -2 else fin c
def medLI : List Int := [-2, -2, -1, 0, 1, 2, 3, 4, -2, -2, 5, 6, 7, 8, 9, 10, -2, -2, 11, 12, 13, 14, 15, 16, -2, -2, 17, 18, 19, 20, -2, -2]
theorem medI_is : ∀ c < 32, medLI[c]? = some (medI c) := by decide
/-- A literal of numbers, in memory. -/
theorem lit_cell (w : World) (l : List Int) (t c : Nat) (z : Int) (h : l[c]? = some z) : (w.alloc (.cells (l.map (Value.int .i64)).toArray t)).cell? ⟨w.heap.size, c, none⟩ = some (.int .i64 z) := by
  rw [World.cell?_alloc_mark]; simp [h]
set_option maxRecDepth 100000 in
set_option maxHeartbeats 4000000 in
theorem medial_any (c : Nat) (w : World) (hc : c < 32) : Calls Tryz.prog 70 #[.int .i64 c] w fun e w' => e = .returned (.int .i64 (medI c)) ∧ Below w.heap.size w w' := by
  have hl := lit_cell w medLI 3 c _ (medI_is c hc)
  have g0 : (0 : Int) ≤ (c : Int) := by omega
  have g1 : (c : Int) < 32 := by omega
  generalize medI c = M at *
  simp only [medLI, List.map_cons, List.map_nil] at hl
  go_enter Tryz.func70, Tryz.ntmps70
  go_wp2
  go_ret
  exact ⟨rfl, (Below.refl _ _).alloc (Nat.le_refl _) _⟩
set_option maxRecDepth 100000 in
theorem final_any (c : Nat) (w : World) (hc : c < 32) : Calls Tryz.prog 71 #[.int .i64 c] w fun e w' => e = .returned (.int .i64 (finI c)) ∧ Below w.heap.size w w' := by
  unfold finI fin
  by_cases h : c = 0 ∨ c = 18 ∨ 29 < c
  · rw [if_pos h, if_pos rfl]
    rcases h with rfl | rfl | h
    · go_enter Tryz.func71, Tryz.ntmps71
      go_wp2
      go_ret
      exact ⟨rfl, Below.refl _ _⟩
    · go_enter Tryz.func71, Tryz.ntmps71
      go_wp2
      go_ret
      exact ⟨rfl, Below.refl _ _⟩
    · have n0 : ((c : Int) == 0) = false := beq_eq_false_iff_ne.2 (by omega)
      have n1 : ((c : Int) == 18) = false := beq_eq_false_iff_ne.2 (by omega)
      have n2 : (29 : Int) < (c : Int) := by omega
      go_enter Tryz.func71, Tryz.ntmps71
      go_wp2
      go_ret
      exact ⟨rfl, Below.refl _ _⟩
  · rw [if_neg h]
    have n0 : ((c : Int) == 0) = false := beq_eq_false_iff_ne.2 (by omega)
    have n1 : ((c : Int) == 18) = false := beq_eq_false_iff_ne.2 (by omega)
    have n2 : ¬ (29 : Int) < (c : Int) := by omega
    by_cases h2 : c < 18
    · rw [if_pos h2, if_neg (by omega)]
      have n3 : (c : Int) < 18 := by omega
      have e1 : Hid (((c - 1 : Nat) : Int) = (c : Int) - 1) := Lib.hid (by omega)
      go_enter Tryz.func71, Tryz.ntmps71
      go_wp2
      go_ret
      exact ⟨rInt (by rw [e1.out]), Below.refl _ _⟩
    · rw [if_neg h2, if_neg (by omega)]
      have n3 : ¬ (c : Int) < 18 := by omega
      have e1 : Hid (((c - 2 : Nat) : Int) = (c : Int) - 2) := Lib.hid (by omega)
      go_enter Tryz.func71, Tryz.ntmps71
      go_wp2
      go_ret
      exact ⟨rInt (by rw [e1.out]), Below.refl _ _⟩
theorem alo_drop (p n : Nat) (h : n < 30) : aloFrom p n (aloL.drop n) = if aloL.getD n 0 = p then 12593 + n else aloFrom p (n + 1) (aloL.drop (n + 1)) := by
  have hl : n < aloL.length := h
  rw [List.drop_eq_getElem_cons hl, aloFrom]
  simp [List.getD, List.getElem?_eq_getElem hl]
theorem lit_alo (w : World) (t : Nat) : ∀ k, k < 30 → (w.alloc (.cells (aloL.map fun (n : Nat) => Value.int .i64 (n : Int)).toArray t)).cell? ⟨w.heap.size, k, none⟩ = some (.int .i64 ((aloL.getD k 0 : Nat) : Int)) := fun k h => by
  have hl : k < aloL.length := h
  rw [World.cell?_alloc_mark]; simp [List.getD, List.getElem?_eq_getElem hl]
set_option maxRecDepth 100000 in
set_option maxHeartbeats 1000000 in
theorem alone_any (p : Nat) (w : World) : Calls Tryz.prog 72 #[.int .i64 p] w fun e w' => e = .returned (.int .i32 ((alo p : Nat) : Int)) ∧ Below w.heap.size w w' := by
  obtain ⟨R, hR⟩ : ∃ R, R = alo p := ⟨_, rfl⟩
  rw [← hR]
  have HR := Lib.hid hR
  have H0 := Lib.hid (lit_alo w 3)
  clear hR
  go_enter Tryz.func72, Tryz.ntmps72
  go_wp2_with fail
  go_loopw [4] (fun i wr => ∃ n : Nat, n ≤ 30 ∧ i = .int .i64 n ∧ aloFrom p n (aloL.drop n) = R ∧ (∀ k, k < 30 → wr.cell? ⟨w.heap.size, k, none⟩ = some (.int .i64 ((aloL.getD k 0 : Nat) : Int))) ∧ Below w.heap.size w wr) (fun i _ => 30 - (RowKit.intOf i).toNat)
  case atStart => exact ⟨0, by omega, rfl, by rw [HR.out]; rfl, H0.out, (Below.refl _ _).alloc (Nat.le_refl _) _⟩
  case round =>
    obtain ⟨n, hn, rfl, hr, hc, hB⟩ := hrel
    have HB := Lib.hid hB; have HC := Lib.hid hc; have HRR := Lib.hid hr
    clear hB hc hr
    by_cases hlt : n < 30
    · have hcn := HC.out n hlt
      have g0 : (n : Int) < 30 := by omega
      have g1 : (0 : Int) ≤ (n : Int) := by omega
      have hu := Lib.hid (alo_drop p n hlt)
      generalize aloL.getD n 0 = Q at *
      by_cases hq : Q = p
      · have e1 : ((Q : Int) == (p : Int)) = true := by rw [hq]; exact beq_self_eq_true _
        have hR2 : Hid ((R : Int) = 12593 + (n : Int)) := Lib.hid (by rw [← HRR.out, hu.out, if_pos hq]; omega)
        have hw1 : IntKind.i32.wrap (12593 + (n : Int)) = 12593 + (n : Int) := wrap32 (by omega) (by omega)
        clear hq
        go_wp2_with fail
        go_ret
        exact ⟨rInt (by rw [hR2.out]), HB.out⟩
      · have e1 : ((Q : Int) == (p : Int)) = false := beq_eq_false_iff_ne.2 (by omega)
        have hR2 : Hid (aloFrom p (n + 1) (aloL.drop (n + 1)) = R) := Lib.hid (by rw [← HRR.out, hu.out, if_neg hq])
        clear hq
        go_wp2_with fail
        go_roundw
        case rel => exact ⟨n + 1, by omega, by go_num, hR2.out, HC.out, HB.out⟩
        case measure => simp [RowKit.intOf]; omega
    · obtain rfl : n = 30 := by omega
      have hR2 : Hid ((R : Int) = 0) := Lib.hid (by rw [← HRR.out]; rfl)
      go_wp2_with fail
      go_ret
      exact ⟨rInt (by rw [hR2.out]), HB.out⟩
end Go.Proofs.YtbgbgigpcegenaaGreatDoor.jo
namespace Go.Proofs.YtbgbgigpcegenaaGreatDoor.jo
open Go.RowKit Go.Lib
set_option linter.unusedVariables false
theorem med_cases (c : Nat) (h : c < 32) : med c = 98 ∨ med c = 99 ∨ med c ≤ 20 := by
  have : ∀ c < 32, med c = 98 ∨ med c = 99 ∨ med c ≤ 20 := by decide
  exact this c h
theorem fin_cases (c : Nat) (h : c < 32) : fin c = 98 ∨ fin c ≤ 27 := by
  have : ∀ c < 32, fin c = 98 ∨ fin c ≤ 27 := by decide
  exact this c h
/-- The sign of sixteen bits; 0: there is none. -/
def sg (c : Nat) : Nat := if c < 32768 then 0 else sgn c
/-- The document's Sign, told by the three codes. -/
def sgP (I m f : Nat) : Nat := if I = 0 ∨ 20 < I ∨ m = 98 ∨ f = 98 then 0
    else if 2 ≤ I ∧ m < 98 then 44032 + ((I - 2) * 21 + m) * 28 + f
    else if I = 1 ∧ m < 98 ∧ f = 0 then 12623 + m
    else if 2 ≤ I ∧ m = 99 ∧ f = 0 then alo (I - 2)
    else if I = 1 ∧ m = 99 ∧ 0 < f then alo (100 + f)
    else 0
theorem sgn_is (c : Nat) : sgn c = sgP (c / 1024 % 32) (med (c / 32 % 32)) (fin (c % 32)) := rfl
/-- A number: -1: none; -2: it isn't there. -/
def nI (m : Nat) : Int := if m = 98 then -2 else if m = 99 then -1 else m
theorem nI_le {m : Nat} (h : m ≤ 27) : nI m = m := by unfold nI; rw [if_neg (by omega), if_neg (by omega)]
def MedC (c : Int) (mi : Int) : Prop := ∀ w2, Calls Tryz.prog 70 #[.int .i64 (c / 32 % 32)] w2 fun e w' => e = .returned (.int .i64 mi) ∧ Below w2.heap.size w2 w'
def FinC (c : Int) (fi : Int) : Prop := ∀ w2, Calls Tryz.prog 71 #[.int .i64 (c % 32)] w2 fun e w' => e = .returned (.int .i64 fi) ∧ Below w2.heap.size w2 w'
def Post6 (S : Nat) (w : World) : Ending → World → Prop := fun e w' => e = .returned (.int .i32 (S : Int)) ∧ Below w.heap.size w w'
theorem post6 {S : Nat} {w w' : World} {v : Int} (h : (S : Int) = v) (hb : Below w.heap.size w w') : Post6 S w (.returned (.int .i32 v)) w' := ⟨by rw [h], hb⟩
theorem ans6 {S T : Nat} {v : Int} (h : Hid (S = T)) (h2 : (T : Int) = v) : (S : Int) = v := by rw [h.out]; exact h2
set_option maxRecDepth 100000 in
set_option maxHeartbeats 8000000 in
theorem rs_core (c : Int) (I m f : Nat) (w : World) (g0 : 32768 ≤ c) (g1 : c < 65536) (e1 : c / 1024 % 32 = (I : Int)) (hI : I < 32) (m1 : m = 98 ∨ m = 99 ∨ m ≤ 20) (f1 : f = 98 ∨ f ≤ 27)
    (HM : Hid (MedC c (nI m))) (HF : Hid (FinC c (nI f))) : Calls Tryz.prog 38 #[.int .i64 c] w (Post6 (sgP I m f) w) := by
  obtain ⟨S, hS⟩ : ∃ S, S = sgP I m f := ⟨_, rfl⟩
  rw [← hS]
  have HS := Lib.hid hS
  have HA := Lib.hid (fun p w2 => alone_any p w2)
  clear hS
  have hI0 : I = 0 ∨ I = 1 ∨ (∃ k, I = k + 2 ∧ k ≤ 18) ∨ 20 < I := by
    by_cases h : I < 2
    · omega
    · by_cases h2 : 20 < I
      · omega
      · exact .inr (.inr (.inl ⟨I - 2, by omega, by omega⟩))
  have HH := Lib.hid (⟨m1, f1⟩ : (m = 98 ∨ m = 99 ∨ m ≤ 20) ∧ (f = 98 ∨ f ≤ 27))
  clear m1 f1
  have hI2 := hI
  clear hI
  rcases hI0 with rfl | rfl | ⟨k, rfl, hk⟩ | hI0
  · replace e1 : c / 1024 % 32 = 0 := e1
    go_enter Tryz.func38, Tryz.ntmps38
    go_wp2_with (first | (go_at_call 70; refine (HM.out _).mono ?_; rintro e2 w2 ⟨rfl, hb2⟩) | (go_at_call 71; refine (HF.out _).mono ?_; rintro e3 w3 ⟨rfl, hb3⟩))
    go_ret
    exact post6 (ans6 HS (by simp [sgP])) (hb2.trans (hb3.mono hb2.size))
  · obtain ⟨m1, f1⟩ := HH.out
    replace e1 : c / 1024 % 32 = 1 := e1
    rcases m1 with rfl | rfl | hm
    · clear f1
      replace HM : Hid (MedC c (-2)) := HM
      go_enter Tryz.func38, Tryz.ntmps38
      go_wp2_with (first | (go_at_call 70; refine (HM.out _).mono ?_; rintro e2 w2 ⟨rfl, hb2⟩) | (go_at_call 71; refine (HF.out _).mono ?_; rintro e3 w3 ⟨rfl, hb3⟩))
      go_ret
      exact post6 (ans6 HS (by simp [sgP])) (hb2.trans (hb3.mono hb2.size))
    · replace HM : Hid (MedC c (-1)) := HM
      by_cases hf0 : f = 0
      · subst hf0
        replace HF : Hid (FinC c 0) := HF
        go_enter Tryz.func38, Tryz.ntmps38
        go_wp2_with (first | (go_at_call 70; refine (HM.out _).mono ?_; rintro e2 w2 ⟨rfl, hb2⟩) | (go_at_call 71; refine (HF.out _).mono ?_; rintro e3 w3 ⟨rfl, hb3⟩))
        go_ret
        exact post6 (ans6 HS (by simp [sgP])) (hb2.trans (hb3.mono hb2.size))
      by_cases hf8 : f = 98
      · subst hf8
        replace HF : Hid (FinC c (-2)) := HF
        go_enter Tryz.func38, Tryz.ntmps38
        go_wp2_with (first | (go_at_call 70; refine (HM.out _).mono ?_; rintro e2 w2 ⟨rfl, hb2⟩) | (go_at_call 71; refine (HF.out _).mono ?_; rintro e3 w3 ⟨rfl, hb3⟩))
        go_ret
        exact post6 (ans6 HS (by simp [sgP])) (hb2.trans (hb3.mono hb2.size))
      have hf : f ≤ 27 := by omega
      rw [nI_le hf] at HF
      have p0 : (0 : Int) < (f : Int) := by omega
      have p1 : (f : Int) ≤ 27 := by omega
      have p2 : ((f : Int) == -2) = false := beq_eq_false_iff_ne.2 (by omega)
      have p3 : ((f : Int) == 0) = false := beq_eq_false_iff_ne.2 (by omega)
      · have q1 : ((100 + f : Nat) : Int) = 100 + (f : Int) := by omega
        go_enter Tryz.func38, Tryz.ntmps38
        go_wp2_with (first | (go_at_call 70; refine (HM.out _).mono ?_; rintro e2 w2 ⟨rfl, hb2⟩) | (go_at_call 71; refine (HF.out _).mono ?_; rintro e3 w3 ⟨rfl, hb3⟩) | (go_at_call 72; refine (HA.out (100 + f) _).mono ?_; rintro e4 w4 ⟨rfl, hb4⟩))
        go_ret
        exact post6 (ans6 HS (by unfold sgP; rw [if_neg (by omega), if_neg (by omega), if_neg (by omega), if_neg (by omega), if_pos (by omega)])) ((hb2.trans (hb3.mono hb2.size)).trans (hb4.mono (hb2.trans (hb3.mono hb2.size)).size))
    · rw [nI_le (by omega)] at HM
      have n0 : (0 : Int) ≤ (m : Int) := by omega
      have n1 : (m : Int) ≤ 20 := by omega
      have n2 : ((m : Int) == -2) = false := beq_eq_false_iff_ne.2 (by omega)
      by_cases hf0 : f = 0
      · subst hf0
        replace HF : Hid (FinC c 0) := HF
        go_enter Tryz.func38, Tryz.ntmps38
        go_wp2_with (first | (go_at_call 70; refine (HM.out _).mono ?_; rintro e2 w2 ⟨rfl, hb2⟩) | (go_at_call 71; refine (HF.out _).mono ?_; rintro e3 w3 ⟨rfl, hb3⟩))
        go_ret
        exact post6 (ans6 HS (by unfold sgP; rw [if_neg (by simp; omega), if_neg (by omega), if_pos (by omega)]; omega)) (hb2.trans (hb3.mono hb2.size))
      by_cases hf8 : f = 98
      · subst hf8
        replace HF : Hid (FinC c (-2)) := HF
        go_enter Tryz.func38, Tryz.ntmps38
        go_wp2_with (first | (go_at_call 70; refine (HM.out _).mono ?_; rintro e2 w2 ⟨rfl, hb2⟩) | (go_at_call 71; refine (HF.out _).mono ?_; rintro e3 w3 ⟨rfl, hb3⟩))
        go_ret
        exact post6 (ans6 HS (by simp [sgP])) (hb2.trans (hb3.mono hb2.size))
      have hf : f ≤ 27 := by omega
      rw [nI_le hf] at HF
      have p0 : (0 : Int) < (f : Int) := by omega
      have p1 : (f : Int) ≤ 27 := by omega
      have p2 : ((f : Int) == -2) = false := beq_eq_false_iff_ne.2 (by omega)
      have p3 : ((f : Int) == 0) = false := beq_eq_false_iff_ne.2 (by omega)
      · go_enter Tryz.func38, Tryz.ntmps38
        go_wp2_with (first | (go_at_call 70; refine (HM.out _).mono ?_; rintro e2 w2 ⟨rfl, hb2⟩) | (go_at_call 71; refine (HF.out _).mono ?_; rintro e3 w3 ⟨rfl, hb3⟩))
        go_ret
        exact post6 (ans6 HS (by unfold sgP; rw [if_neg (by omega), if_neg (by omega), if_neg (by omega), if_neg (by omega), if_neg (by omega)]; rfl)) (hb2.trans (hb3.mono hb2.size))
  · obtain ⟨m1, f1⟩ := HH.out
    replace e1 : c / 1024 % 32 = (k : Int) + 2 := by rw [e1]; omega
    have k0 : (0 : Int) ≤ (k : Int) := by omega
    have k1 : (k : Int) ≤ 18 := by omega
    rcases m1 with rfl | rfl | hm
    · clear f1
      replace HM : Hid (MedC c (-2)) := HM
      go_enter Tryz.func38, Tryz.ntmps38
      go_wp2_with (first | (go_at_call 70; refine (HM.out _).mono ?_; rintro e2 w2 ⟨rfl, hb2⟩) | (go_at_call 71; refine (HF.out _).mono ?_; rintro e3 w3 ⟨rfl, hb3⟩))
      go_ret
      exact post6 (ans6 HS (by simp [sgP])) (hb2.trans (hb3.mono hb2.size))
    · replace HM : Hid (MedC c (-1)) := HM
      by_cases hf0 : f = 0
      · subst hf0
        replace HF : Hid (FinC c 0) := HF
        go_enter Tryz.func38, Tryz.ntmps38
        go_wp2_with (first | (go_at_call 70; refine (HM.out _).mono ?_; rintro e2 w2 ⟨rfl, hb2⟩) | (go_at_call 71; refine (HF.out _).mono ?_; rintro e3 w3 ⟨rfl, hb3⟩) | (go_at_call 72; refine (HA.out k _).mono ?_; rintro e4 w4 ⟨rfl, hb4⟩))
        go_ret
        exact post6 (ans6 HS (by unfold sgP; rw [if_neg (by omega), if_neg (by omega), if_neg (by omega), if_pos (by omega), Nat.add_sub_cancel])) ((hb2.trans (hb3.mono hb2.size)).trans (hb4.mono (hb2.trans (hb3.mono hb2.size)).size))
      by_cases hf8 : f = 98
      · subst hf8
        replace HF : Hid (FinC c (-2)) := HF
        go_enter Tryz.func38, Tryz.ntmps38
        go_wp2_with (first | (go_at_call 70; refine (HM.out _).mono ?_; rintro e2 w2 ⟨rfl, hb2⟩) | (go_at_call 71; refine (HF.out _).mono ?_; rintro e3 w3 ⟨rfl, hb3⟩))
        go_ret
        exact post6 (ans6 HS (by simp [sgP])) (hb2.trans (hb3.mono hb2.size))
      have hf : f ≤ 27 := by omega
      rw [nI_le hf] at HF
      have p0 : (0 : Int) < (f : Int) := by omega
      have p1 : (f : Int) ≤ 27 := by omega
      have p2 : ((f : Int) == -2) = false := beq_eq_false_iff_ne.2 (by omega)
      have p3 : ((f : Int) == 0) = false := beq_eq_false_iff_ne.2 (by omega)
      · go_enter Tryz.func38, Tryz.ntmps38
        go_wp2_with (first | (go_at_call 70; refine (HM.out _).mono ?_; rintro e2 w2 ⟨rfl, hb2⟩) | (go_at_call 71; refine (HF.out _).mono ?_; rintro e3 w3 ⟨rfl, hb3⟩))
        go_ret
        exact post6 (ans6 HS (by unfold sgP; rw [if_neg (by omega), if_neg (by omega), if_neg (by omega), if_neg (by omega), if_neg (by omega)]; rfl)) (hb2.trans (hb3.mono hb2.size))
    · rw [nI_le (by omega)] at HM
      have n0 : (0 : Int) ≤ (m : Int) := by omega
      have n1 : (m : Int) ≤ 20 := by omega
      have n2 : ((m : Int) == -2) = false := beq_eq_false_iff_ne.2 (by omega)
      by_cases hf0 : f = 0
      · subst hf0
        replace HF : Hid (FinC c 0) := HF
        go_enter Tryz.func38, Tryz.ntmps38
        go_wp2_with (first | (go_at_call 70; refine (HM.out _).mono ?_; rintro e2 w2 ⟨rfl, hb2⟩) | (go_at_call 71; refine (HF.out _).mono ?_; rintro e3 w3 ⟨rfl, hb3⟩))
        go_ret
        exact post6 (ans6 HS (by unfold sgP; rw [if_neg (by omega), if_pos (by omega)]; omega)) (hb2.trans (hb3.mono hb2.size))
      by_cases hf8 : f = 98
      · subst hf8
        replace HF : Hid (FinC c (-2)) := HF
        go_enter Tryz.func38, Tryz.ntmps38
        go_wp2_with (first | (go_at_call 70; refine (HM.out _).mono ?_; rintro e2 w2 ⟨rfl, hb2⟩) | (go_at_call 71; refine (HF.out _).mono ?_; rintro e3 w3 ⟨rfl, hb3⟩))
        go_ret
        exact post6 (ans6 HS (by simp [sgP])) (hb2.trans (hb3.mono hb2.size))
      have hf : f ≤ 27 := by omega
      rw [nI_le hf] at HF
      have p0 : (0 : Int) < (f : Int) := by omega
      have p1 : (f : Int) ≤ 27 := by omega
      have p2 : ((f : Int) == -2) = false := beq_eq_false_iff_ne.2 (by omega)
      have p3 : ((f : Int) == 0) = false := beq_eq_false_iff_ne.2 (by omega)
      · go_enter Tryz.func38, Tryz.ntmps38
        go_wp2_with (first | (go_at_call 70; refine (HM.out _).mono ?_; rintro e2 w2 ⟨rfl, hb2⟩) | (go_at_call 71; refine (HF.out _).mono ?_; rintro e3 w3 ⟨rfl, hb3⟩))
        go_ret
        exact post6 (ans6 HS (by unfold sgP; rw [if_neg (by omega), if_pos (by omega)]; omega)) (hb2.trans (hb3.mono hb2.size))
  · have j0 : (20 : Int) < (I : Int) := by omega
    have j1 : (I : Int) < 32 := by omega
    go_enter Tryz.func38, Tryz.ntmps38
    go_wp2_with (first | (go_at_call 70; refine (HM.out _).mono ?_; rintro e2 w2 ⟨rfl, hb2⟩) | (go_at_call 71; refine (HF.out _).mono ?_; rintro e3 w3 ⟨rfl, hb3⟩))
    go_ret
    exact post6 (ans6 HS (by unfold sgP; rw [if_pos (by omega)]; rfl)) (hb2.trans (hb3.mono hb2.size))
theorem refsign_any (c : Nat) (w : World) (hc : c < 65536) : Calls Tryz.prog 38 #[.int .i64 c] w fun e w' => e = .returned (.int .i32 ((sg c : Nat) : Int)) ∧ Below w.heap.size w w' := by
  unfold sg
  by_cases h0 : c < 32768
  · rw [if_pos h0]
    generalize hC : (c : Int) = C
    have g0 : C < 32768 := by omega
    clear hC h0 hc
    go_enter Tryz.func38, Tryz.ntmps38
    go_wp2
    go_ret
    exact ⟨rfl, Below.refl _ _⟩
  · rw [if_neg h0, sgn_is]
    have e2 : ((c / 32 % 32 : Nat) : Int) = (c : Int) / 32 % 32 := by omega
    have e3 : ((c % 32 : Nat) : Int) = (c : Int) % 32 := by omega
    refine rs_core c (c / 1024 % 32) (med (c / 32 % 32)) (fin (c % 32)) w (by omega) (by omega) (by omega) (by omega) (med_cases _ (by omega)) (fin_cases _ (by omega)) (Lib.hid fun w2 => ?_) (Lib.hid fun w2 => ?_)
    · have h := medial_any (c / 32 % 32) w2 (by omega)
      rw [e2] at h
      exact h
    · have h := final_any (c % 32) w2 (by omega)
      rw [e3] at h
      have h2 : finI (c % 32) = nI (fin (c % 32)) := by
        unfold finI nI
        rcases fin_cases (c % 32) (by omega) with h | h
        · rw [h]; rfl
        · rw [if_neg (by omega), if_neg (by omega), if_neg (by omega)]
      rw [← h2]
      exact h
end Go.Proofs.YtbgbgigpcegenaaGreatDoor.jo
