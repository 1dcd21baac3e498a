/- The landed wansung: Place, Rank, Extra: contracts. -/
import Derived.Test.YtgjndekgnkjknaaGreatDoorWl3
import Derived.Test.YtgjndekgnkjknaaGreatDoorWa6
namespace Go.Proofs.YtgjndekgnkjknaaGreatDoor.wa
open Go.RowKit Go.Lib
set_option linter.unusedVariables false
theorem kth_range {k : Nat} (h : k < 2350) : 44032 ≤ kth k true ∧ kth k true ≤ 55203 := by
  obtain ⟨x, y, z, _, _, _, _, _, _, c0, c1⟩ := mem_bytes h
  exact ⟨c0, c1⟩
set_option maxRecDepth 100000 in
set_option maxHeartbeats 2000000 in
theorem extraC_any (h : Nat) (k : Int) (b : Nat) (w : World) (hh : h < 2350) (hb : b < w.heap.size) (hc : w.cell? ⟨b, 0, none⟩ = some (.int .i64 k)) (hT : pt.Tabs w) :
    Calls Tryz.prog 81 (#[.int .i64 h] ++ #[.pointer (some ⟨b, 0, none⟩)]) w fun e w' => e = .returned (.bool (decide (k < ((kth h true : Nat) : Int) - 44032 - (h : Int)))) ∧ Below w.heap.size w w' := by
  have HM := Lib.hid (fun w2 h2 => member_any h w2 hh h2)
  have hr := kth_range hh
  have HA := Lib.hid (fun w2 => ahead_any ((kth h true : Nat) : Int) (h : Int) w2 (by omega) (by omega) (by omega) (by omega))
  generalize ((kth h true : Nat) : Int) - 44032 - (h : Int) = R at *
  generalize ((kth h true : Nat) : Int) = M at *
  have HT := Lib.hid hT
  show Calls Tryz.prog 81 #[.int .i64 h, .pointer (some ⟨b, 0, none⟩)] w _
  clear hh hT hr
  go_enter Tryz.func81, Tryz.ntmps81
  go_wp2_with fail
  go_region_held3 (fun w' => w'.cell? ⟨b, 0, none⟩ = some (.int .i64 k)) (go_keep) (first | (go_at_call 82; refine (HA.out _).mono ?_; rintro e2 w2 ⟨rfl, rfl⟩) | (go_at_call 67; refine (HM.out _ (HT.out.below ((Below.refl _ _).drew))).mono ?_; rintro e1 w1 ⟨rfl, hb1⟩; have y1 := (hb1.cell (p := ⟨b, 0, none⟩) hb).trans hc; have HB := Lib.hid hb1; clear hb1))
  all_goals go_wp2_with fail
  all_goals go_ret
  all_goals exact ⟨rfl, ((Below.refl _ w).drew).trans HB.out⟩
set_option maxRecDepth 100000 in
set_option maxHeartbeats 2000000 in
theorem place_any (k : Int) (w : World) (hT : pt.Tabs w) (h0 : -9223372036854775808 ≤ k) (h1 : k ≤ 9223372036854775807) : Calls Tryz.prog 49 #[.int .i64 k] w fun e w' => e = .returned (plV k true) ∧ Below w.heap.size w w' := by
  unfold plV
  by_cases hk : 0 ≤ k ∧ k < 2350
  · obtain ⟨n, rfl⟩ : ∃ n : Nat, k = (n : Int) := ⟨k.toNat, by omega⟩
    have hn : n < 2350 := by omega
    have hp := plI_some (b := true) (k := n) hn
    rw [hp.1]
    have hz : (((kth n true : Nat) : Int) != 0) = true := by rw [bne, beq_eq_false_iff_ne.2 hp.2]; rfl
    rw [hz]
    have HB := Lib.hid (fun w2 => below_yes (n : Int) 2350 w2 (by omega) (by omega))
    have HM := Lib.hid (fun w2 h2 => member_any n w2 hn h2)
    generalize ((kth n true : Nat) : Int) = M at *
    have HT := Lib.hid hT
    clear hz hp hT hn hk
    go_enter Tryz.func49, Tryz.ntmps49
    go_wp2_with (first | (go_at_call 66; refine (HB.out _).mono ?_; rintro e1 w1 ⟨rfl, rfl⟩) | (go_at_call 67; refine (HM.out _ HT.out).mono ?_; rintro e2 w2 ⟨rfl, hb2⟩; have B2 := Lib.hid hb2; clear hb2))
    go_ret2
    exact ⟨rfl, B2.out⟩
  · rw [plI_none (by have e : tot true = 2350 := rfl; omega)]
    have HB := Lib.hid (fun w2 => below_no k 2350 w2 (by omega))
    clear hk hT
    go_enter Tryz.func49, Tryz.ntmps49
    go_wp2_with (go_at_call 66; refine (HB.out _).mono ?_; rintro e1 w1 ⟨rfl, rfl⟩)
    go_ret2
    exact ⟨rfl, Below.refl _ _⟩
/-- The search that Rank does. -/
theorem rankFind (n : Nat) (w : World) (hn : n < 11172) (hT : pt.Tabs w) (b : Nat) (hb : b < w.heap.size) (hc : w.cell? ⟨b, 0, none⟩ = some (.int .i32 (44032 + (n : Int)))) :
    Calls Tryz.prog 84 #[.int .i64 2350, .func (.func 85) #[] #[.pointer (some ⟨b, 0, none⟩)]] w fun e w' => e = .returned (.tuple #[.int .i64 ((rk true n : Nat) : Int), .bool (inB n)]) ∧ Below w.heap.size w w' := by
  have eg : ∀ args w, (callFunc 85 args).run Tryz.prog w = .ok (.enter 85 args) w := enters_of Tryz.func85 (by kernel_rfl) rfl
  have hcon := sortFind_any 85 #[.pointer (some ⟨b, 0, none⟩)] (fun h => cm3 (44032 + (n : Int)) ((kth h true : Nat) : Int)) 2350 w (by omega) eg
    (fun W hW h hh => (rankC_any h _ b W hh (Nat.lt_of_lt_of_le hb hW.size) ((hW.cell (p := ⟨b, 0, none⟩) hb).trans hc) (hT.below hW)).mono fun e w' q => ⟨q.1, hW.trans (q.2.mono hW.size)⟩)
    (fun i j hij hj hi => by
      by_cases he : i = j
      · rw [← he]; exact hi
      · obtain ⟨m, m1, m2, m3, m4, _⟩ := memC_kth (k := i) (by omega)
        obtain ⟨m', n1, n2, n3, n4, _⟩ := memC_kth (k := j) hj
        have hlt : m < m' := by
          apply Classical.byContradiction
          intro hge
          have := rk_mono true m' (m - m')
          rw [show m' + (m - m') = m by omega] at this
          omega
        have h1 : ¬ (((kth i true : Nat) : Int) < 44032 + (n : Int)) := fun h => by have := cm3_neg.2 h; omega
        have h2 : ¬ (0 < cm3 (44032 + (n : Int)) ((kth j true : Nat) : Int)) := fun h => by have := cm3_neg.1 h; omega
        omega)
  refine hcon.mono ?_
  rintro e w' ⟨i, h1, h2, h3, rfl, h5⟩
  have hf := find_rank hn h1 (fun j hj => by have := cm3_neg.1 (h2 j hj); omega) (fun j hj hj2 => by
    have h4 : ¬ (0 < cm3 (44032 + (n : Int)) ((kth j true : Nat) : Int)) := fun h => by have := h3 j hj hj2; omega
    apply Classical.byContradiction
    intro h6
    exact h4 (cm3_neg.2 (by omega)))
  refine ⟨?_, h5⟩
  have hd : decide (i < 2350 ∧ cm3 (44032 + (n : Int)) ((kth i true : Nat) : Int) = 0) = inB n := by
    rw [Bool.eq_iff_iff, decide_eq_true_iff, ← hf.2, cm3_zero]
    constructor
    · rintro ⟨a, b⟩; exact ⟨a, by omega⟩
    · rintro ⟨a, b⟩; exact ⟨a, by omega⟩
  rw [hd, ← hf.1]
set_option maxRecDepth 100000 in
set_option maxHeartbeats 2000000 in
theorem rank_syl (n : Nat) (w : World) (hT : pt.Tabs w) (hn : n < 11172) : Calls Tryz.prog 69 #[.int .i32 (44032 + (n : Int))] w fun e w' => e = .returned (.tuple #[.int .i64 ((rk (inB n) n : Nat) : Int), .bool (inB n), .bool true]) ∧ Below w.heap.size w w' := by
  obtain ⟨p, hp⟩ : ∃ p : Int, p = 44032 + (n : Int) := ⟨_, rfl⟩
  have HF : Hid (Calls Tryz.prog 84 #[.int .i64 2350, .func (.func 85) #[] #[.pointer (some ⟨w.heap.size, 0, none⟩)]] (w.alloc (.cells #[.int .i32 p] 21)) fun e w' => e = .returned (.tuple #[.int .i64 ((rk true n : Nat) : Int), .bool (inB n)]) ∧ Below w.heap.size w w' ∧ w'.cell? ⟨w.heap.size, 0, none⟩ = some (.int .i32 p)) := Lib.hid (by
    refine (rankFind n _ hn (hT.below ((Below.refl _ w).alloc (Nat.le_refl _) _)) w.heap.size (by simp) (by simp [hp])).mono ?_
    rintro e w' ⟨h1, h2⟩
    refine ⟨h1, ((Below.refl _ w).alloc (Nat.le_refl _) _).trans (h2.mono (by simp)), ?_⟩
    exact (h2.cell (p := ⟨w.heap.size, 0, none⟩) (by simp)).trans (by simp))
  have g0 : 44032 ≤ p := by omega
  have g1 : p ≤ 55203 := by omega
  have hsum : rk true n + rk false n = n := cn_both 0 n
  have hle := rk_le true n
  rw [← hp]
  cases hb : inB n with
  | true =>
    rw [hb] at HF
    generalize ((rk true n : Nat) : Int) = R at *
    clear hT hn hp hsum hle hb
    go_enter Tryz.func69, Tryz.ntmps69
    go_wp2_with (go_at_call 84; refine (HF.out).mono ?_; rintro e2 w2 ⟨rfl, hb2, hc2⟩; have B2 := Lib.hid hb2; clear hb2)
    go_ret3
    exact ⟨rfl, B2.out⟩
  | false =>
    rw [hb] at HF
    have hle2 : rk true n ≤ 2350 := by
      have h1 := rk_mono true n (11172 - n)
      rw [show n + (11172 - n) = 11172 by omega] at h1
      have h2 := tot_in
      omega
    have HA : Hid (∀ w2, Calls Tryz.prog 82 #[.int .i32 p, .int .i64 ((rk true n : Nat) : Int)] w2 fun e w' => e = .returned (.int .i64 ((rk false n : Nat) : Int)) ∧ w2 = w') := Lib.hid (fun w2 => by
      have := ahead_any p ((rk true n : Nat) : Int) w2 g0 g1 (by omega) (by omega)
      rw [show p - 44032 - ((rk true n : Nat) : Int) = ((rk false n : Nat) : Int) by omega] at this
      exact this)
    generalize ((rk true n : Nat) : Int) = R at *
    generalize ((rk false n : Nat) : Int) = R2 at *
    clear hT hn hp hsum hle hb hle2
    go_enter Tryz.func69, Tryz.ntmps69
    go_wp2_with (first | (go_at_call 84; refine (HF.out).mono ?_; rintro e2 w2 ⟨rfl, hb2, hc2⟩; have B2 := Lib.hid hb2; clear hb2) | (go_at_call 82; refine (HA.out _).mono ?_; rintro e3 w3 ⟨rfl, rfl⟩))
    go_ret3
    exact ⟨rfl, B2.out⟩
end Go.Proofs.YtgjndekgnkjknaaGreatDoor.wa
