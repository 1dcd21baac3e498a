/- The walk of WansungRows. -/
import Derived.Test.YtgjndekgnkjknaaGreatDoorWa7
namespace Go.Proofs.YtgjndekgnkjknaaGreatDoor.wa
open Go.RowKit Go.Lib
open Go.Proofs.YtgjndekgnkjknaaGreatDoor.tb (RowP RowP.at RowP.below)
set_option linter.unusedVariables false
/-- How many of the first places have a sign. -/
def cR (n : Nat) : Nat := (rowPs n).length
theorem rowPs_zero {n : Nat} (h : rowJ n = 0) : rowPs (n + 1) = rowPs n := by conv => lhs; unfold rowPs; rw [if_pos h, List.append_nil]
theorem rowPs_some {n : Nat} (h : rowJ n ≠ 0) : rowPs (n + 1) = rowPs n ++ [(((cdJ n : Nat) : Int), ((rowJ n : Nat) : Int))] := by conv => lhs; unfold rowPs; rw [if_neg h]
theorem cR_zero {n : Nat} (h : rowJ n = 0) : cR (n + 1) = cR n := by unfold cR; rw [rowPs_zero h]
theorem cR_some {n : Nat} (h : rowJ n ≠ 0) : cR (n + 1) = cR n + 1 := by unfold cR; rw [rowPs_some h, List.length_append]; rfl
theorem cR_filter : ∀ n, cR n = (((List.range n).map rowJ).filter (· != 0)).length
  | 0 => rfl
  | n + 1 => by
    rw [List.range_succ, List.map_append, List.filter_append, List.length_append, ← cR_filter n]
    by_cases h : rowJ n = 0
    · rw [cR_zero h]; simp [h]
    · rw [cR_some h]; simp [h]
theorem cR_all : cR 1128 = 724 := by rw [cR_filter]; exact rows_many
theorem rowPs_more (n : Nat) : ∀ m, ∃ t, rowPs (n + m) = rowPs n ++ t
  | 0 => ⟨[], by simp⟩
  | m + 1 => by
    obtain ⟨t, h⟩ := rowPs_more n m
    by_cases h0 : rowJ (n + m) = 0
    · exact ⟨t, by rw [← Nat.add_assoc, rowPs_zero h0, h]⟩
    · exact ⟨t ++ [(((cdJ (n + m) : Nat) : Int), ((rowJ (n + m) : Nat) : Int))], by rw [← Nat.add_assoc, rowPs_some h0, h, List.append_assoc]⟩
theorem rowPs_get : ∀ n i, i < cR n → ∃ j, j < n ∧ rowJ j ≠ 0 ∧ (rowPs n).getD i (0, 0) = (((cdJ j : Nat) : Int), ((rowJ j : Nat) : Int))
  | 0, i, h => by simp [cR, rowPs] at h
  | n + 1, i, h => by
    by_cases h0 : rowJ n = 0
    · rw [cR_zero h0] at h
      rw [rowPs_zero h0]
      obtain ⟨j, h1, h2, h3⟩ := rowPs_get n i h
      exact ⟨j, by omega, h2, h3⟩
    · rw [rowPs_some h0]
      by_cases hi : i < cR n
      · obtain ⟨j, h1, h2, h3⟩ := rowPs_get n i hi
        refine ⟨j, by omega, h2, ?_⟩
        rw [← h3]
        unfold cR at hi
        simp [List.getD, List.getElem?_append_left hi]
      · rw [cR_some h0] at h
        have he : i = (rowPs n).length := by unfold cR at *; omega
        refine ⟨n, by omega, h0, ?_⟩
        subst he
        simp [List.getD]
/-- Of the listed pairs: the one of place j, and those ahead of it. -/
theorem rows_at {j : Nat} (hj : j < 1128) (h : rowJ j ≠ 0) : cR j < 724 ∧ (rowPs 1128).getD (cR j) (0, 0) = (((cdJ j : Nat) : Int), ((rowJ j : Nat) : Int)) ∧ ∀ i, i < cR j → ∃ (c : Int) (q : Nat), (rowPs 1128).getD i (0, 0) = (c, ((q : Nat) : Int)) ∧ q ≠ rowJ j := by
  obtain ⟨t, ht⟩ := rowPs_more (j + 1) (1128 - (j + 1))
  rw [show j + 1 + (1128 - (j + 1)) = 1128 by omega, rowPs_some h, List.append_assoc] at ht
  have h1 := cR_all
  have hl : (rowPs j).length = cR j := rfl
  refine ⟨?_, ?_, fun i hi => ?_⟩
  · unfold cR at h1
    rw [ht, List.length_append, hl] at h1
    simp at h1; omega
  · rw [ht, ← hl]; simp [List.getD]
  · obtain ⟨j', h2, h3, h4⟩ := rowPs_get j i hi
    refine ⟨((cdJ j' : Nat) : Int), rowJ j', ?_, fun he => ?_⟩
    · rw [ht, ← h4]
      simp [List.getD, List.getElem?_append_left (show i < (rowPs j).length from hi)]
    · have := rowJ_inj (by omega) hj he h3
      omega
set_option maxRecDepth 100000 in
set_option maxHeartbeats 8000000 in
theorem rows_walk {K : World → Prop} (L : Rs K) (w : World) (hK : K w) : Calls Tryz.prog 3 #[] w fun e w' => e = .returned (.bool true) ∧ Below w.heap.size w w' := by
  have hR := L.rows w hK
  have AT : Hid (∀ j, j < 1128 → rowJ j ≠ 0 → cR j < 724 ∧ (rowPs 1128).getD (cR j) (0, 0) = (((cdJ j : Nat) : Int), ((rowJ j : Nat) : Int)) ∧ ∀ i, i < cR j → ∃ (c : Int) (q : Nat), (rowPs 1128).getD i (0, 0) = (c, ((q : Nat) : Int)) ∧ q ≠ rowJ j) := Lib.hid (fun j h1 h2 => rows_at h1 h2)
  generalize rowPs 1128 = RL at *
  have HR := Lib.hid hR
  have HA := Lib.hid (fun w2 h => awake_any L.toAw w2 h)
  have HL := Lib.hid L.stay
  have HK := Lib.hid hK
  clear hK L hR
  go_enter Tryz.func3, Tryz.ntmps3
  go_wp2_with (go_at_call 4; refine (HR.out).mono ?_; rintro e2 w2 ⟨A, cp, rfl, hr, hb2⟩; have B2 := Lib.hid hb2; have P2 := Lib.hid hr; clear hb2 hr)
  go_loopw [2, 3] (fun k t wr => ∃ (l : Nat) (LL G : Int), Hid (LL = 161 + (l : Int) ∧ l ≤ 12 ∧ G = ((cR (l * 94) : Nat) : Int)) ∧ t = .int .i64 LL ∧ k = .int .i64 G ∧ RowP wr A 724 cp RL ∧ Below w.heap.size w wr) (fun _ t _ => 173 - (RowKit.intOf t).toNat)
  case atStart => exact ⟨0, 161, 0, Lib.hid ⟨rfl, by omega, rfl⟩, rfl, rfl, P2.out, B2.out⟩
  case round =>
    obtain ⟨l, LL, G, hl, rfl, rfl, hP, hB⟩ := hrel
    have HP := Lib.hid hP; have HB := Lib.hid hB
    clear hP hB
    have l0 : 161 ≤ LL := by have := hl.out; omega
    by_cases hlt : LL ≤ 172
    · have HLL : Hid (l < 12) := Lib.hid (by have := hl.out; omega)
      go_wp2_with fail
      go_loopw [2, 4] (fun k t wr2 => ∃ (b : Nat) (B G2 : Int), Hid (B = 161 + (b : Int) ∧ b ≤ 94 ∧ G2 = ((cR (l * 94 + b) : Nat) : Int)) ∧ t = .int .i64 B ∧ k = .int .i64 G2 ∧ RowP wr2 A 724 cp RL ∧ Below w.heap.size w wr2) (fun _ t _ => 255 - (RowKit.intOf t).toNat)
      case atStart => exact ⟨0, 161, G, Lib.hid ⟨rfl, by omega, hl.out.2.2⟩, rfl, rfl, HP.out, HB.out⟩
      case round =>
        obtain ⟨b, B, G2, hb, rfl, rfl, hP2, hB2⟩ := hrel
        have HP2 := Lib.hid hP2; have HB2 := Lib.hid hB2
        clear hP2 hB2
        have b0 : 161 ≤ B := by have := hb.out; omega
        by_cases hlb : B ≤ 254
        · have HRW : Hid (∀ w2, Calls Tryz.prog 5 #[.int .i64 LL, .int .i64 B] w2 fun e w' => e = .returned (.int .i32 ((rowJ (l * 94 + b) : Nat) : Int)) ∧ Below w2.heap.size w2 w') := Lib.hid (fun w2 => by
            have h1 := hl.out; have h2 := hb.out; have h3 := HLL.out
            have := row_any (161 + l) (161 + b) w2 (by omega) (by omega)
            rw [(row_J (l := 161 + l) (b := 161 + b) (by omega) (by omega) (by omega) (by omega)).1, show (161 + l - 161) * 94 + (161 + b - 161) = l * 94 + b by omega, show ((161 + l : Nat) : Int) = LL by omega, show ((161 + b : Nat) : Int) = B by omega] at this
            exact this)
          have HJ : Hid (l * 94 + b < 1128) := Lib.hid (by have := hb.out; have := HLL.out; omega)
          by_cases hp : rowJ (l * 94 + b) = 0
          · have hst := Lib.hid (cR_zero hp)
            rw [hp] at HRW
            replace HRW : Hid (∀ w2, Calls Tryz.prog 5 #[.int .i64 LL, .int .i64 B] w2 fun e w' => e = .returned (.int .i32 0) ∧ Below w2.heap.size w2 w') := HRW
            clear hp
            go_wp2_with (go_at_call 5; refine (HRW.out _).mono ?_; rintro e2 w2 ⟨rfl, hb2⟩; have B4 := Lib.hid (HB2.out.trans (hb2.mono HB2.out.size)); have P4 := Lib.hid (HP2.out.below hb2); clear hb2)
            go_roundw
            case rel => exact ⟨b + 1, B + 1, G2, Lib.hid ⟨by have := hb.out; omega, by have := hb.out; omega, by rw [← Nat.add_assoc, hst.out]; exact hb.out.2.2⟩, rfl, rfl, P4.out, B4.out⟩
            case measure => simp [RowKit.intOf]; omega
          · obtain ⟨k1, k2, k3⟩ := AT.out _ HJ.out hp
            have hst := Lib.hid (cR_some hp)
            obtain ⟨k, hk⟩ : ∃ k : Nat, k = cR (l * 94 + b) := ⟨_, rfl⟩
            rw [← hk] at k1 k2 k3
            have hG2 : G2 = (k : Int) := by rw [hk]; exact hb.out.2.2
            subst hG2
            have hne : (((rowJ (l * 94 + b) : Nat) : Int) == 0) = false := beq_eq_false_iff_ne.2 (by omega)
            have hcd : ((cdJ (l * 94 + b) : Nat) : Int) = LL * 256 + B := by
              have h1 := hl.out; have h2 := hb.out
              unfold cdJ; omega
            rw [hcd] at k2
            have HK3 : Hid (∀ i, i < k → ∃ (c q : Int), RL.getD i (0, 0) = (c, q) ∧ (q == ((rowJ (l * 94 + b) : Nat) : Int)) = false) := Lib.hid (fun i hi => by
              obtain ⟨c, q, h1, h2⟩ := k3 i hi
              exact ⟨c, q, h1, beq_eq_false_iff_ne.2 (by omega)⟩)
            obtain ⟨a, rfl, a1, a2, c0, c1⟩ := HP2.out.at k (by omega)
            rw [k2] at c0 c1
            simp only at c0 c1
            have g0 : (0 : Int) ≤ (k : Int) := by omega
            have g1 : (k : Int) < 724 := by omega
            have g2 : (k : Int) ≤ (cp : Int) := by omega
            unfold maxLen at a2
            have HKK := Lib.hid hk
            have H724 : Hid (k < 724) := Lib.hid k1
            have HCP : Hid (724 ≤ cp) := Lib.hid a1
            clear hp k1 k2 k3 hk hcd
            obtain ⟨V, hV⟩ : ∃ V : Int, V = ((rowJ (l * 94 + b) : Nat) : Int) := ⟨_, rfl⟩
            rw [← hV] at HRW hne HK3 c1
            clear hV
            go_wp2_with (go_at_call 5; refine (HRW.out _).mono ?_; rintro e2 w2 ⟨rfl, hb2⟩; have B4 := Lib.hid (HB2.out.trans (hb2.mono HB2.out.size)); have P4 := Lib.hid (HP2.out.below hb2); have bl := World.block_lt_of_cell? wr _ c0; have d0 : w2.cell? (a.add (k * 2)) = some (.int .i64 (LL * 256 + B)) := (hb2.cell bl).trans c0; have d2 : w2.cell? ⟨(a.add (k * 2)).block, (a.add (k * 2)).off + 1, none⟩ = some (.int .i32 V) := ((hb2.cell (p := ⟨(a.add (k * 2)).block, (a.add (k * 2)).off + 1, none⟩) bl).trans (by rw [← c1]; rfl)); clear hb2 bl)
            go_loopw [51] (fun t wr3 => ∃ i : Nat, i ≤ k ∧ t = .int .i64 i ∧ RowP wr3 (some a) 724 cp RL ∧ Below w.heap.size w wr3) (fun t _ => k - (RowKit.intOf t).toNat)
            case atStart => exact ⟨0, Nat.zero_le _, rfl, P4.out, B4.out⟩
            case round =>
              obtain ⟨i, hi, rfl, hP5, hB5⟩ := hrel
              have HP5 := Lib.hid hP5; have HB5 := Lib.hid hB5
              clear hP5 hB5
              by_cases hik : i < k
              · obtain ⟨c, q, hq, hqne⟩ := HK3.out i hik
                obtain ⟨a', ha', _, _, e0, e1⟩ := HP5.out.at i (by have := H724.out; omega)
                obtain rfl : a = a' := by injection ha'
                rw [hq] at e0 e1
                simp only at e0 e1
                have e2 : wr.cell? ⟨(a.add (i * 2)).block, (a.add (i * 2)).off + 1, none⟩ = some (.int .i32 q) := by rw [← e1]; rfl
                have i0 : (0 : Int) ≤ (i : Int) := by omega
                have i1 : (i : Int) < (k : Int) := by omega
                clear hq ha' e1
                go_wp2_with fail
                go_roundw
                case rel =>
                  have hX : Below wr.heap.size wr (wr.alloc (.cells #[.int .i64 c, .int .i32 q] 26)) := (Below.refl _ _).alloc (Nat.le_refl _) _
                  exact ⟨i + 1, by omega, by go_num, HP5.out.below hX, HB5.out.trans (hX.mono HB5.out.size)⟩
                case measure => simp [RowKit.intOf]; omega
              · go_wp2_with fail
                go_roundw
                case rel => exact ⟨b + 1, B + 1, (k : Int) + 1, Lib.hid ⟨by have := hb.out; omega, by have := hb.out; omega, by rw [← Nat.add_assoc, hst.out]; have := HKK.out; omega⟩, rfl, rfl, HP5.out, HB5.out⟩
                case measure => simp [RowKit.intOf]; omega
        · have hres : Hid (G2 = ((cR ((l + 1) * 94) : Nat) : Int)) := Lib.hid (by
            have h1 := hb.out
            obtain rfl : b = 94 := by omega
            rw [show (l + 1) * 94 = l * 94 + 94 by omega]
            exact h1.2.2)
          go_wp2_with fail
          go_roundw
          case rel => exact ⟨l + 1, LL + 1, G2, Lib.hid ⟨by have := hl.out; omega, by have := HLL.out; omega, hres.out⟩, rfl, rfl, HP2.out, HB2.out⟩
          case measure => simp [RowKit.intOf]; omega
    · have hG : G = 724 := by
        have h1 := hl.out
        obtain rfl : l = 12 := by omega
        rw [h1.2.2, show 12 * 94 = 1128 from rfl, cR_all]; rfl
      subst hG
      have KB := Lib.hid (HL.out _ _ HK.out HB.out)
      go_wp2_with (go_at_call 6; refine (HA.out _ KB.out).mono ?_; rintro e5 w5 ⟨rfl, hb5⟩; have B5 := Lib.hid (HB.out.trans (hb5.mono HB.out.size)); clear hb5)
      go_ret
      exact ⟨rfl, B5.out⟩
end Go.Proofs.YtgjndekgnkjknaaGreatDoor.wa
