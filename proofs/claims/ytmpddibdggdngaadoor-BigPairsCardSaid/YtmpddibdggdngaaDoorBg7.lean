/- The walk of BigPairs. -/
import Derived.Test.YtmpddibdggdngaaDoorBg4
namespace Go.Proofs.YtmpddibdggdngaaDoor.bg
open Go.RowKit Go.Lib
open Go.Proofs.YtmpddibdggdngaaDoor.tb (RowP RowP.at RowP.below)
set_option linter.unusedVariables false
/-- What the walk of BigPairs asks beside. -/
structure LandP (K : World → Prop) : Prop where
  awk : Awk K
  pairs : ∀ w, K w → Calls Tryd.prog 13 #[] w fun e w' => ∃ A c, e = .returned (.slice A 610 c) ∧ RowP w' A 610 c (prs 32256) ∧ Below w.heap.size w w'
/-- The sign of the code that stands n behind 129 times 256. -/
def oN (n : Nat) : Nat := one ((33024 + n) / 256) ((33024 + n) % 256)
/-- How many of the first codes have a sign. -/
def cN (n : Nat) : Nat := (prs n).length
theorem prs_zero {n : Nat} (h : oN n = 0) : prs (n + 1) = prs n := by unfold oN at h; conv => lhs; unfold prs pr; rw [if_pos h, List.append_nil]
theorem prs_some {n : Nat} (h : oN n ≠ 0) : prs (n + 1) = prs n ++ [(((33024 + n : Nat) : Int), ((oN n : Nat) : Int))] := by
  unfold oN at *
  conv => lhs; unfold prs pr; rw [if_neg h]
theorem cN_zero {n : Nat} (h : oN n = 0) : cN (n + 1) = cN n := by unfold cN; rw [prs_zero h]
theorem cN_some {n : Nat} (h : oN n ≠ 0) : cN (n + 1) = cN n + 1 := by unfold cN; rw [prs_some h, List.length_append]; rfl
theorem cN_skip (n : Nat) : ∀ m, (∀ k, k < m → oN (n + k) = 0) → cN (n + m) = cN n
  | 0, _ => rfl
  | m + 1, h => by rw [← Nat.add_assoc, cN_zero (h m (by omega)), cN_skip n m (fun k hk => h k (by omega))]
theorem cN_seg (n : Nat) : ∀ m, cN (n + m) = cN n + (((List.range m).map fun k => oN (n + k)).filter (· != 0)).length
  | 0 => rfl
  | m + 1 => by
    rw [List.range_succ, List.map_append, List.filter_append, List.length_append, ← Nat.add_assoc (cN n), ← cN_seg n m, ← Nat.add_assoc]
    by_cases h : oN (n + m) = 0
    · rw [cN_zero h]; simp [h]
    · rw [cN_some h]; simp [h]
theorem one_far {l b : Nat} (h : ¬ (l = 136 ∨ l = 161 ∨ l = 163 ∨ l = 164 ∨ l = 165)) : one l b = 0 := by
  unfold one
  cases cell b with
  | none => rfl
  | some c => exact sgC_none h c
theorem one_off {l b : Nat} (h : cell b = none) : one l b = 0 := by unfold one; rw [h]
theorem cN_all : cN 32256 = 610 := by
  have e1 : cN 1792 = cN 0 := cN_skip 0 1792 (fun k hk => by unfold oN; exact one_far (by omega))
  have e2 : cN 2048 = cN 1792 + (((List.range 256).map fun k => oN (1792 + k)).filter (· != 0)).length := cN_seg 1792 256
  have e3 : cN 8192 = cN 2048 := cN_skip 2048 6144 (fun k hk => by unfold oN; exact one_far (by omega))
  have e4 : cN 9472 = cN 8192 + (((List.range 1280).map fun k => oN (8192 + k)).filter (· != 0)).length := cN_seg 8192 1280
  have e5 : cN 32256 = cN 9472 := cN_skip 9472 22784 (fun k hk => by unfold oN; exact one_far (by omega))
  have e6 : (((List.range 256).map fun k => oN (1792 + k)).filter (· != 0)).length + (((List.range 1280).map fun k => oN (8192 + k)).filter (· != 0)).length = 610 := by decide +kernel
  have e0 : cN 0 = 0 := rfl
  rw [e5, e4, e3, e2, e1, e0, Nat.zero_add]
  exact e6
theorem oN_in {l b : Nat} (hb : b < 256) : oN (l * 256 + b) = one (129 + l) b := by
  unfold oN
  rw [show (33024 + (l * 256 + b)) / 256 = 129 + l by omega, show (33024 + (l * 256 + b)) % 256 = b by omega]
theorem cell_low {b : Nat} (h : b < 64) : cell b = none := by unfold cell; rw [if_neg (by omega), if_neg (by omega)]
theorem cell_high : cell 255 = none := by decide
/-- No two codes have one sign. -/
theorem oN_inj {m n : Nat} (h : oN m = oN n) (h0 : oN m ≠ 0) : m = n := by
  have h0' : oN n ≠ 0 := by rw [← h]; exact h0
  unfold oN at h h0 h0'
  obtain ⟨c, c1, c2⟩ := one_has h0
  obtain ⟨d, d1, d2⟩ := one_has h0'
  obtain ⟨a1, a2⟩ := one_J c2 c1
  obtain ⟨b1, b2⟩ := one_J d2 d1
  rw [a1] at h h0
  rw [b1] at h
  have hj := oneJ_inj a2 b2 h h0
  have k1 := cdJ_of c2 c1
  have k2 := cdJ_of d2 d1
  rw [hj, k2] at k1
  omega
theorem prs_more (n : Nat) : ∀ m, ∃ t, prs (n + m) = prs n ++ t
  | 0 => ⟨[], by simp⟩
  | m + 1 => by
    obtain ⟨t, h⟩ := prs_more n m
    by_cases h0 : oN (n + m) = 0
    · exact ⟨t, by rw [← Nat.add_assoc, prs_zero h0, h]⟩
    · exact ⟨t ++ [(((33024 + (n + m) : Nat) : Int), ((oN (n + m) : Nat) : Int))], by rw [← Nat.add_assoc, prs_some h0, h, List.append_assoc]⟩
theorem prs_get : ∀ n i, i < cN n → ∃ j, j < n ∧ oN j ≠ 0 ∧ (prs n).getD i (0, 0) = (((33024 + j : Nat) : Int), ((oN j : Nat) : Int))
  | 0, i, h => by simp [cN, prs] at h
  | n + 1, i, h => by
    by_cases h0 : oN n = 0
    · rw [cN_zero h0] at h
      rw [prs_zero h0]
      obtain ⟨j, h1, h2, h3⟩ := prs_get n i h
      exact ⟨j, by omega, h2, h3⟩
    · rw [prs_some h0]
      by_cases hi : i < cN n
      · obtain ⟨j, h1, h2, h3⟩ := prs_get n i hi
        refine ⟨j, by omega, h2, ?_⟩
        rw [← h3]
        unfold cN at hi
        simp [List.getD, List.getElem?_append_left hi]
      · rw [cN_some h0] at h
        have he : i = (prs n).length := by unfold cN at *; omega
        refine ⟨n, by omega, h0, ?_⟩
        subst he
        simp [List.getD]
/-- Of the listed pairs: the one of a code, and those ahead of it. -/
theorem prs_at {j : Nat} (hj : j < 32256) (h : oN j ≠ 0) : cN j < 610 ∧ (prs 32256).getD (cN j) (0, 0) = (((33024 + j : Nat) : Int), ((oN j : Nat) : Int)) ∧ ∀ i, i < cN j → ∃ (c : Int) (q : Nat), (prs 32256).getD i (0, 0) = (c, ((q : Nat) : Int)) ∧ q ≠ oN j := by
  obtain ⟨t, ht⟩ := prs_more (j + 1) (32256 - (j + 1))
  rw [show j + 1 + (32256 - (j + 1)) = 32256 by omega, prs_some h, List.append_assoc] at ht
  have h1 := cN_all
  have hl : (prs j).length = cN j := rfl
  refine ⟨?_, ?_, fun i hi => ?_⟩
  · unfold cN at h1
    rw [ht, List.length_append, hl] at h1
    simp at h1; omega
  · rw [ht, ← hl]; simp [List.getD]
  · obtain ⟨j', h2, h3, h4⟩ := prs_get j i hi
    refine ⟨((33024 + j' : Nat) : Int), oN j', ?_, fun he => ?_⟩
    · rw [ht, ← h4]
      simp [List.getD, List.getElem?_append_left (show i < (prs j).length from hi)]
    · have := oN_inj he h3
      omega
set_option maxRecDepth 100000 in
set_option maxHeartbeats 8000000 in
theorem pairs_walk {K : World → Prop} (LP : LandP K) (w : World) (hK : K w) : Calls Tryd.prog 6 #[] w fun e w' => e = .returned (.bool true) ∧ Below w.heap.size w w' := by
  have L := LP.awk
  have hR := LP.pairs w hK
  have AT : Hid (∀ j, j < 32256 → oN j ≠ 0 → cN j < 610 ∧ (prs 32256).getD (cN j) (0, 0) = (((33024 + j : Nat) : Int), ((oN j : Nat) : Int)) ∧ ∀ i, i < cN j → ∃ (c : Int) (q : Nat), (prs 32256).getD i (0, 0) = (c, ((q : Nat) : Int)) ∧ q ≠ oN j) := Lib.hid (fun j h1 h2 => prs_at h1 h2)
  generalize prs 32256 = RL at *
  have HR := Lib.hid hR
  have HA := Lib.hid (fun w2 h => awake_any L w2 h)
  have HL := Lib.hid L.stay
  have HK := Lib.hid hK
  clear hK L LP hR
  go_enter Tryd.func6, Tryd.ntmps6
  go_wp2_with (go_at_call 13; refine (HR.out).mono ?_; rintro e2 w2 ⟨A, cp, rfl, hr, hb2⟩; have B2 := Lib.hid hb2; have P2 := Lib.hid hr; clear hb2 hr)
  go_loopw [2, 3] (fun k t wr => ∃ (l : Nat) (LL G : Int), Hid (LL = 129 + (l : Int) ∧ l ≤ 126 ∧ G = ((cN (l * 256) : Nat) : Int)) ∧ t = .int .i64 LL ∧ k = .int .i64 G ∧ RowP wr A 610 cp RL ∧ Below w.heap.size w wr) (fun _ t _ => 255 - (RowKit.intOf t).toNat)
  case atStart => exact ⟨0, 129, 0, Lib.hid ⟨rfl, by omega, rfl⟩, rfl, rfl, P2.out, B2.out⟩
  case round =>
    obtain ⟨l, LL, G, hl, rfl, rfl, hP, hB⟩ := hrel
    have HP := Lib.hid hP; have HB := Lib.hid hB
    clear hP hB
    have l0 : 129 ≤ LL := by have := hl.out; omega
    by_cases hlt : LL < 255
    · have HLL : Hid (l < 126) := Lib.hid (by have := hl.out; omega)
      go_wp2_with fail
      go_loopw [2, 4] (fun k t wr2 => ∃ (b : Nat) (B G2 : Int), Hid (B = 64 + (b : Int) ∧ b ≤ 191 ∧ G2 = ((cN (l * 256 + (64 + b)) : Nat) : Int)) ∧ t = .int .i64 B ∧ k = .int .i64 G2 ∧ RowP wr2 A 610 cp RL ∧ Below w.heap.size w wr2) (fun _ t _ => 255 - (RowKit.intOf t).toNat)
      case atStart => exact ⟨0, 64, G, Lib.hid ⟨rfl, by omega, by rw [hl.out.2.2, cN_skip (l * 256) (64 + 0) (fun k hk => by rw [oN_in (by omega)]; exact one_off (cell_low (by omega)))]⟩, rfl, rfl, HP.out, HB.out⟩
      case round =>
        obtain ⟨b, B, G2, hb, rfl, rfl, hP2, hB2⟩ := hrel
        have HP2 := Lib.hid hP2; have HB2 := Lib.hid hB2
        clear hP2 hB2
        have b0 : 64 ≤ B := by have := hb.out; omega
        by_cases hlb : B < 255
        · have HRW : Hid (∀ w2, Calls Tryd.prog 14 #[.int .i64 LL, .int .i64 B] w2 fun e w' => e = .returned (.int .i32 ((oN (l * 256 + (64 + b)) : Nat) : Int)) ∧ Below w2.heap.size w2 w') := Lib.hid (fun w2 => by
            have h1 := hl.out; have h2 := hb.out; have h3 := HLL.out
            have := one_any (129 + l) (64 + b) w2 (by omega) (by omega)
            unfold OnePost at this
            rw [← oN_in (by omega), show ((129 + l : Nat) : Int) = LL by omega, show ((64 + b : Nat) : Int) = B by omega] at this
            exact this)
          have HJ : Hid (l * 256 + (64 + b) < 32256) := Lib.hid (by have := hb.out; have := HLL.out; omega)
          by_cases hp : oN (l * 256 + (64 + b)) = 0
          · have hst := Lib.hid (cN_zero hp)
            rw [hp] at HRW
            replace HRW : Hid (∀ w2, Calls Tryd.prog 14 #[.int .i64 LL, .int .i64 B] w2 fun e w' => e = .returned (.int .i32 0) ∧ Below w2.heap.size w2 w') := HRW
            clear hp
            go_wp2_with (go_at_call 14; refine (HRW.out _).mono ?_; rintro e2 w2 ⟨rfl, hb2⟩; have B4 := Lib.hid (HB2.out.trans (hb2.mono HB2.out.size)); have P4 := Lib.hid (HP2.out.below hb2); clear hb2)
            go_roundw
            case rel => exact ⟨b + 1, B + 1, G2, Lib.hid ⟨by have := hb.out; omega, by have := hb.out; omega, by rw [show 64 + (b + 1) = (64 + b) + 1 by omega, ← Nat.add_assoc (l * 256), hst.out]; exact hb.out.2.2⟩, rfl, rfl, P4.out, B4.out⟩
            case measure => simp [RowKit.intOf]; omega
          · obtain ⟨k1, k2, k3⟩ := AT.out _ HJ.out hp
            have hst := Lib.hid (cN_some hp)
            obtain ⟨k, hk⟩ : ∃ k : Nat, k = cN (l * 256 + (64 + b)) := ⟨_, rfl⟩
            rw [← hk] at k1 k2 k3
            have hG2 : G2 = (k : Int) := by rw [hk]; exact hb.out.2.2
            subst hG2
            have hne : (((oN (l * 256 + (64 + b)) : Nat) : Int) == 0) = false := beq_eq_false_iff_ne.2 (by omega)
            have hcd : ((33024 + (l * 256 + (64 + b)) : Nat) : Int) = LL * 256 + B := by
              have h1 := hl.out; have h2 := hb.out
              omega
            rw [hcd] at k2
            have HK3 : Hid (∀ i, i < k → ∃ (c q : Int), RL.getD i (0, 0) = (c, q) ∧ (q == ((oN (l * 256 + (64 + b)) : Nat) : Int)) = false) := Lib.hid (fun i hi => by
              obtain ⟨c, q, h1, h2⟩ := k3 i hi
              exact ⟨c, q, h1, beq_eq_false_iff_ne.2 (by omega)⟩)
            obtain ⟨a, rfl, a1, a2, c0, c1⟩ := HP2.out.at k (by omega)
            rw [k2] at c0 c1
            simp only at c0 c1
            have g0 : (0 : Int) ≤ (k : Int) := by omega
            have g1 : (k : Int) < 610 := by omega
            have g2 : (k : Int) ≤ (cp : Int) := by omega
            unfold maxLen at a2
            have HKK := Lib.hid hk
            have HSIX : Hid (k < 610) := Lib.hid k1
            have HCP : Hid (610 ≤ cp) := Lib.hid a1
            clear hp k1 k2 k3 hk hcd
            obtain ⟨V, hV⟩ : ∃ V : Int, V = ((oN (l * 256 + (64 + b)) : Nat) : Int) := ⟨_, rfl⟩
            rw [← hV] at HRW hne HK3 c1
            clear hV
            go_wp2_with (go_at_call 14; refine (HRW.out _).mono ?_; rintro e2 w2 ⟨rfl, hb2⟩; have B4 := Lib.hid (HB2.out.trans (hb2.mono HB2.out.size)); have P4 := Lib.hid (HP2.out.below hb2); have bl := World.block_lt_of_cell? wr _ c0; have d0 : w2.cell? (a.add (k * 2)) = some (.int .i64 (LL * 256 + B)) := (hb2.cell bl).trans c0; have d2 : w2.cell? ⟨(a.add (k * 2)).block, (a.add (k * 2)).off + 1, none⟩ = some (.int .i32 V) := ((hb2.cell (p := ⟨(a.add (k * 2)).block, (a.add (k * 2)).off + 1, none⟩) bl).trans (by rw [← c1]; rfl)); clear hb2 bl)
            go_loopw [51] (fun t wr3 => ∃ i : Nat, i ≤ k ∧ t = .int .i64 i ∧ RowP wr3 (some a) 610 cp RL ∧ Below w.heap.size w wr3) (fun t _ => k - (RowKit.intOf t).toNat)
            case atStart => exact ⟨0, Nat.zero_le _, rfl, P4.out, B4.out⟩
            case round =>
              obtain ⟨i, hi, rfl, hP5, hB5⟩ := hrel
              have HP5 := Lib.hid hP5; have HB5 := Lib.hid hB5
              clear hP5 hB5
              by_cases hik : i < k
              · obtain ⟨c, q, hq, hqne⟩ := HK3.out i hik
                obtain ⟨a', ha', _, _, e0, e1⟩ := HP5.out.at i (by have := HSIX.out; omega)
                obtain rfl : a = a' := by injection ha'
                rw [hq] at e0 e1
                simp only at e0 e1
                have e2 : wr.cell? ⟨(a.add (i * 2)).block, (a.add (i * 2)).off + 1, none⟩ = some (.int .i32 q) := by rw [← e1]; rfl
                have i0 : (0 : Int) ≤ (i : Int) := by omega
                have i1 : (i : Int) < (k : Int) := by omega
                clear hq ha' e1
                go_wp2_with fail
                go_roundw
                case rel =>
                  have hX : Below wr.heap.size wr (wr.alloc (.cells #[.int .i64 c, .int .i32 q] 41)) := (Below.refl _ _).alloc (Nat.le_refl _) _
                  exact ⟨i + 1, by omega, by go_num, HP5.out.below hX, HB5.out.trans (hX.mono HB5.out.size)⟩
                case measure => simp [RowKit.intOf]; omega
              · go_wp2_with fail
                go_roundw
                case rel => exact ⟨b + 1, B + 1, (k : Int) + 1, Lib.hid ⟨by have := hb.out; omega, by have := hb.out; omega, by rw [show 64 + (b + 1) = (64 + b) + 1 by omega, ← Nat.add_assoc (l * 256), hst.out]; have := HKK.out; omega⟩, rfl, rfl, HP5.out, HB5.out⟩
                case measure => simp [RowKit.intOf]; omega
        · have hres : Hid (G2 = ((cN ((l + 1) * 256) : Nat) : Int)) := Lib.hid (by
            have h1 := hb.out
            obtain rfl : b = 191 := by omega
            have h2 : oN (l * 256 + 255) = 0 := by rw [oN_in (by omega)]; exact one_off cell_high
            rw [show (l + 1) * 256 = (l * 256 + 255) + 1 by omega, cN_zero h2]
            exact h1.2.2)
          go_wp2_with fail
          go_roundw
          case rel => exact ⟨l + 1, LL + 1, G2, Lib.hid ⟨by have := hl.out; omega, by have := HLL.out; omega, hres.out⟩, rfl, rfl, HP2.out, HB2.out⟩
          case measure => simp [RowKit.intOf]; omega
    · have hG : G = 610 := by
        have h1 := hl.out
        obtain rfl : l = 126 := by omega
        rw [h1.2.2, show 126 * 256 = 32256 from rfl, cN_all]; rfl
      subst hG
      have KB := Lib.hid (HL.out _ _ HK.out HB.out)
      go_wp2_with (go_at_call 9; refine (HA.out _ KB.out).mono ?_; rintro e5 w5 ⟨rfl, hb5⟩; have B5 := Lib.hid (HB.out.trans (hb5.mono HB.out.size)); clear hb5)
      go_ret
      exact ⟨rfl, B5.out⟩
end Go.Proofs.YtmpddibdggdngaaDoor.bg
