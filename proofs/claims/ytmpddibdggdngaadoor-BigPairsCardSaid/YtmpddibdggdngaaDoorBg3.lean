/- The document's own answer of layer 8: Code: a contract. -/
import Derived.Test.YtmpddibdggdngaaDoorBg2
namespace Go.Proofs.YtmpddibdggdngaaDoor.bg
open Go.RowKit Go.Lib
set_option linter.unusedVariables false
/-- The search of a sign by its number, whatever it is. -/
def jZ (z : Int) : Nat → Nat → Option Nat
  | 0, _ => none
  | f + 1, j => if ((oneJ j : Nat) : Int) = z ∧ oneJ j ≠ 0 then some j else jZ z f (j + 1)
theorem jZ_hit {z : Int} {f j : Nat} (h : ((oneJ j : Nat) : Int) = z ∧ oneJ j ≠ 0) : jZ z (f + 1) j = some j := by conv => lhs; unfold jZ; rw [if_pos h]
theorem jZ_miss {z : Int} {f j : Nat} (h : ¬ (((oneJ j : Nat) : Int) = z ∧ oneJ j ≠ 0)) : jZ z (f + 1) j = jZ z f (j + 1) := by conv => lhs; unfold jZ; rw [if_neg h]
theorem jZ_skip (z : Int) (f : Nat) : ∀ m j, (∀ k, k < m → oneJ (j + k) = 0) → jZ z (m + f) j = jZ z f (j + m)
  | 0, j, _ => by rw [Nat.zero_add, Nat.add_zero]
  | m + 1, j, h => by
    have h0 := h 0 (by omega)
    rw [Nat.add_zero] at h0
    rw [show m + 1 + f = (m + f) + 1 by omega, jZ_miss (by omega), jZ_skip z f m (j + 1) (fun k hk => by rw [show j + 1 + k = j + (k + 1) by omega]; exact h (k + 1) (by omega))]
    rw [show j + 1 + m = j + (m + 1) by omega]
theorem jZ_low {z : Int} (hz : z ≤ 0) : ∀ f j, jZ z f j = none
  | 0, _ => rfl
  | f + 1, j => by rw [jZ_miss (by omega)]; exact jZ_low hz f (j + 1)
theorem jZ_jF {z : Int} (hz : 0 < z) : ∀ f j, jZ z f j = jF z.toNat f j
  | 0, _ => rfl
  | f + 1, j => by
    by_cases h : oneJ j = z.toNat
    · rw [jZ_hit (by omega), jF_hit h]
    · rw [jZ_miss (by omega), jF_miss h]; exact jZ_jF hz f (j + 1)
theorem jZ_plc (z : Int) : jZ z 785 0 = plc z := by
  unfold plc
  by_cases h : z ≤ 0
  · rw [if_pos h, jZ_low h]
  · rw [if_neg h, jZ_jF (by omega)]
def cdV : Option (Nat × Nat) → Value
  | some (c, k) => .tuple #[.int .i64 (c : Nat), .int .i64 (k : Nat)]
  | none => .tuple #[.int .i64 (-1), .int .i64 0]
theorem tw_some {z0 z1 : Int} {b : Nat} (hb : 64 ≤ b ∧ b < 255) (h : (tw (136 * 256 + b)).1 ≠ 0 ∧ (((tw (136 * 256 + b)).1 : Nat) : Int) = z0 ∧ (((tw (136 * 256 + b)).2 : Nat) : Int) = z1) : twB z0 z1 = some b := by
  rcases tw_cases (136 * 256 + b) with ⟨e, ht⟩ | ⟨e, ht⟩ | ⟨e, ht⟩ | ⟨e, ht⟩ | ⟨ht, _⟩
  · rw [ht] at h; obtain ⟨_, rfl, rfl⟩ := h; obtain rfl : b = 98 := by omega
    rfl
  · rw [ht] at h; obtain ⟨_, rfl, rfl⟩ := h; obtain rfl : b = 100 := by omega
    rfl
  · rw [ht] at h; obtain ⟨_, rfl, rfl⟩ := h; obtain rfl : b = 163 := by omega
    rfl
  · rw [ht] at h; obtain ⟨_, rfl, rfl⟩ := h; obtain rfl : b = 165 := by omega
    rfl
  · rw [ht] at h; exact absurd rfl h.1
theorem tw_none {z0 z1 : Int} (h : ∀ b, 64 ≤ b → b < 255 → ¬ ((tw (136 * 256 + b)).1 ≠ 0 ∧ (((tw (136 * 256 + b)).1 : Nat) : Int) = z0 ∧ (((tw (136 * 256 + b)).2 : Nat) : Int) = z1)) : twB z0 z1 = none := by
  unfold twB
  by_cases h1 : z0 = 202 ∧ z1 = 772
  · exfalso; obtain ⟨rfl, rfl⟩ := h1; exact h 98 (by omega) (by omega) (by decide)
  rw [if_neg h1]
  by_cases h2 : z0 = 202 ∧ z1 = 780
  · exfalso; obtain ⟨rfl, rfl⟩ := h2; exact h 100 (by omega) (by omega) (by decide)
  rw [if_neg h2]
  by_cases h3 : z0 = 234 ∧ z1 = 772
  · exfalso; obtain ⟨rfl, rfl⟩ := h3; exact h 163 (by omega) (by omega) (by decide)
  rw [if_neg h3]
  by_cases h4 : z0 = 234 ∧ z1 = 780
  · exfalso; obtain ⟨rfl, rfl⟩ := h4; exact h 165 (by omega) (by omega) (by decide)
  · rw [if_neg h4]
theorem rowL_ok : ∀ i < 5, (rowL (ldx i)).length ≤ 157 ∧ (rowL (ldx i)).all (fun p => decide (p ≠ 0 ∧ p < 65536)) = true := by decide +kernel
theorem sgC_far (l : Nat) {c : Nat} (h : (rowL l).length ≤ c) : sgC l c = 0 := by
  unfold sgC
  rw [show (rowL l).getD c 0 = 0 by simp [List.getD, List.getElem?_eq_none h]]; rfl
/-- The five rows' first bytes, in memory. -/
def LdS (w : World) (X : Nat) : Prop := X < w.heap.size ∧ ∀ i, i < 5 → w.cell? ⟨X, i, none⟩ = some (.int .i64 ((ldx i : Nat) : Int))
theorem LdS.below {w w' : World} {X : Nat} (h : LdS w X) (hb : Below w.heap.size w w') : LdS w' X :=
  ⟨Nat.lt_of_lt_of_le h.1 hb.size, fun i hi => (hb.cell (p := ⟨X, i, none⟩) h.1).trans (h.2 i hi)⟩
set_option maxRecDepth 100000 in
set_option maxHeartbeats 1000000 in
theorem leads_any (w : World) : Calls Tryd.prog 25 #[] w fun e w' => ∃ X, e = .returned (.slice (some ⟨X, 0, none⟩) 5 5) ∧ LdS w' X ∧ Below w.heap.size w w' := by
  have hls : LdS (w.alloc (.cells #[.int .i64 136, .int .i64 161, .int .i64 163, .int .i64 164, .int .i64 165] 3)) w.heap.size := by
    refine ⟨by simp, fun i hi => ?_⟩
    rw [World.cell?_alloc_mark]
    have hh : i = 0 ∨ i = 1 ∨ i = 2 ∨ i = 3 ∨ i = 4 := by omega
    rcases hh with rfl | rfl | rfl | rfl | rfl <;> rfl
  have HLS := Lib.hid hls
  clear hls
  go_enter Tryd.func25, Tryd.ntmps25
  go_wp2_with fail
  go_ret
  exact ⟨_, rfl, HLS.out, (Below.refl _ _).alloc (Nat.le_refl _) _⟩
/-- What the search of the first sign alone leads to. -/
def FINV : Option Nat → Value
  | some j => .tuple #[.int .i64 ((cdJ j : Nat) : Int), .int .i64 1]
  | none => .tuple #[.int .i64 (-1), .int .i64 0]
theorem codeW_two {z y : Int} {b : Nat} (rest : List Int) (h : twB z y = some b) : codeW (z :: y :: rest) = some (34816 + b, 2) := by
  show (match twB z y with | some b => some (34816 + b, 2) | none => _) = _
  rw [h]
theorem codeW_not {z y : Int} (rest : List Int) (h : twB z y = none) : codeW (z :: y :: rest) = (plc z).map fun j => (cdJ j, 1) := by
  show (match twB z y with | some b => some (34816 + b, 2) | none => _) = _
  rw [h]
theorem finv_is (z : Int) : cdV ((plc z).map fun j => (cdJ j, 1)) = FINV (plc z) := by
  cases plc z <;> rfl
set_option maxRecDepth 100000 in
set_option maxHeartbeats 16000000 in
theorem code_one (a : Addr) (n cp : Nat) (zs : List Int) (z : Int) (w : World) (hr : pt.RowI w (some a) n cp zs) (hn : n = 1) (hz : zs = [z]) : Calls Tryd.prog 12 #[.slice (some a) n cp] w fun e w' => e = .returned (cdV (codeW zs)) ∧ Below w.heap.size w w' := by
  obtain ⟨R, hR⟩ : ∃ R, R = plc z := ⟨_, rfl⟩
  have HR : Hid (jZ z (785 - 0 * 157) (0 * 157) = R) := Lib.hid (by rw [hR]; exact jZ_plc z)
  obtain ⟨V, hV⟩ : ∃ V, V = cdV (codeW zs) := ⟨_, rfl⟩
  rw [← hV]
  have HFIN : Hid (V = FINV R) := Lib.hid (by rw [hV, hz, hR]; exact finv_is z)
  have HZ0 : Hid (zs.getD 0 0 = z) := Lib.hid (by rw [hz]; rfl)
  have HPW := Lib.hid hr
  have HBW := Lib.hid (Below.refl w.heap.size w)
  clear hV hR hz hr
  subst hn
  go_enter Tryd.func12, Tryd.ntmps12
  have HP3 := Lib.hid (HPW.out)
  go_wp2_with (go_at_call 25; refine (leads_any _).mono ?_; rintro e2 w2 ⟨X, rfl, hls, hb2⟩; have HLS := Lib.hid hls; have B2 := Lib.hid (HBW.out.trans (hb2.mono HBW.out.size)); have P2 := Lib.hid (HP3.out.below hb2); clear hls hb2)
  go_loopw [8] (fun t wr => ∃ (i : Nat), i ≤ 5 ∧ t = .int .i64 i ∧ Hid (jZ z (785 - i * 157) (i * 157) = R) ∧ LdS wr X ∧ pt.RowI wr (some a) 1 cp zs ∧ Below w.heap.size w wr) (fun t _ => 5 - (RowKit.intOf t).toNat)
  case atStart => exact ⟨0, by omega, rfl, HR, HLS.out, P2.out, B2.out⟩
  case round =>
    obtain ⟨i, hi, rfl, hj, hL, hP, hB⟩ := hrel
    have HLW := Lib.hid hL; have HPR := Lib.hid hP; have HB := Lib.hid hB
    clear hL hP hB
    by_cases hlt : i < 5
    · have hci := HLW.out.2 i hlt
      have i0 : (0 : Int) ≤ (i : Int) := by omega
      have i1 : (i : Int) < 5 := by omega
      have HRO := Lib.hid (fun w2 => row_any (ldx i) w2)
      have HOK := Lib.hid (rowL_ok i hlt)
      obtain ⟨D, hD⟩ : ∃ D : Int, D = ((ldx i : Nat) : Int) := ⟨_, rfl⟩
      have HD := Lib.hid hD
      have hD5 : D = 136 ∨ D = 161 ∨ D = 163 ∨ D = 164 ∨ D = 165 := by have := ldx_in hlt; omega
      have d0 : 0 ≤ D := by omega
      have d1 : D ≤ 255 := by omega
      rw [← hD] at hci HRO
      have HLT := Lib.hid hlt
      clear hD hD5
      go_wp2_with (go_at_call 26; refine (HRO.out _).mono ?_; rintro e3 w3 ⟨s, rfl, hs, hz, rfl⟩; have HS := Lib.hid hs; have HZ := Lib.hid hz; clear hs hz)
      go_loopw [10, 11] (fun u t wr2 => ∃ (pos f c : Nat), Hid (pos ≤ s.size ∧ s.size ≤ pos + f ∧ c ≤ (rowL (ldx i)).length ∧ (pt.sc s f pos).1 = (rowL (ldx i)).drop c ∧ (pt.sc s f pos).2 = none ∧ jZ z (785 - (i * 157 + c)) (i * 157 + c) = R) ∧ u = .int .i64 pos ∧ t = .int .i64 c ∧ LdS wr2 X ∧ pt.RowI wr2 (some a) 1 cp zs ∧ Below w.heap.size w wr2) (fun u _ _ => s.size - (RowKit.intOf u).toNat)
      case atStart => exact ⟨0, s.size, 0, Lib.hid ⟨Nat.zero_le _, by omega, Nat.zero_le _, by rw [List.drop_zero]; exact congrArg Prod.fst HS.out, congrArg Prod.snd HS.out, hj.out⟩, rfl, rfl, HLW.out, HPR.out, HB.out⟩
      case round =>
        obtain ⟨pos, f, c, hp, rfl, rfl, hL2, hP2, hB2⟩ := hrel
        have HL2 := Lib.hid hL2; have HP2 := Lib.hid hP2; have HB2 := Lib.hid hB2
        clear hL2 hP2 hB2
        have sz := HZ.out
        by_cases hpt : pos < s.size
        · obtain ⟨f1, rfl⟩ : ∃ f1, f = f1 + 1 := ⟨f - 1, by have := hp.out; omega⟩
          cases hb : pt.bad s pos with
          | true => have h5 := hp.out.2.2.2.2.1; rw [pt.sc_bad s (f1 + 1) pos hpt (by have := hp.out; omega) hb] at h5; cases h5
          | false =>
            obtain ⟨_, hpf, hc, hg1, hg2, hjj⟩ := hp.out
            rw [pt.sc_good s f1 pos hpt hb] at hg1 hg2
            have hat := fun w2 => pt.at_any s pos w2 hpt (by omega)
            rw [hb] at hat
            simp only [Bool.false_eq_true, if_false] at hat
            have hw1 := width_pos s pos
            have hw2 := pt.width_fits s pos hpt
            generalize Utf8.decode s pos = d at *
            simp only at hg1 hg2
            have hcl : c < (rowL (ldx i)).length := by
              rcases Nat.lt_or_ge c (rowL (ldx i)).length with h | h
              · exact h
              · rw [List.drop_eq_nil_of_le h] at hg1; cases hg1
            rw [List.drop_eq_getElem_cons hcl] at hg1
            injection hg1 with hd1 hd2
            have hgd : (rowL (ldx i)).getD c 0 = d.1 := by rw [hd1]; simp [List.getD, List.getElem?_eq_getElem hcl]
            have hnz : d.1 ≠ 0 ∧ d.1 < 65536 := by
              have := List.all_eq_true.1 HOK.out.2 _ (List.getElem_mem hcl)
              rw [← hd1] at this
              simpa using this
            have hcz : c < 157 := by have := HOK.out.1; omega
            have hon : oneJ (i * 157 + c) = if d.1 = 63 then 0 else d.1 := by
              unfold oneJ sgC
              rw [show (i * 157 + c) / 157 = i by omega, show (i * 157 + c) % 157 = c by omega, hgd]
            have HCC := Lib.hid (⟨hpf, hcl, hcz⟩ : s.size ≤ pos + (f1 + 1) ∧ c < (rowL (ldx i)).length ∧ c < 157)
            have HSC := Lib.hid (⟨hd2, hg2⟩ : (pt.sc s f1 (pos + d.2)).1 = (rowL (ldx i)).drop (c + 1) ∧ (pt.sc s f1 (pos + d.2)).2 = none)
            have HAT := Lib.hid hat
            have HW1 := Lib.hid hw1; have HW2 := Lib.hid hw2
            have x1 : (d.2 : Int) ≤ 2000 := by omega
            have x0 : (0 : Int) ≤ (d.2 : Int) := by omega
            have y0 : (0 : Int) ≤ (pos : Int) := by omega
            have y1 : (pos : Int) < (s.size : Int) := by omega
            have y2 : (s.size : Int) ≤ 2000 := by omega
            have c0' : (0 : Int) ≤ (c : Int) := by omega
            have c1' : (c : Int) < 157 := by omega
            have HE : Hid (∃ f', 785 - (i * 157 + c) = f' + 1 ∧ f' = 785 - (i * 157 + (c + 1))) := Lib.hid ⟨785 - (i * 157 + (c + 1)), by have := HLT.out; omega, rfl⟩
            obtain ⟨a', ha', _, _, l0⟩ := HP2.out.at 0 (by omega)
            obtain rfl : a = a' := by injection ha'
            rw [HZ0.out] at l0
            have l1 : wr.cell? a = some (.int .i32 z) := by rw [← l0]; simp [Addr.add]
            clear ha' hat hw1 hw2 hd1 hd2 hgd hcl hcz hg2 hpf hc hp
            obtain ⟨P, hP⟩ : ∃ P : Int, P = ((d.1 : Nat) : Int) := ⟨_, rfl⟩
            by_cases hm : P = z ∧ P ≠ 63
            · have e1 : (P == z) = true := by rw [hm.1]; exact beq_self_eq_true _
              have e2 : (P != 63) = true := by rw [bne, beq_eq_false_iff_ne.2 hm.2]; rfl
              have hres : Hid (R = some (i * 157 + c)) := Lib.hid (by
                obtain ⟨f', h1, h2⟩ := HE.out
                rw [← hjj, h1, jZ_hit]
                rw [hon, if_neg (by omega)]
                exact ⟨by omega, hnz.1⟩)
              rw [← hP] at HAT
              clear hm hjj hon hnz hP
              by_cases hc3 : c < 63
              · have c3 : (c : Int) < 63 := by omega
                have hfin : Hid (FINV R = .tuple #[.int .i64 (D * 256 + 64 + (c : Int)), .int .i64 1]) := Lib.hid (by
                  rw [hres.out]
                  show Value.tuple #[.int .i64 ((cdJ (i * 157 + c) : Nat) : Int), .int .i64 1] = _
                  have h5 := HCC.out.2.2
                  have e : ((cdJ (i * 157 + c) : Nat) : Int) = D * 256 + 64 + (c : Int) := by
                    unfold cdJ cellB
                    rw [show (i * 157 + c) / 157 = i by omega, show (i * 157 + c) % 157 = c by omega, if_pos hc3, HD.out]; omega
                  rw [e])
                clear hc3
                have hci2 := HL2.out.2 i HLT.out
                rw [← HD.out] at hci2
                go_wp2_with (go_at_call 21; refine (HAT.out _).mono ?_; rintro e4 w4 ⟨rfl, hb4⟩; have B4 := Lib.hid (HB2.out.trans (hb4.mono HB2.out.size)); have l1' := (hb4.cell (World.block_lt_of_cell? _ _ l1)).trans l1; have hci4 := (hb4.cell (p := ⟨X, i, none⟩) HL2.out.1).trans hci2; clear hb4)
                go_ret2
                exact ⟨by rw [HFIN.out, hfin.out]; rfl, B4.out⟩
              · have c3 : ¬ (c : Int) < 63 := by omega
                have hfin : Hid (FINV R = .tuple #[.int .i64 (D * 256 + 161 + (c : Int) - 63), .int .i64 1]) := Lib.hid (by
                  rw [hres.out]
                  show Value.tuple #[.int .i64 ((cdJ (i * 157 + c) : Nat) : Int), .int .i64 1] = _
                  have h5 := HCC.out.2.2
                  have e : ((cdJ (i * 157 + c) : Nat) : Int) = D * 256 + 161 + (c : Int) - 63 := by
                    unfold cdJ cellB
                    rw [show (i * 157 + c) / 157 = i by omega, show (i * 157 + c) % 157 = c by omega, if_neg hc3, HD.out]; omega
                  rw [e])
                clear hc3
                have hci2 := HL2.out.2 i HLT.out
                rw [← HD.out] at hci2
                go_wp2_with (go_at_call 21; refine (HAT.out _).mono ?_; rintro e4 w4 ⟨rfl, hb4⟩; have B4 := Lib.hid (HB2.out.trans (hb4.mono HB2.out.size)); have l1' := (hb4.cell (World.block_lt_of_cell? _ _ l1)).trans l1; have hci4 := (hb4.cell (p := ⟨X, i, none⟩) HL2.out.1).trans hci2; clear hb4)
                go_ret2
                exact ⟨by rw [HFIN.out, hfin.out]; rfl, B4.out⟩
            · have hres : Hid (jZ z (785 - (i * 157 + (c + 1))) (i * 157 + (c + 1)) = R) := Lib.hid (by
                obtain ⟨f', h1, h2⟩ := HE.out
                rw [← h2, ← hjj, h1, jZ_miss]
                · rw [Nat.add_assoc]
                · rw [hon]
                  by_cases h63 : d.1 = 63
                  · rw [if_pos h63]; omega
                  · rw [if_neg h63]; omega)
              rw [← hP] at HAT
              by_cases hz1 : P = z
              · have e1 : (P == z) = true := by rw [hz1]; exact beq_self_eq_true _
                have e2 : (P != 63) = false := by rw [show P = 63 by omega]; rfl
                clear hm hjj hon hnz hP hz1
                go_wp2_with (go_at_call 21; refine (HAT.out _).mono ?_; rintro e4 w4 ⟨rfl, hb4⟩; have B4 := Lib.hid (HB2.out.trans (hb4.mono HB2.out.size)); have l1' := (hb4.cell (World.block_lt_of_cell? _ _ l1)).trans l1; have L4 := Lib.hid (HL2.out.below hb4); have P4 := Lib.hid (HP2.out.below hb4); clear hb4)
                go_roundw
                case rel => exact ⟨pos + d.2, f1, c + 1, Lib.hid ⟨HW2.out, by have := HCC.out; have := HW1.out; omega, by have := HCC.out; omega, HSC.out.1, HSC.out.2, hres.out⟩, by go_num, by go_num, L4.out, P4.out, B4.out⟩
                case measure => simp [RowKit.intOf]; have := HW1.out; omega
              · have e1 : (P == z) = false := beq_eq_false_iff_ne.2 hz1
                clear hm hjj hon hnz hP hz1
                go_wp2_with (go_at_call 21; refine (HAT.out _).mono ?_; rintro e4 w4 ⟨rfl, hb4⟩; have B4 := Lib.hid (HB2.out.trans (hb4.mono HB2.out.size)); have l1' := (hb4.cell (World.block_lt_of_cell? _ _ l1)).trans l1; have L4 := Lib.hid (HL2.out.below hb4); have P4 := Lib.hid (HP2.out.below hb4); clear hb4)
                go_roundw
                case rel => exact ⟨pos + d.2, f1, c + 1, Lib.hid ⟨HW2.out, by have := HCC.out; have := HW1.out; omega, by have := HCC.out; omega, HSC.out.1, HSC.out.2, hres.out⟩, by go_num, by go_num, L4.out, P4.out, B4.out⟩
                case measure => simp [RowKit.intOf]; have := HW1.out; omega
        · have y1 : ¬ (pos : Int) < (s.size : Int) := by omega
          have hres : Hid (jZ z (785 - (i + 1) * 157) ((i + 1) * 157) = R) := Lib.hid (by
            obtain ⟨_, _, hc, hg1, _, hjj⟩ := hp.out
            rw [pt.sc_end s f pos hpt] at hg1
            have hcl : (rowL (ldx i)).length ≤ c := by
              rcases Nat.lt_or_ge c (rowL (ldx i)).length with h | h
              · rw [List.drop_eq_getElem_cons h] at hg1; cases hg1
              · exact h
            have hl7 := HOK.out.1
            have h5 := HLT.out
            have := jZ_skip z (785 - (i + 1) * 157) (157 - c) (i * 157 + c) (fun k hk => by
              unfold oneJ
              rw [show (i * 157 + c + k) / 157 = i by omega, show (i * 157 + c + k) % 157 = c + k by omega]
              exact sgC_far _ (by omega))
            rw [show 157 - c + (785 - (i + 1) * 157) = 785 - (i * 157 + c) by omega, show i * 157 + c + (157 - c) = (i + 1) * 157 by omega] at this
            rw [← this]; exact hjj)
          go_wp2_with fail
          go_roundw
          case rel => exact ⟨i + 1, by have := HLT.out; omega, by go_num, hres, HL2.out, HP2.out, HB2.out⟩
          case measure => simp [RowKit.intOf]; have := HLT.out; omega
    · have hres : Hid (R = none) := Lib.hid (by
        obtain rfl : i = 5 := by omega
        have := hj.out
        rw [← this]; rfl)
      have i1 : ¬ (i : Int) < 5 := by omega
      have hfin : Hid (FINV R = .tuple #[.int .i64 (-1), .int .i64 0]) := Lib.hid (by rw [hres.out]; rfl)
      go_wp2_with fail
      go_ret2
      exact ⟨by rw [HFIN.out, hfin.out]; rfl, HB.out⟩
/-- The first two signs are those of a pair of bytes in the row 88. -/
def mt (z y : Int) (b : Nat) : Prop := (tw (136 * 256 + b)).1 ≠ 0 ∧ (((tw (136 * 256 + b)).1 : Nat) : Int) = z ∧ (((tw (136 * 256 + b)).2 : Nat) : Int) = y
set_option maxRecDepth 100000 in
set_option maxHeartbeats 16000000 in
theorem code_more (a : Addr) (n cp : Nat) (zs : List Int) (z y : Int) (rest : List Int) (w : World) (hr : pt.RowI w (some a) n cp zs) (hn : 2 ≤ n) (hn2 : n ≤ 1000) (hz : zs = z :: y :: rest) : Calls Tryd.prog 12 #[.slice (some a) n cp] w fun e w' => e = .returned (cdV (codeW zs)) ∧ Below w.heap.size w w' := by
  obtain ⟨R, hR⟩ : ∃ R, R = plc z := ⟨_, rfl⟩
  have HR : Hid (jZ z (785 - 0 * 157) (0 * 157) = R) := Lib.hid (by rw [hR]; exact jZ_plc z)
  obtain ⟨V, hV⟩ : ∃ V, V = cdV (codeW zs) := ⟨_, rfl⟩
  rw [← hV]
  have HTW : Hid (∀ b, twB z y = some b → V = .tuple #[.int .i64 ((34816 + b : Nat) : Int), .int .i64 2]) := Lib.hid (fun b h => by rw [hV, hz, codeW_two rest h]; rfl)
  have HTN : Hid (twB z y = none → V = FINV R) := Lib.hid (fun h => by rw [hV, hz, hR, codeW_not rest h]; exact finv_is z)
  have HZ0 : Hid (zs.getD 0 0 = z) := Lib.hid (by rw [hz]; rfl)
  have HZ1 : Hid (zs.getD 1 0 = y) := Lib.hid (by rw [hz]; rfl)
  obtain ⟨a0, ha0, _, _, l0⟩ := hr.at 0 (by omega)
  obtain rfl : a = a0 := by injection ha0
  obtain ⟨a1, ha1, _, _, l1⟩ := hr.at 1 (by omega)
  obtain rfl : a = a1 := by injection ha1
  rw [HZ0.out] at l0
  rw [HZ1.out] at l1
  have l0' : w.cell? a = some (.int .i32 z) := by rw [← l0]; simp [Addr.add]
  have l1' : w.cell? ⟨a.block, a.off + 1, none⟩ = some (.int .i32 y) := by rw [← l1]; rfl
  have HPW := Lib.hid hr
  have HBW := Lib.hid (Below.refl w.heap.size w)
  have n0 : ((n : Int) == 0) = false := beq_eq_false_iff_ne.2 (by omega)
  have n1 : (1 : Int) < (n : Int) := by omega
  have n2 : (n : Int) ≤ 1000 := by omega
  clear hV hR hz hr ha0 ha1 hn2
  go_enter Tryd.func12, Tryd.ntmps12
  go_wp2_with fail
  go_loopw [4] (fun t wr => ∃ (b : Nat) (B : Int), Hid (B = (b : Int) ∧ 64 ≤ b ∧ b ≤ 255 ∧ ∀ b', 64 ≤ b' → b' < b → ¬ mt z y b') ∧ t = .int .i64 B ∧ w = wr) (fun t _ => 255 - (RowKit.intOf t).toNat)
  case atStart => exact ⟨64, 64, Lib.hid ⟨rfl, by omega, by omega, fun b' h1 h2 => by omega⟩, rfl, rfl⟩
  case round =>
    obtain ⟨b, B, hb, rfl, rfl⟩ := hrel
    have b0 : 64 ≤ B := by have := hb.out; omega
    by_cases hlt : B < 255
    · have HT : Hid (∀ w2, Calls Tryd.prog 18 #[.int .i64 136, .int .i64 B] w2 fun e w' => e = .returned (twV (136 * 256 + b)) ∧ w2 = w') := Lib.hid (fun w2 => by
        rw [hb.out.1]
        exact two_any 136 b w2 (by omega) (by have := hb.out; omega))
      unfold twV at HT
      by_cases hm : mt z y b
      · have hv := HTW.out b (tw_some (by have := hb.out; omega) hm)
        obtain ⟨m1, m2, m3⟩ := hm
        rw [m2, m3] at HT
        have z0 : (z != 0) = true := by rw [bne, beq_eq_false_iff_ne.2 (show z ≠ 0 by omega)]; rfl
        have hv2 : Hid (V = .tuple #[.int .i64 (34816 + B), .int .i64 2]) := Lib.hid (by rw [hv, hb.out.1]; rfl)
        clear hv m1 m2 m3
        go_wp2_with (go_at_call 18; refine (HT.out _).mono ?_; rintro e2 w2 ⟨rfl, rfl⟩)
        go_ret2
        exact ⟨by rw [hv2.out]; rfl, Below.refl _ _⟩
      · have hnx : Hid (∀ b', 64 ≤ b' → b' < b + 1 → ¬ mt z y b') := Lib.hid (fun b' h1 h2 => by
          by_cases he : b' = b
          · subst he; exact hm
          · exact hb.out.2.2.2 b' h1 (by omega))
        unfold mt at hm
        obtain ⟨p, hp⟩ : ∃ p : Int, p = (((tw (136 * 256 + b)).1 : Nat) : Int) := ⟨_, rfl⟩
        obtain ⟨q, hq⟩ : ∃ q : Int, q = (((tw (136 * 256 + b)).2 : Nat) : Int) := ⟨_, rfl⟩
        rw [← hp, ← hq] at HT
        have hm2 : p = 0 ∨ (p ≠ 0 ∧ p ≠ z) ∨ (p ≠ 0 ∧ p = z ∧ q ≠ y) := by
          by_cases h1 : p = 0
          · exact .inl h1
          · by_cases h2 : p = z
            · refine .inr (.inr ⟨h1, h2, fun h3 => hm ⟨by omega, by rw [← hp]; exact h2, by rw [← hq]; exact h3⟩⟩)
            · exact .inr (.inl ⟨h1, h2⟩)
        clear hm hp hq
        rcases hm2 with rfl | ⟨h1, h2⟩ | ⟨h1, h2, h3⟩
        · go_wp2_with (go_at_call 18; refine (HT.out _).mono ?_; rintro e2 w2 ⟨rfl, rfl⟩)
          go_roundw
          case rel => exact ⟨b + 1, B + 1, Lib.hid ⟨by have := hb.out; omega, by have := hb.out; omega, by have := hb.out; omega, hnx.out⟩, rfl, by first | rfl | trivial⟩
          case measure => simp [RowKit.intOf]; omega
        · have e1 : (p != 0) = true := by rw [bne, beq_eq_false_iff_ne.2 h1]; rfl
          have e2 : (p == z) = false := beq_eq_false_iff_ne.2 h2
          clear h1 h2
          go_wp2_with (go_at_call 18; refine (HT.out _).mono ?_; rintro e2 w2 ⟨rfl, rfl⟩)
          go_roundw
          case rel => exact ⟨b + 1, B + 1, Lib.hid ⟨by have := hb.out; omega, by have := hb.out; omega, by have := hb.out; omega, hnx.out⟩, rfl, by first | rfl | trivial⟩
          case measure => simp [RowKit.intOf]; omega
        · have e1 : (p != 0) = true := by rw [bne, beq_eq_false_iff_ne.2 h1]; rfl
          have e2 : (p == z) = true := by rw [h2]; exact beq_self_eq_true _
          have e3 : (q == y) = false := beq_eq_false_iff_ne.2 h3
          clear h1 h2 h3
          go_wp2_with (go_at_call 18; refine (HT.out _).mono ?_; rintro e2 w2 ⟨rfl, rfl⟩)
          go_roundw
          case rel => exact ⟨b + 1, B + 1, Lib.hid ⟨by have := hb.out; omega, by have := hb.out; omega, by have := hb.out; omega, hnx.out⟩, rfl, by first | rfl | trivial⟩
          case measure => simp [RowKit.intOf]; omega
    · have HFIN := Lib.hid (HTN.out (tw_none (fun b' h1 h2 => hb.out.2.2.2 b' h1 (by have := hb.out; omega))))
      clear l0 l1 l0' l1'
      have HP3 := Lib.hid (HPW.out)
      go_wp2_with (go_at_call 25; refine (leads_any _).mono ?_; rintro e2 w2 ⟨X, rfl, hls, hb2⟩; have HLS := Lib.hid hls; have B2 := Lib.hid (HBW.out.trans (hb2.mono HBW.out.size)); have P2 := Lib.hid (HP3.out.below hb2); clear hls hb2)
      go_loopw [8] (fun t wr => ∃ (i : Nat), i ≤ 5 ∧ t = .int .i64 i ∧ Hid (jZ z (785 - i * 157) (i * 157) = R) ∧ LdS wr X ∧ pt.RowI wr (some a) n cp zs ∧ Below w.heap.size w wr) (fun t _ => 5 - (RowKit.intOf t).toNat)
      case atStart => exact ⟨0, by omega, rfl, HR, HLS.out, P2.out, B2.out⟩
      case round =>
        obtain ⟨i, hi, rfl, hj, hL, hP, hB⟩ := hrel
        have HLW := Lib.hid hL; have HPR := Lib.hid hP; have HB := Lib.hid hB
        clear hL hP hB
        by_cases hlt : i < 5
        · have hci := HLW.out.2 i hlt
          have i0 : (0 : Int) ≤ (i : Int) := by omega
          have i1 : (i : Int) < 5 := by omega
          have HRO := Lib.hid (fun w2 => row_any (ldx i) w2)
          have HOK := Lib.hid (rowL_ok i hlt)
          obtain ⟨D, hD⟩ : ∃ D : Int, D = ((ldx i : Nat) : Int) := ⟨_, rfl⟩
          have HD := Lib.hid hD
          have hD5 : D = 136 ∨ D = 161 ∨ D = 163 ∨ D = 164 ∨ D = 165 := by have := ldx_in hlt; omega
          have d0 : 0 ≤ D := by omega
          have d1 : D ≤ 255 := by omega
          rw [← hD] at hci HRO
          have HLT := Lib.hid hlt
          clear hD hD5
          go_wp2_with (go_at_call 26; refine (HRO.out _).mono ?_; rintro e3 w3 ⟨s, rfl, hs, hz, rfl⟩; have HS := Lib.hid hs; have HZ := Lib.hid hz; clear hs hz)
          go_loopw [10, 11] (fun u t wr2 => ∃ (pos f c : Nat), Hid (pos ≤ s.size ∧ s.size ≤ pos + f ∧ c ≤ (rowL (ldx i)).length ∧ (pt.sc s f pos).1 = (rowL (ldx i)).drop c ∧ (pt.sc s f pos).2 = none ∧ jZ z (785 - (i * 157 + c)) (i * 157 + c) = R) ∧ u = .int .i64 pos ∧ t = .int .i64 c ∧ LdS wr2 X ∧ pt.RowI wr2 (some a) n cp zs ∧ Below w.heap.size w wr2) (fun u _ _ => s.size - (RowKit.intOf u).toNat)
          case atStart => exact ⟨0, s.size, 0, Lib.hid ⟨Nat.zero_le _, by omega, Nat.zero_le _, by rw [List.drop_zero]; exact congrArg Prod.fst HS.out, congrArg Prod.snd HS.out, hj.out⟩, rfl, rfl, HLW.out, HPR.out, HB.out⟩
          case round =>
            obtain ⟨pos, f, c, hp, rfl, rfl, hL2, hP2, hB2⟩ := hrel
            have HL2 := Lib.hid hL2; have HP2 := Lib.hid hP2; have HB2 := Lib.hid hB2
            clear hL2 hP2 hB2
            have sz := HZ.out
            by_cases hpt : pos < s.size
            · obtain ⟨f1, rfl⟩ : ∃ f1, f = f1 + 1 := ⟨f - 1, by have := hp.out; omega⟩
              cases hb : pt.bad s pos with
              | true => have h5 := hp.out.2.2.2.2.1; rw [pt.sc_bad s (f1 + 1) pos hpt (by have := hp.out; omega) hb] at h5; cases h5
              | false =>
                obtain ⟨_, hpf, hc, hg1, hg2, hjj⟩ := hp.out
                rw [pt.sc_good s f1 pos hpt hb] at hg1 hg2
                have hat := fun w2 => pt.at_any s pos w2 hpt (by omega)
                rw [hb] at hat
                simp only [Bool.false_eq_true, if_false] at hat
                have hw1 := width_pos s pos
                have hw2 := pt.width_fits s pos hpt
                generalize Utf8.decode s pos = d at *
                simp only at hg1 hg2
                have hcl : c < (rowL (ldx i)).length := by
                  rcases Nat.lt_or_ge c (rowL (ldx i)).length with h | h
                  · exact h
                  · rw [List.drop_eq_nil_of_le h] at hg1; cases hg1
                rw [List.drop_eq_getElem_cons hcl] at hg1
                injection hg1 with hd1 hd2
                have hgd : (rowL (ldx i)).getD c 0 = d.1 := by rw [hd1]; simp [List.getD, List.getElem?_eq_getElem hcl]
                have hnz : d.1 ≠ 0 ∧ d.1 < 65536 := by
                  have := List.all_eq_true.1 HOK.out.2 _ (List.getElem_mem hcl)
                  rw [← hd1] at this
                  simpa using this
                have hcz : c < 157 := by have := HOK.out.1; omega
                have hon : oneJ (i * 157 + c) = if d.1 = 63 then 0 else d.1 := by
                  unfold oneJ sgC
                  rw [show (i * 157 + c) / 157 = i by omega, show (i * 157 + c) % 157 = c by omega, hgd]
                have HCC := Lib.hid (⟨hpf, hcl, hcz⟩ : s.size ≤ pos + (f1 + 1) ∧ c < (rowL (ldx i)).length ∧ c < 157)
                have HSC := Lib.hid (⟨hd2, hg2⟩ : (pt.sc s f1 (pos + d.2)).1 = (rowL (ldx i)).drop (c + 1) ∧ (pt.sc s f1 (pos + d.2)).2 = none)
                have HAT := Lib.hid hat
                have HW1 := Lib.hid hw1; have HW2 := Lib.hid hw2
                have x1 : (d.2 : Int) ≤ 2000 := by omega
                have x0 : (0 : Int) ≤ (d.2 : Int) := by omega
                have y0 : (0 : Int) ≤ (pos : Int) := by omega
                have y1 : (pos : Int) < (s.size : Int) := by omega
                have y2 : (s.size : Int) ≤ 2000 := by omega
                have c0' : (0 : Int) ≤ (c : Int) := by omega
                have c1' : (c : Int) < 157 := by omega
                have HE : Hid (∃ f', 785 - (i * 157 + c) = f' + 1 ∧ f' = 785 - (i * 157 + (c + 1))) := Lib.hid ⟨785 - (i * 157 + (c + 1)), by have := HLT.out; omega, rfl⟩
                obtain ⟨a', ha', _, _, l0⟩ := HP2.out.at 0 (by omega)
                obtain rfl : a = a' := by injection ha'
                rw [HZ0.out] at l0
                have l1 : wr.cell? a = some (.int .i32 z) := by rw [← l0]; simp [Addr.add]
                clear ha' hat hw1 hw2 hd1 hd2 hgd hcl hcz hg2 hpf hc hp
                obtain ⟨P, hP⟩ : ∃ P : Int, P = ((d.1 : Nat) : Int) := ⟨_, rfl⟩
                by_cases hm : P = z ∧ P ≠ 63
                · have e1 : (P == z) = true := by rw [hm.1]; exact beq_self_eq_true _
                  have e2 : (P != 63) = true := by rw [bne, beq_eq_false_iff_ne.2 hm.2]; rfl
                  have hres : Hid (R = some (i * 157 + c)) := Lib.hid (by
                    obtain ⟨f', h1, h2⟩ := HE.out
                    rw [← hjj, h1, jZ_hit]
                    rw [hon, if_neg (by omega)]
                    exact ⟨by omega, hnz.1⟩)
                  rw [← hP] at HAT
                  clear hm hjj hon hnz hP
                  by_cases hc3 : c < 63
                  · have c3 : (c : Int) < 63 := by omega
                    have hfin : Hid (FINV R = .tuple #[.int .i64 (D * 256 + 64 + (c : Int)), .int .i64 1]) := Lib.hid (by
                      rw [hres.out]
                      show Value.tuple #[.int .i64 ((cdJ (i * 157 + c) : Nat) : Int), .int .i64 1] = _
                      have h5 := HCC.out.2.2
                      have e : ((cdJ (i * 157 + c) : Nat) : Int) = D * 256 + 64 + (c : Int) := by
                        unfold cdJ cellB
                        rw [show (i * 157 + c) / 157 = i by omega, show (i * 157 + c) % 157 = c by omega, if_pos hc3, HD.out]; omega
                      rw [e])
                    clear hc3
                    have hci2 := HL2.out.2 i HLT.out
                    rw [← HD.out] at hci2
                    go_wp2_with (go_at_call 21; refine (HAT.out _).mono ?_; rintro e4 w4 ⟨rfl, hb4⟩; have B4 := Lib.hid (HB2.out.trans (hb4.mono HB2.out.size)); have l1' := (hb4.cell (World.block_lt_of_cell? _ _ l1)).trans l1; have hci4 := (hb4.cell (p := ⟨X, i, none⟩) HL2.out.1).trans hci2; clear hb4)
                    go_ret2
                    exact ⟨by rw [HFIN.out, hfin.out]; rfl, B4.out⟩
                  · have c3 : ¬ (c : Int) < 63 := by omega
                    have hfin : Hid (FINV R = .tuple #[.int .i64 (D * 256 + 161 + (c : Int) - 63), .int .i64 1]) := Lib.hid (by
                      rw [hres.out]
                      show Value.tuple #[.int .i64 ((cdJ (i * 157 + c) : Nat) : Int), .int .i64 1] = _
                      have h5 := HCC.out.2.2
                      have e : ((cdJ (i * 157 + c) : Nat) : Int) = D * 256 + 161 + (c : Int) - 63 := by
                        unfold cdJ cellB
                        rw [show (i * 157 + c) / 157 = i by omega, show (i * 157 + c) % 157 = c by omega, if_neg hc3, HD.out]; omega
                      rw [e])
                    clear hc3
                    have hci2 := HL2.out.2 i HLT.out
                    rw [← HD.out] at hci2
                    go_wp2_with (go_at_call 21; refine (HAT.out _).mono ?_; rintro e4 w4 ⟨rfl, hb4⟩; have B4 := Lib.hid (HB2.out.trans (hb4.mono HB2.out.size)); have l1' := (hb4.cell (World.block_lt_of_cell? _ _ l1)).trans l1; have hci4 := (hb4.cell (p := ⟨X, i, none⟩) HL2.out.1).trans hci2; clear hb4)
                    go_ret2
                    exact ⟨by rw [HFIN.out, hfin.out]; rfl, B4.out⟩
                · have hres : Hid (jZ z (785 - (i * 157 + (c + 1))) (i * 157 + (c + 1)) = R) := Lib.hid (by
                    obtain ⟨f', h1, h2⟩ := HE.out
                    rw [← h2, ← hjj, h1, jZ_miss]
                    · rw [Nat.add_assoc]
                    · rw [hon]
                      by_cases h63 : d.1 = 63
                      · rw [if_pos h63]; omega
                      · rw [if_neg h63]; omega)
                  rw [← hP] at HAT
                  by_cases hz1 : P = z
                  · have e1 : (P == z) = true := by rw [hz1]; exact beq_self_eq_true _
                    have e2 : (P != 63) = false := by rw [show P = 63 by omega]; rfl
                    clear hm hjj hon hnz hP hz1
                    go_wp2_with (go_at_call 21; refine (HAT.out _).mono ?_; rintro e4 w4 ⟨rfl, hb4⟩; have B4 := Lib.hid (HB2.out.trans (hb4.mono HB2.out.size)); have l1' := (hb4.cell (World.block_lt_of_cell? _ _ l1)).trans l1; have L4 := Lib.hid (HL2.out.below hb4); have P4 := Lib.hid (HP2.out.below hb4); clear hb4)
                    go_roundw
                    case rel => exact ⟨pos + d.2, f1, c + 1, Lib.hid ⟨HW2.out, by have := HCC.out; have := HW1.out; omega, by have := HCC.out; omega, HSC.out.1, HSC.out.2, hres.out⟩, by go_num, by go_num, L4.out, P4.out, B4.out⟩
                    case measure => simp [RowKit.intOf]; have := HW1.out; omega
                  · have e1 : (P == z) = false := beq_eq_false_iff_ne.2 hz1
                    clear hm hjj hon hnz hP hz1
                    go_wp2_with (go_at_call 21; refine (HAT.out _).mono ?_; rintro e4 w4 ⟨rfl, hb4⟩; have B4 := Lib.hid (HB2.out.trans (hb4.mono HB2.out.size)); have l1' := (hb4.cell (World.block_lt_of_cell? _ _ l1)).trans l1; have L4 := Lib.hid (HL2.out.below hb4); have P4 := Lib.hid (HP2.out.below hb4); clear hb4)
                    go_roundw
                    case rel => exact ⟨pos + d.2, f1, c + 1, Lib.hid ⟨HW2.out, by have := HCC.out; have := HW1.out; omega, by have := HCC.out; omega, HSC.out.1, HSC.out.2, hres.out⟩, by go_num, by go_num, L4.out, P4.out, B4.out⟩
                    case measure => simp [RowKit.intOf]; have := HW1.out; omega
            · have y1 : ¬ (pos : Int) < (s.size : Int) := by omega
              have hres : Hid (jZ z (785 - (i + 1) * 157) ((i + 1) * 157) = R) := Lib.hid (by
                obtain ⟨_, _, hc, hg1, _, hjj⟩ := hp.out
                rw [pt.sc_end s f pos hpt] at hg1
                have hcl : (rowL (ldx i)).length ≤ c := by
                  rcases Nat.lt_or_ge c (rowL (ldx i)).length with h | h
                  · rw [List.drop_eq_getElem_cons h] at hg1; cases hg1
                  · exact h
                have hl7 := HOK.out.1
                have h5 := HLT.out
                have := jZ_skip z (785 - (i + 1) * 157) (157 - c) (i * 157 + c) (fun k hk => by
                  unfold oneJ
                  rw [show (i * 157 + c + k) / 157 = i by omega, show (i * 157 + c + k) % 157 = c + k by omega]
                  exact sgC_far _ (by omega))
                rw [show 157 - c + (785 - (i + 1) * 157) = 785 - (i * 157 + c) by omega, show i * 157 + c + (157 - c) = (i + 1) * 157 by omega] at this
                rw [← this]; exact hjj)
              go_wp2_with fail
              go_roundw
              case rel => exact ⟨i + 1, by have := HLT.out; omega, by go_num, hres, HL2.out, HP2.out, HB2.out⟩
              case measure => simp [RowKit.intOf]; have := HLT.out; omega
        · have hres : Hid (R = none) := Lib.hid (by
            obtain rfl : i = 5 := by omega
            have := hj.out
            rw [← this]; rfl)
          have i1 : ¬ (i : Int) < 5 := by omega
          have hfin : Hid (FINV R = .tuple #[.int .i64 (-1), .int .i64 0]) := Lib.hid (by rw [hres.out]; rfl)
          go_wp2_with fail
          go_ret2
          exact ⟨by rw [HFIN.out, hfin.out]; rfl, HB.out⟩
theorem code_any (A : Option Addr) (n cp : Nat) (zs : List Int) (w : World) (hr : pt.RowI w A n cp zs) (hn : n ≤ 1000) : Calls Tryd.prog 12 #[.slice A n cp] w fun e w' => e = .returned (cdV (codeW zs)) ∧ Below w.heap.size w w' := by
  have hl := hr.len
  match zs, hl with
  | [], hl =>
    obtain rfl : n = 0 := hl.symm
    go_enter Tryd.func12, Tryd.ntmps12
    go_wp2_with fail
    go_ret2
    exact ⟨rfl, Below.refl _ _⟩
  | [z], hl =>
    obtain rfl : n = 1 := hl.symm
    obtain ⟨a, rfl, _⟩ := hr.at 0 (by omega)
    exact code_one a 1 cp [z] z w hr rfl rfl
  | z :: y :: rest, hl =>
    have h2 : 2 ≤ n := by simp at hl; omega
    obtain ⟨a, rfl, _⟩ := hr.at 0 (by omega)
    exact code_more a n cp _ z y rest w hr h2 hn rfl
end Go.Proofs.YtmpddibdggdngaaDoor.bg
