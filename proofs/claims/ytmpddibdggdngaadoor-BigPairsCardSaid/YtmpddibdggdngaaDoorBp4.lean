/- The landed big5: pairsOfRow, Pairs: contracts. -/
import Derived.Test.YtmpddibdggdngaaDoorBp2
namespace Go.Proofs.YtmpddibdggdngaaDoor.bp
open Go.RowKit Go.Lib
open Go.Proofs.YtmpddibdggdngaaDoor.tb
open Go.Proofs.YtmpddibdggdngaaDoor.bg (cell cellB one sgC ldL ldx rInt prs pr)
set_option linter.unusedVariables false
set_option maxRecDepth 100000 in
set_option maxHeartbeats 4000000 in
theorem pairsRow_any (l : Nat) (A : Option Addr) (w : World) (hl : l ∈ ldL) (h : RowC w A (rowP l).length (rowP l).length (rowP l)) (hT : pt.Tabs w) :
    Calls Tryd.prog 27 #[.int .u8 l, .slice A (rowP l).length (rowP l).length] w fun e w' => ∃ g d, e = .returned (.slice (some ⟨g, 0, none⟩) (rowR l).length d) ∧ RowP w' (some ⟨g, 0, none⟩) (rowR l).length d (rowS l) ∧ Below w.heap.size w w' := by
  have hl2 : l < 256 := by
    have : ∀ l ∈ ldL, l < 256 := by decide
    exact this l hl
  have hm : (made (rowP l)).1 = some (rowR l) := of_decide_eq_true (List.all_eq_true.1 made_row l hl)
  have hq := List.all_eq_true.1 rowR_ok l hl
  rw [Bool.and_eq_true, decide_eq_true_eq] at hq
  obtain ⟨hpos, hq⟩ := hq
  have hN := rowR_le l
  have hn7 := row_len l
  have HN := Lib.hid (new_yes A (rowP l).length (rowP l).length (rowP l) (rowR l) w h (by omega) (fun p hp => by have := (row_fine l hp).2.2.2.2.1; omega) hT hm)
  have HP := Lib.hid (fun W X h => tbr_own W X (rowR l) h (by omega))
  have HQ : Hid (∀ j, j < (rowR l).length → 0 ≤ ((rowR l).getD j (0, 0)).1 ∧ ((rowR l).getD j (0, 0)).1 < 157) := Lib.hid (fun j hj => by
    have := List.all_eq_true.1 hq ((rowR l).getD j (0, 0)) (by simp [List.getD, List.getElem?_eq_getElem hj])
    exact of_decide_eq_true this)
  have HC := Lib.hid (fun (c : Nat) W hc => codeC_any l c W hl2 hc)
  unfold rowS
  generalize (rowP l).length = n at *
  generalize rowR l = R at *
  obtain ⟨N, hNN⟩ : ∃ N, N = R.length := ⟨_, rfl⟩
  have HNN := Lib.hid hNN
  rw [← hNN] at HP HQ hpos hN ⊢
  clear h hT hm hq hNN hl
  go_enter Tryd.func27, Tryd.ntmps27
  go_wp2_with (first
    | (go_at_call 43; refine (HP.out _ X S1.out.tb).mono ?_; rintro e4 w4 ⟨B, d, rfl, hr4, hb4⟩; have R4 := Lib.hid (own_base hr4 S1.out.bel.size); have B4 := Lib.hid (S1.out.below hb4).bel; clear hr4 hb4)
    | (go_at_call 42; refine (HN.out).mono ?_; rintro e3 w3 ⟨hb3, X, rfl, hx⟩; have S1 := Lib.hid (ts_new hb3 hx); have hst := (fun wx (a : Addr) m => run_store (P := Tryd.prog) (w := wx) (a := a) X m (TE.one ⟨_, hx⟩)); obtain ⟨_, z0, z1⟩ := ts_zero w3; obtain ⟨_, t0, _⟩ := S1.out.t; clear hb3 hx))
  obtain ⟨g, d', hv, hg1, hg2⟩ := R4.out.form hpos
  injection hv with hv1 _ hv2
  subst hv1; subst hv2
  have HG := Lib.hid hg1
  clear hg1 hg2
  go_loopw [18] (fun i wr => ∃ j : Nat, j ≤ N ∧ i = .int .i64 j ∧ wr.ownsRow w.heap.size 41 2 (.slice (some ⟨g, 0, none⟩) N d) N (pc (updP (fcd l) j R)) ∧ Below w.heap.size w wr) (fun i _ => N - (RowKit.intOf i).toNat)
  case atStart => exact ⟨0, by omega, rfl, R4.out, B4.out⟩
  case round =>
    obtain ⟨j, hj, rfl, hown, hB⟩ := hrel
    have HOW := Lib.hid hown; have HB := Lib.hid hB
    clear hown hB
    by_cases hlt : j < N
    · have hjR : j < R.length := by have := HNN.out; omega
      obtain ⟨c0, f0⟩ := own_cell HOW.out (j * 2) (by omega)
      have hx := pc_get (updP (fcd l) j R) j (by rw [upd_len]; exact hjR)
      rw [upd_get] at hx
      rw [hx.1] at c0
      obtain ⟨q0, q1⟩ := HQ.out j hlt
      have HS : Hid ((pc (updP (fcd l) j R)).set (j * 2) (.int .i64 (fcd l (R.getD j (0, 0))).1) = pc (updP (fcd l) (j + 1) R)) := Lib.hid (pc_upd (fcd l) (fun q => rfl) j R hjR)
      have HCC := Lib.hid (fun W => HC.out ((R.getD j (0, 0)).1.toNat) W (by omega))
      rw [show (((R.getD j (0, 0)).1.toNat : Nat) : Int) = (R.getD j (0, 0)).1 by omega] at HCC
      rw [show (fcd l (R.getD j (0, 0))).1 = (((l * 256 + cellB (R.getD j (0, 0)).1.toNat : Nat)) : Int) from rfl] at HS
      generalize (((l * 256 + cellB (R.getD j (0, 0)).1.toNat : Nat)) : Int) = V at *
      generalize (R.getD j (0, 0)).1 = C at *
      have j0 : (0 : Int) ≤ (j : Int) := by omega
      have j1 : (j : Int) < (N : Int) := by omega
      have j2 : ¬ ((j : Int) < 0) := by omega
      clear hx hjR
      go_wp2_with (go_at_call 40; refine (HCC.out _).mono ?_; rintro e1 w1 ⟨rfl, rfl⟩)
      go_roundw
      case rel => exact ⟨j + 1, by omega, by go_num, by rw [← HS.out]; exact own_set HOW.out _ _, HB.out.setCell (p := ⟨g, j * 2, none⟩) HG.out _⟩
      case measure => simp [RowKit.intOf]; omega
    · obtain rfl : j = N := by omega
      have hal : updP (fcd l) j R = R.map (fcd l) := by rw [HNN.out]; exact upd_all _ R
      rw [hal] at HOW
      have hl3 : (R.map (fcd l)).length = j := by rw [List.length_map]; exact HNN.out.symm
      obtain ⟨A2, c2, h1, h2⟩ := rowP_ofE HOW.out
      injection h1 with h1 _ h3
      subst h1; subst h3
      have HF := Lib.hid h2
      clear h2 hal hlt
      go_wp2_with fail
      go_ret
      exact ⟨g, d, rfl, HF.out, HB.out⟩
set_option maxRecDepth 100000 in
set_option maxHeartbeats 8000000 in
theorem gpairs_any (w : World) (hT : pt.Tabs w) : Calls Tryd.prog 13 #[] w fun e w' => ∃ A c, e = .returned (.slice A 610 c) ∧ RowP w' A 610 c (prs 32256) ∧ Below w.heap.size w w' := by
  obtain ⟨i0, hi0, hzz⟩ := Option.map_eq_some_iff.1 rpair_info
  simp only [Prod.mk.injEq] at hzz
  obtain ⟨hz, hsi, hby⟩ := hzz
  have HT := Lib.hid hT
  have HR := Lib.hid (fun l W h => row_any l W h)
  unfold RowsOf at HR
  have HP := Lib.hid (fun l A W hl h hT => pairsRow_any l A W hl h hT)
  clear hT
  go_enter Tryd.func13, Tryd.ntmps13
  go_wp2_with fail
  go_loopw [1, 3] (fun v i wr => ∃ k : Nat, k ≤ 5 ∧ i = .int .i64 k ∧ wr.ownsRow w.heap.size 41 2 v (allR k).length (pc (allR k)) ∧ Below w.heap.size w wr) (fun _ i _ => 5 - (RowKit.intOf i).toNat)
  case atStart => exact ⟨0, by omega, rfl, World.ownsRow_nil _ _ _ _, Below.refl _ _⟩
  case round =>
    obtain ⟨k, hk, rfl, hown, hB⟩ := hrel
    have HOW := Lib.hid hown; have HB := Lib.hid hB
    clear hown hB
    by_cases hlt : k < 5
    · have hle := allR_le k (by omega)
      have hh : k = 0 ∨ k = 1 ∨ k = 2 ∨ k = 3 ∨ k = 4 := by omega
      have hst := Lib.hid (allR_step k hlt)
      rcases hh with rfl | rfl | rfl | rfl | rfl
      · have HR0 := Lib.hid (fun W => HR.out 136 W (by omega))
        have HP0 := Lib.hid (fun A W h hT => HP.out 136 A W (by decide) h hT)
        have hp0 : 0 < (rowR 136).length := rowS_pos (by decide)
        have hp1 : (rowR 136).length ≤ 157 := rowR_le 136
        have HL := Lib.hid (rowS_len 136)
        replace hst : Hid (allR 1 = allR 0 ++ rowS 136) := hst
        clear HR HP
        generalize (rowP 136).length = n at *
        generalize (rowR 136).length = N at *
        generalize rowS 136 = M at *
        generalize allR 0 = L at *
        go_wp2_with fail
        go_region_held3 (fun _ => True) (trivial) (first
          | (go_at_call 28; refine (HR0.out _).mono ?_; rintro e1 w1 ⟨A, rfl, hr1, hb1⟩; have R1 := Lib.hid hr1; have B1 := Lib.hid ((HB.out.drew).trans (hb1.mono HB.out.size)); have O1 := Lib.hid (owns_below2 (own_drewN (m := 1) HOW.out) hb1 (Nat.le_refl _)); clear hr1 hb1)
          | (go_at_call 27; refine (HP0.out _ _ R1.out (HT.out.below B1.out)).mono ?_; rintro e2 w2 ⟨g, d, rfl, hr2, hb2⟩; have R2 := Lib.hid hr2; have O2 := Lib.hid (owns_below2 O1.out hb2 (Nat.le_refl _)); have B2 := Lib.hid (B1.out.trans (hb2.mono B1.out.size)); clear hr2 hb2)
          | (refine step_append_lies _ (by rfl) _ _ _ (by rfl) w.heap.size 41 i0 _ 2 16 Tryd.underlying37 hi0 hz hsi hby rfl (by decide) u1 L.length (pc L) (by rfl) O2.out ⟨g, 0, none⟩ N d (pc M) (by rfl) (by rw [pc_len, HL.out]) (rowP_cells R2.out) (pc_ones M) hp0 (by unfold maxLen; omega) (by omega) B2.out.size w2.heap.size rfl ?_; intro gg cap w5 hown5 hgrow hat hlt5))
        go_wp2_with fail
        all_goals
          have HO5 := Lib.hid hown5
          have B5 := Lib.hid (below_own B2.out B2.out.size O2.out hgrow)
          clear hown5 hgrow
          go_roundw
          case rel => exact ⟨1, by omega, by go_num, by rw [hst.out, pc_app, List.length_append, HL.out]; exact HO5.out, B5.out⟩
          case measure => simp [RowKit.intOf]
      · have HR0 := Lib.hid (fun W => HR.out 161 W (by omega))
        have HP0 := Lib.hid (fun A W h hT => HP.out 161 A W (by decide) h hT)
        have hp0 : 0 < (rowR 161).length := rowS_pos (by decide)
        have hp1 : (rowR 161).length ≤ 157 := rowR_le 161
        have HL := Lib.hid (rowS_len 161)
        replace hst : Hid (allR 2 = allR 1 ++ rowS 161) := hst
        clear HR HP
        generalize (rowP 161).length = n at *
        generalize (rowR 161).length = N at *
        generalize rowS 161 = M at *
        generalize allR 1 = L at *
        go_wp2_with fail
        go_region_held3 (fun _ => True) (trivial) (first
          | (go_at_call 28; refine (HR0.out _).mono ?_; rintro e1 w1 ⟨A, rfl, hr1, hb1⟩; have R1 := Lib.hid hr1; have B1 := Lib.hid ((HB.out.drew).trans (hb1.mono HB.out.size)); have O1 := Lib.hid (owns_below2 (own_drewN (m := 1) HOW.out) hb1 (Nat.le_refl _)); clear hr1 hb1)
          | (go_at_call 27; refine (HP0.out _ _ R1.out (HT.out.below B1.out)).mono ?_; rintro e2 w2 ⟨g, d, rfl, hr2, hb2⟩; have R2 := Lib.hid hr2; have O2 := Lib.hid (owns_below2 O1.out hb2 (Nat.le_refl _)); have B2 := Lib.hid (B1.out.trans (hb2.mono B1.out.size)); clear hr2 hb2)
          | (refine step_append_lies _ (by rfl) _ _ _ (by rfl) w.heap.size 41 i0 _ 2 16 Tryd.underlying37 hi0 hz hsi hby rfl (by decide) u1 L.length (pc L) (by rfl) O2.out ⟨g, 0, none⟩ N d (pc M) (by rfl) (by rw [pc_len, HL.out]) (rowP_cells R2.out) (pc_ones M) hp0 (by unfold maxLen; omega) (by omega) B2.out.size w2.heap.size rfl ?_; intro gg cap w5 hown5 hgrow hat hlt5))
        go_wp2_with fail
        all_goals
          have HO5 := Lib.hid hown5
          have B5 := Lib.hid (below_own B2.out B2.out.size O2.out hgrow)
          clear hown5 hgrow
          go_roundw
          case rel => exact ⟨2, by omega, by go_num, by rw [hst.out, pc_app, List.length_append, HL.out]; exact HO5.out, B5.out⟩
          case measure => simp [RowKit.intOf]
      · have HR0 := Lib.hid (fun W => HR.out 163 W (by omega))
        have HP0 := Lib.hid (fun A W h hT => HP.out 163 A W (by decide) h hT)
        have hp0 : 0 < (rowR 163).length := rowS_pos (by decide)
        have hp1 : (rowR 163).length ≤ 157 := rowR_le 163
        have HL := Lib.hid (rowS_len 163)
        replace hst : Hid (allR 3 = allR 2 ++ rowS 163) := hst
        clear HR HP
        generalize (rowP 163).length = n at *
        generalize (rowR 163).length = N at *
        generalize rowS 163 = M at *
        generalize allR 2 = L at *
        go_wp2_with fail
        go_region_held3 (fun _ => True) (trivial) (first
          | (go_at_call 28; refine (HR0.out _).mono ?_; rintro e1 w1 ⟨A, rfl, hr1, hb1⟩; have R1 := Lib.hid hr1; have B1 := Lib.hid ((HB.out.drew).trans (hb1.mono HB.out.size)); have O1 := Lib.hid (owns_below2 (own_drewN (m := 1) HOW.out) hb1 (Nat.le_refl _)); clear hr1 hb1)
          | (go_at_call 27; refine (HP0.out _ _ R1.out (HT.out.below B1.out)).mono ?_; rintro e2 w2 ⟨g, d, rfl, hr2, hb2⟩; have R2 := Lib.hid hr2; have O2 := Lib.hid (owns_below2 O1.out hb2 (Nat.le_refl _)); have B2 := Lib.hid (B1.out.trans (hb2.mono B1.out.size)); clear hr2 hb2)
          | (refine step_append_lies _ (by rfl) _ _ _ (by rfl) w.heap.size 41 i0 _ 2 16 Tryd.underlying37 hi0 hz hsi hby rfl (by decide) u1 L.length (pc L) (by rfl) O2.out ⟨g, 0, none⟩ N d (pc M) (by rfl) (by rw [pc_len, HL.out]) (rowP_cells R2.out) (pc_ones M) hp0 (by unfold maxLen; omega) (by omega) B2.out.size w2.heap.size rfl ?_; intro gg cap w5 hown5 hgrow hat hlt5))
        go_wp2_with fail
        all_goals
          have HO5 := Lib.hid hown5
          have B5 := Lib.hid (below_own B2.out B2.out.size O2.out hgrow)
          clear hown5 hgrow
          go_roundw
          case rel => exact ⟨3, by omega, by go_num, by rw [hst.out, pc_app, List.length_append, HL.out]; exact HO5.out, B5.out⟩
          case measure => simp [RowKit.intOf]
      · have HR0 := Lib.hid (fun W => HR.out 164 W (by omega))
        have HP0 := Lib.hid (fun A W h hT => HP.out 164 A W (by decide) h hT)
        have hp0 : 0 < (rowR 164).length := rowS_pos (by decide)
        have hp1 : (rowR 164).length ≤ 157 := rowR_le 164
        have HL := Lib.hid (rowS_len 164)
        replace hst : Hid (allR 4 = allR 3 ++ rowS 164) := hst
        clear HR HP
        generalize (rowP 164).length = n at *
        generalize (rowR 164).length = N at *
        generalize rowS 164 = M at *
        generalize allR 3 = L at *
        go_wp2_with fail
        go_region_held3 (fun _ => True) (trivial) (first
          | (go_at_call 28; refine (HR0.out _).mono ?_; rintro e1 w1 ⟨A, rfl, hr1, hb1⟩; have R1 := Lib.hid hr1; have B1 := Lib.hid ((HB.out.drew).trans (hb1.mono HB.out.size)); have O1 := Lib.hid (owns_below2 (own_drewN (m := 1) HOW.out) hb1 (Nat.le_refl _)); clear hr1 hb1)
          | (go_at_call 27; refine (HP0.out _ _ R1.out (HT.out.below B1.out)).mono ?_; rintro e2 w2 ⟨g, d, rfl, hr2, hb2⟩; have R2 := Lib.hid hr2; have O2 := Lib.hid (owns_below2 O1.out hb2 (Nat.le_refl _)); have B2 := Lib.hid (B1.out.trans (hb2.mono B1.out.size)); clear hr2 hb2)
          | (refine step_append_lies _ (by rfl) _ _ _ (by rfl) w.heap.size 41 i0 _ 2 16 Tryd.underlying37 hi0 hz hsi hby rfl (by decide) u1 L.length (pc L) (by rfl) O2.out ⟨g, 0, none⟩ N d (pc M) (by rfl) (by rw [pc_len, HL.out]) (rowP_cells R2.out) (pc_ones M) hp0 (by unfold maxLen; omega) (by omega) B2.out.size w2.heap.size rfl ?_; intro gg cap w5 hown5 hgrow hat hlt5))
        go_wp2_with fail
        all_goals
          have HO5 := Lib.hid hown5
          have B5 := Lib.hid (below_own B2.out B2.out.size O2.out hgrow)
          clear hown5 hgrow
          go_roundw
          case rel => exact ⟨4, by omega, by go_num, by rw [hst.out, pc_app, List.length_append, HL.out]; exact HO5.out, B5.out⟩
          case measure => simp [RowKit.intOf]
      · have HR0 := Lib.hid (fun W => HR.out 165 W (by omega))
        have HP0 := Lib.hid (fun A W h hT => HP.out 165 A W (by decide) h hT)
        have hp0 : 0 < (rowR 165).length := rowS_pos (by decide)
        have hp1 : (rowR 165).length ≤ 157 := rowR_le 165
        have HL := Lib.hid (rowS_len 165)
        replace hst : Hid (allR 5 = allR 4 ++ rowS 165) := hst
        clear HR HP
        generalize (rowP 165).length = n at *
        generalize (rowR 165).length = N at *
        generalize rowS 165 = M at *
        generalize allR 4 = L at *
        go_wp2_with fail
        go_region_held3 (fun _ => True) (trivial) (first
          | (go_at_call 28; refine (HR0.out _).mono ?_; rintro e1 w1 ⟨A, rfl, hr1, hb1⟩; have R1 := Lib.hid hr1; have B1 := Lib.hid ((HB.out.drew).trans (hb1.mono HB.out.size)); have O1 := Lib.hid (owns_below2 (own_drewN (m := 1) HOW.out) hb1 (Nat.le_refl _)); clear hr1 hb1)
          | (go_at_call 27; refine (HP0.out _ _ R1.out (HT.out.below B1.out)).mono ?_; rintro e2 w2 ⟨g, d, rfl, hr2, hb2⟩; have R2 := Lib.hid hr2; have O2 := Lib.hid (owns_below2 O1.out hb2 (Nat.le_refl _)); have B2 := Lib.hid (B1.out.trans (hb2.mono B1.out.size)); clear hr2 hb2)
          | (refine step_append_lies _ (by rfl) _ _ _ (by rfl) w.heap.size 41 i0 _ 2 16 Tryd.underlying37 hi0 hz hsi hby rfl (by decide) u1 L.length (pc L) (by rfl) O2.out ⟨g, 0, none⟩ N d (pc M) (by rfl) (by rw [pc_len, HL.out]) (rowP_cells R2.out) (pc_ones M) hp0 (by unfold maxLen; omega) (by omega) B2.out.size w2.heap.size rfl ?_; intro gg cap w5 hown5 hgrow hat hlt5))
        go_wp2_with fail
        all_goals
          have HO5 := Lib.hid hown5
          have B5 := Lib.hid (below_own B2.out B2.out.size O2.out hgrow)
          clear hown5 hgrow
          go_roundw
          case rel => exact ⟨5, by omega, by go_num, by rw [hst.out, pc_app, List.length_append, HL.out]; exact HO5.out, B5.out⟩
          case measure => simp [RowKit.intOf]
    · obtain rfl : k = 5 := by omega
      rw [allR_len] at HOW
      obtain ⟨A2, c2, rfl, h2⟩ := rowP_ofE HOW.out
      rw [← prs_all] at h2
      have HF := Lib.hid h2
      clear h2 HOW
      go_wp2_with fail
      go_ret
      exact ⟨A2, c2, rfl, HF.out, HB.out⟩
end Go.Proofs.YtmpddibdggdngaaDoor.bp
