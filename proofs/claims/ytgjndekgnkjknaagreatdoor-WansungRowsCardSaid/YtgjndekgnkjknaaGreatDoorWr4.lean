/- The landed wansung: pairs, Rows: contracts; the walk of WansungRows. -/
import Derived.Test.YtgjndekgnkjknaaGreatDoorWr3
import Derived.Test.YtgjndekgnkjknaaGreatDoorWaA
import Derived.Test.YtgjndekgnkjknaaGreatDoorWl6
namespace Go.Proofs.YtgjndekgnkjknaaGreatDoor.wr
open Go.RowKit Go.Lib Go.Sort
open Go.Proofs.YtgjndekgnkjknaaGreatDoor.tb
set_option linter.unusedVariables false
theorem new_yes (A : Option Addr) (n c : Nat) (l : List Pce) (r : List (Int × Int)) (w : World) (h : RowC w A n c l) (hn : n ≤ 100) (hs : ∀ p ∈ l, p.s.size ≤ 4000000) (hT : pt.Tabs w) (hm : (made l).1 = some r) :
    Calls Tryz.prog 18 #[.slice A n c] w fun e w' => Below w.heap.size w w' ∧ ∃ X, e = .returned (.tuple #[.agg #[X], .agg #[.int .i64 0, .int .i64 0]]) ∧ TBr w' w.heap.size X r := by
  refine (new_any A n c l w h hn hs hT).mono ?_
  rintro e w' ⟨hb, ⟨h1, h2⟩ | ⟨X, S, r', h1, h2, h3, h4, h5, h6⟩⟩
  · rw [hm] at h1; cases h1
  · rw [hm] at h1
    injection h1 with h1
    subst h1
    exact ⟨hb, X, h2, S, h3, h4, h5, h6.symm⟩
set_option maxRecDepth 100000 in
set_option maxHeartbeats 4000000 in
theorem pairsW_any (A : Option Addr) (n c : Nat) (l : List Pce) (r : List (Int × Int)) (w : World) (h : RowC w A n c l) (hn : n ≤ 100) (hs : ∀ p ∈ l, p.s.size ≤ 4000000) (hT : pt.Tabs w) (hm : (made l).1 = some r) (N : Nat) (hN : r.length = N) (hr : N ≤ 20000) :
    Calls Tryz.prog 8 #[.slice A n c] w fun e w' => ∃ B d, e = .returned (.slice B N d) ∧ RowP w' B N d r ∧ Below w.heap.size w w' := by
  subst hN
  have HN := Lib.hid (new_yes A n c l r w h hn hs hT hm)
  have HP := Lib.hid (fun W X h => tbr_pairs W X r h hr)
  clear h hn hs hT hm
  go_enter Tryz.func8, Tryz.ntmps8
  go_wp2_with (first
    | (go_at_call 19; refine (HP.out _ X S1.out.tb).mono ?_; rintro e4 w4 ⟨B, d, rfl, hr4, hb4⟩; have R4 := Lib.hid hr4; have B4 := Lib.hid (S1.out.below hb4).bel; clear hr4 hb4)
    | (go_at_call 18; refine (HN.out).mono ?_; rintro e3 w3 ⟨hb3, X, rfl, hx⟩; have S1 := Lib.hid (ts_new hb3 hx); have hst := (fun wx (a : Addr) m => run_store (P := Tryz.prog) (w := wx) (a := a) X m (TE.one ⟨_, hx⟩)); obtain ⟨_, z0, z1⟩ := ts_zero w3; obtain ⟨_, t0, _⟩ := S1.out.t; clear hb3 hx))
  go_ret
  exact ⟨B, d, rfl, R4.out, B4.out⟩
set_option maxRecDepth 100000 in
set_option maxHeartbeats 4000000 in
theorem rowsW_any (w : World) (hT : pt.Tabs w) : Calls Tryz.prog 4 #[] w fun e w' => ∃ A c, e = .returned (.slice A 724 c) ∧ RowP w' A 724 c (wa.rowPs 1128) ∧ Below w.heap.size w w' := by
  have HT := Lib.hid hT
  have HL := Lib.hid (fun W => lists_any W)
  have HS := Lib.hid (fun W => spans_any W)
  have HPL := Lib.hid (fun (A : Option Addr) W h hT => pairsW_any A 3 3 lsP lsR W h (by omega) ls_small hT made_ls 233 len_ls (by omega))
  have HPS := Lib.hid (fun (A : Option Addr) W h hT => pairsW_any A 19 19 spP spR W h (by omega) (fun p hp => (sp_ok p hp).2) hT made_sp 491 len_sp (by omega))
  have HC : Hid (∀ W A1 A2 c1 c2, RowP W A1 233 c1 lsR → RowP W A2 491 c2 spR → Calls Tryz.prog 7 #[.slice (some ⟨W.heap.size, 0, none⟩) 2 2] (W.alloc (.cells #[.slice A1 233 c1, .slice A2 491 c2] 22)) fun e w' => ∃ A c, e = .returned (.slice A 724 c) ∧ PO w' W.heap.size (.slice A 724 c) (lsR ++ spR) ∧ Below W.heap.size W w') := Lib.hid (fun W A1 A2 c1 c2 h1 h2 => by
    have hb := (Below.refl W.heap.size W).alloc (Nat.le_refl _) (.cells #[.slice A1 233 c1, .slice A2 491 c2] 22)
    refine (concat_any W.heap.size A1 A2 233 491 c1 c2 lsR spR _ (by simp) (by simp) (by simp) (h1.below hb) (h2.below hb) (by omega) (by omega) (by omega)).mono ?_
    rintro e w' ⟨v, rfl, ho, hb2⟩
    have ho' := ho
    unfold PO at ho'
    rw [List.length_append, len_ls, len_sp] at ho'
    obtain ⟨A, c, rfl, _⟩ := rowP_ofE ho'
    exact ⟨A, c, rfl, ho.le (by simp), hb.trans (hb2.mono (by simp))⟩)
  have HST : Hid (∀ W v B, PO W B v (lsR ++ spR) → Calls Tryz.prog 11 #[v, .func (.func 12) #[] #[]] W fun e w' => e = .returned (.tuple #[]) ∧ PO w' B v (wa.rowPs 1128) ∧ W.grownBy w' v.ownBlock) := Lib.hid (fun W v B h => by
    have hl : (lsR ++ spR).length = 724 := by rw [List.length_append, len_ls, len_sp]
    refine (sortP_any v _ B W h (fun h0 => by rw [h0] at hl; simp at hl) (by rw [hl]; omega)).mono ?_
    rintro e w' ⟨rfl, m, h1, h2, h3, h4, h5⟩
    rw [sorted_rows h2 h3] at h4
    exact ⟨rfl, h4, h5⟩)
  clear hT
  go_enter Tryz.func4, Tryz.ntmps4
  go_wp2_with (first
    | (go_at_call 11; refine (HST.out _ _ _ C1.out).mono ?_; rintro e6 w6 ⟨rfl, ho6, hg6⟩; have C6 := Lib.hid ho6; have B6 := Lib.hid (below_own B5.out B5.out.size (C1.out.le z4) hg6); clear ho6 hg6)
    | (go_at_call 7; refine (HC.out _ _ _ _ _ P2.out.1 P2.out.2).mono ?_; rintro e5 w5 ⟨A5, c5, rfl, ho5, hb5⟩; have C1 := Lib.hid ho5; have z4 := B4.out.size; have B5 := Lib.hid (B4.out.trans (hb5.mono B4.out.size)); clear ho5 hb5)
    | (go_at_call 8; refine (HPS.out _ _ R2.out (HT.out.below B3.out)).mono ?_; rintro e4 w4 ⟨A4, d4, rfl, hr4, hb4⟩; have P2 := Lib.hid (And.intro (P1.out.below hb4) hr4); have B4 := Lib.hid (B3.out.trans (hb4.mono B3.out.size)); clear hr4 hb4)
    | (go_at_call 10; refine (HS.out _).mono ?_; rintro e3 w3 ⟨g3, rfl, hr3, hb3⟩; have R2 := Lib.hid hr3; have P1 := Lib.hid (P1.out.below hb3); have B3 := Lib.hid (B2.out.trans (hb3.mono B2.out.size)); clear hr3 hb3)
    | (go_at_call 8; refine (HPL.out _ _ R1.out (HT.out.below B1.out)).mono ?_; rintro e2 w2 ⟨A2, d2, rfl, hr2, hb2⟩; have P1 := Lib.hid hr2; have B2 := Lib.hid (B1.out.trans (hb2.mono B1.out.size)); clear hr2 hb2)
    | (go_at_call 9; refine (HL.out _).mono ?_; rintro e1 w1 ⟨g1, rfl, hr1, hb1⟩; have R1 := Lib.hid hr1; have B1 := Lib.hid hb1; clear hr1 hb1))
  have ho := C6.out
  unfold PO at ho
  rw [rows_len] at ho
  obtain ⟨A, c, h1, h2⟩ := rowP_ofE ho
  injection h1 with h1 _ h3
  subst h1; subst h3
  have HR := Lib.hid h2
  clear ho h2
  go_ret
  exact ⟨_, _, rfl, HR.out, B6.out⟩
theorem rs_land : wa.Rs pt.Tabs where
  toAw := wa.aw_land
  rows w h := rowsW_any w h
theorem rows_in (w : World) (hT : pt.Tabs w) : Calls Tryz.prog 3 #[] w fun e w' => e = .returned (.bool true) ∧ Below w.heap.size w w' := wa.rows_walk rs_land w hT
end Go.Proofs.YtgjndekgnkjknaaGreatDoor.wr
