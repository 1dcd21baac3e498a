/- Layer 13: the walk of FramePrints: what is printed is read as it was. -/
import Derived.Test.YtkhajafjieofhaaFn5
namespace Go.Proofs.Ytkhajafjieofhaa.fn
open Go.RowKit Go.Lib
open Go.Proofs.Ytkhajafjieofhaa.fr
set_option linter.unusedVariables false
theorem Z5.drew {p : Nat} {W : World} (h : Z5 p W) : Z5 p W.drew := ⟨h.lt, h.fz⟩
set_option maxRecDepth 100000 in
set_option maxHeartbeats 8000000 in
theorem prints_good {K : World → Prop} (L : Fm K) (v : Int) (f : Fr) (a : Int) (r : ByteArray) (w : World) (hK : K w) (h1 : f.bd.length ≤ 1000) (h2 : f.id.length ≤ 100) (h3 : r.size ≤ 100) (hk : okF v f = true) : Calls Try.prog 4 #[.int .i64 v, vF f a, .string r] w fun e w' => e = .returned (.bool true) ∧ Below w.heap.size w w' := by
  have HAW := Lib.hid (fun W h => awake_any L W h)
  have HK : Hid (∀ W, Below w.heap.size w W → K W) := Lib.hid (fun W h => L.u.stay w W hK h)
  have HPR := Lib.hid (fun W h => L.print v f a W h (by omega) (by omega))
  have HCH := Lib.hid (fun W h => L.check v f a W h (by omega) (by omega))
  have HRC := Lib.hid (fun W => Check_any v f a W (by omega))
  have HOF := Lib.hid (fun W => Of_any f a W)
  have HOF0 := Lib.hid (fun W => Of_any f 0 W)
  have HRP := Lib.hid (fun W => Print_any v f 0 W h2 h1 (v_okF hk))
  unfold PrP at HRP
  have hpl := pr_len v f h2 h1
  have e1 : erI v f = 0 := by unfold erI; rw [hk]; rfl
  have e2 : prS v f = un.bs (pr v f) := by unfold prS; rw [hk]; rfl
  rw [e1, e2] at HPR
  rw [e1] at HCH
  rw [hk, if_pos rfl] at HRC
  have hsz : (un.bs (pr v f) ++ r).size = (pr v f).length + r.size := by rw [ByteArray.size_append, un.bs_size]
  have hpa : pa v false ((un.bs (pr v f) ++ r).data.toList.drop 0) = .ok f (pr v f).length := by
    rw [List.drop_zero, un.data_app, un.bs_list]
    exact pa_pr v f _ hk (by omega)
  have HRD := Lib.hid (fun W => oct.read_any (un.bs (pr v f) ++ r) W)
  have HPA : Hid (∀ b W, K W → oct.Rd W b (un.bs (pr v f) ++ r) 0 0 0 0 → Calls Try.prog 25 #[.int .i64 v, .pointer (some ⟨b, 0, none⟩), .bool false] W fun e w' => oct.Upd b W w' ∧ e = .returned (.tuple #[vF f 0, .bool true]) ∧ oct.Rd w' b (un.bs (pr v f) ++ r) ((pr v f).length : Int) 0 0 0) := Lib.hid (fun b W h hr => by
    have := L.parse v false b (un.bs (pr v f) ++ r) 0 0 W h hr (by omega) (by omega) (by decide) (by decide)
    rw [hpa] at this
    unfold PaP at this
    simp only [Nat.zero_add] at this
    exact this)
  have hrest : (un.bs (pr v f) ++ r).extract (pr v f).length ((pr v f).length + r.size) = r := by
    rw [← un.bs_back ((un.bs (pr v f) ++ r).extract (pr v f).length ((pr v f).length + r.size)), ← un.bs_back r]
    congr 1
    rw [ByteArray.data_extract, Array.toList_extract, un.data_app, un.bs_list, un.bs_back]
    simp only [List.extract]
    rw [List.drop_left' rfl, List.take_of_length_le (by rw [un.size_list]; omega)]
  have HRS := Lib.hid (fun b W (hr : oct.Rd W b (un.bs (pr v f) ++ r) ((pr v f).length : Int) 0 0 0) => oct.rest_on W b (un.bs (pr v f) ++ r) (pr v f).length r.size 0 0 hr hsz.symm (by unfold maxLen; omega))
  rw [hrest] at HRS
  have o1 : ¬ 9223372036854775807 < (un.bs (pr v f)).size + r.size := by rw [un.bs_size]; omega
  have q1 : ¬ (1000 : Int) < (un.bs f.bd).size := by rw [un.bs_size]; omega
  have q2 : ¬ (100 : Int) < (un.bs f.id).size := by rw [un.bs_size]; omega
  have q3 : ¬ (100 : Int) < r.size := by omega
  unfold vF at HPR HCH HOF HOF0 HPA ⊢
  unfold vR at HOF HOF0 HRC HRP
  clear e1 e2 hk L hK h1 h2 h3 hsz hpa hrest
  have n0 : (0 : Int) ≤ ((pr v f).length : Int) := by omega
  generalize ((pr v f).length : Int) = N at *
  generalize un.bs (pr v f) = S at *
  generalize ((f.st.toNat : Nat) : Int) = s at *
  generalize ((f.fm.toNat : Nat) : Int) = m at *
  generalize ((f.gr.toNat : Nat) : Int) = g at *
  generalize un.bs f.id = I at *
  generalize un.bs f.bd = B at *
  generalize hSR : S ++ r = SR at *
  have T0 := Lib.hid (t6_new w 31 (.string I) (.int .u8 s) (.int .u8 m) (.int .u8 g) (.string B) (.int .i64 a))
  have Y0 := Lib.hid (z5_new w 31 (.string I) (.int .u8 s) (.int .u8 m) (.int .u8 g) (.string B) (.int .i64 a))
  obtain ⟨_, y0, y1, y2, y3, y4, y5, _⟩ := T0.out
  go_enter Try.func4, Try.ntmps4
  go_wp2_with (first
    | (go_at_call 20; refine (HPR.out _ (HK.out _ T0.out.b)).mono ?_; rintro e1 w1 ⟨rfl, hb1⟩; have T1 := Lib.hid ((T0.out.below hb1).below (al w1 (.cells #[.int .i64 0, .int .i64 0] 34))); have Y1 := Lib.hid ((Y0.out.below hb1).below (al w1 (.cells #[.int .i64 0, .int .i64 0] 34))); have E1 := Lib.hid (d2_new w1 34 0 0); clear hb1; obtain ⟨_, y0, y1, y2, y3, y4, y5, _⟩ := T1.out)
    | (go_at_call 22; refine (HOF.out _).mono ?_; rintro e2 w2 ⟨rfl, hb2⟩; have T2 := Lib.hid (T1.out.below hb2); have Y2 := Lib.hid (Y1.out.below hb2); have E2 := Lib.hid (E1.out.below hb2); clear hb2; obtain ⟨_, y0, y1, y2, y3, y4, y5, _⟩ := T2.out; obtain ⟨_, x0, x1⟩ := E2.out)
    | (go_at_call 21; refine (HRC.out _).mono ?_; rintro e3 w3 ⟨rfl, hb3⟩; have T3 := Lib.hid (T2.out.below hb3); have Y3 := Lib.hid (Y2.out.below hb3); have E3 := Lib.hid (E2.out.below hb3); clear hb3; obtain ⟨_, y0, y1, y2, y3, y4, y5, _⟩ := T3.out; obtain ⟨_, x0, x1⟩ := E3.out))
  go_region_held3 (fun W => W.cell? ⟨w.heap.size, 0, none⟩ = some (.string I) ∧ W.cell? ⟨w.heap.size, 1, none⟩ = some (.int .u8 s) ∧ W.cell? ⟨w.heap.size, 2, none⟩ = some (.int .u8 m) ∧ W.cell? ⟨w.heap.size, 3, none⟩ = some (.int .u8 g) ∧ W.cell? ⟨w.heap.size, 4, none⟩ = some (.string B) ∧ W.cell? ⟨w.heap.size, 5, none⟩ = some (.int .i64 a) ∧ W.cell? ⟨w1.heap.size, 0, none⟩ = some (.int .i64 0) ∧ W.cell? ⟨w1.heap.size, 1, none⟩ = some (.int .i64 0)) (first | exact ⟨y0, y1, y2, y3, y4, y5, x0, x1⟩ | go_keep) (first
    | (go_at_call 23; refine (HCH.out _ (HK.out _ T4.out.b)).mono ?_; rintro e5 w5 ⟨rfl, hb5⟩; have T5 := Lib.hid (T4.out.below hb5); have Y5 := Lib.hid (Y4.out.below hb5); have E5 := Lib.hid (E4.out.below hb5); clear hb5; obtain ⟨_, y0, y1, y2, y3, y4, y5, _⟩ := T5.out; obtain ⟨_, x0, x1⟩ := E5.out)
    | (go_at_call 23; refine (HCH.out _ (HK.out _ T3.out.drew.b)).mono ?_; rintro e4 w4 ⟨rfl, hb4⟩; have T4 := Lib.hid (T3.out.drew.below hb4); have Y4 := Lib.hid (Y3.out.drew.below hb4); have E4 := Lib.hid (E3.out.drew.below hb4); clear hb4; obtain ⟨_, y0, y1, y2, y3, y4, y5, _⟩ := T4.out; obtain ⟨_, x0, x1⟩ := E4.out))
  all_goals go_wp2_with (first
    | (go_at_call 24; refine (HRD.out _).mono ?_; rintro e6 w6 ⟨rfl, hr6, hb6⟩; have T6' := Lib.hid (T5.out.below hb6); have Y6 := Lib.hid (Y5.out.below hb6); have R6 := Lib.hid hr6; have L6 := Lib.hid T5.out.lt; clear hb6 hr6; obtain ⟨_, y0, y1, y2, y3, y4, y5, _⟩ := T6'.out)
    | (go_at_call 25; refine (HPA.out _ _ (HK.out _ T6'.out.b) R6.out).mono ?_; rintro e7 w7 ⟨hu7, rfl, hr7⟩; have T7 := Lib.hid ((T6'.out.upd hu7 (by have := L6.out; omega) (by have := L6.out; omega)).below (al w7 (.cells #[.string I, .int .u8 s, .int .u8 m, .int .u8 g, .string B, .int .i64 0] 31))); have Y7 := Lib.hid ((Y6.out.upd hu7 (by have := L6.out; omega)).below (al w7 (.cells #[.string I, .int .u8 s, .int .u8 m, .int .u8 g, .string B, .int .i64 0] 31))); have G7 := Lib.hid ((t6_new w7 31 (.string I) (.int .u8 s) (.int .u8 m) (.int .u8 g) (.string B) (.int .i64 0)).of (T6'.out.upd hu7 (by have := L6.out; omega) (by have := L6.out; omega)).b); have R7 := Lib.hid (hr7.below (al w7 (.cells #[.string I, .int .u8 s, .int .u8 m, .int .u8 g, .string B, .int .i64 0] 31)) hr7.lt); have L7 := Lib.hid (Nat.lt_of_lt_of_le L6.out (Nat.le_trans (Nat.le_of_lt R6.out.lt) hu7.size)); have LX := Lib.hid L6.out; have fz := Y7.out.fz; clear hu7 hr7; obtain ⟨_, y0, y1, y2, y3, y4, y5, _⟩ := T7.out)
    | (go_at_call 7; refine (HAW.out _ (HK.out _ (T7.out.set (.int .i64 0) (Nat.le_refl _)).b)).mono ?_; rintro e8 w8 ⟨rfl, hb8⟩; have T8 := Lib.hid ((T7.out.set (.int .i64 0) (Nat.le_refl _)).below hb8); have G8 := Lib.hid ((G7.out.upd (upd_set _ w.heap.size 5 (.int .i64 0)) (by have := L7.out; omega) (Nat.le_refl _)).below hb8); have RX := R7.out.upd (upd_set _ w.heap.size 5 (.int .i64 0)) (by have := LX.out; omega); have R8 := Lib.hid (RX.below hb8 RX.lt); clear RX; clear hb8; obtain ⟨_, y0, y1, y2, y3, y4, y5, _⟩ := T8.out; obtain ⟨_, g0, g1, g2, g3, g4, g5, _⟩ := G8.out)
    | (go_at_call 22; refine (HOF0.out _).mono ?_; rintro e9 w9 ⟨rfl, hb9⟩; have T9 := Lib.hid (T8.out.below hb9); have G9 := Lib.hid (G8.out.below hb9); have R9 := Lib.hid (R8.out.below hb9 R8.out.lt); clear hb9; obtain ⟨_, y0, y1, y2, y3, y4, y5, _⟩ := T9.out; obtain ⟨_, g0, g1, g2, g3, g4, g5, _⟩ := G9.out)
    | (go_at_call 26; refine (HRP.out _).mono ?_; rintro e10 w10 ⟨rfl, hb10⟩; have T10 := Lib.hid (T9.out.below hb10); have G10 := Lib.hid (G9.out.below hb10); have R10 := Lib.hid (R9.out.below hb10 R9.out.lt); clear hb10; obtain ⟨_, y0, y1, y2, y3, y4, y5, _⟩ := T10.out; obtain ⟨_, g0, g1, g2, g3, g4, g5, _⟩ := G10.out)
    | (go_at_call 27; refine (HRS.out _ _ R10.out).mono ?_; rintro e11 w11 ⟨rfl, _, hu11⟩; have T11 := Lib.hid (T10.out.upd hu11 (by have := LX.out; omega) (by have := LX.out; omega)); clear hu11))
  all_goals go_ret
  all_goals exact ⟨rfl, T11.out.b⟩
end Go.Proofs.Ytkhajafjieofhaa.fn
