/- Layer 13: the walk of FrameCuts. -/
import Derived.Test.YtkhajafjieofhaaFn6
namespace Go.Proofs.Ytkhajafjieofhaa.fn
open Go.RowKit Go.Lib
open Go.Proofs.Ytkhajafjieofhaa.fr
set_option linter.unusedVariables false
theorem slice_to (s : ByteArray) (i : Nat) (h : i ≤ s.size) (wx : World) : (Instr.slice 9 (.string s) none (some (.int .i64 (i : Int))) none).run Try.prog wx = .ok (.string (un.bs (s.data.toList.take i))) wx := by
  rw [run_slice_string_h wx 9 s Try.underlying9 .i64 (i : Int) (by omega) (by omega)]
  congr 2
  rw [← un.bs_back (s.extract 0 (i : Int).toNat)]
  congr 1
  rw [ByteArray.data_extract, Array.toList_extract]
  simp [List.extract]
theorem fault_any (w : World) (b : Nat) (t : ByteArray) (k q e a : Int) (h : oct.Rd w b t k q e a) : Calls Try.prog 30 #[.pointer (some ⟨b, 0, none⟩)] w fun e' w' => e' = .returned (.agg #[.int .i64 e, .int .i64 a]) ∧ Below w.heap.size w w' := oct.fault_some w b e a h.lt h.c3 h.c4
set_option maxRecDepth 100000 in
set_option maxHeartbeats 4000000 in
theorem cuts_out {K : World → Prop} (L : Fm K) (v : Int) (f : Fr) (a c : Int) (w : World) (hK : K w) (h : 1000 < f.bd.length ∨ 100 < f.id.length) (h1 : f.bd.length ≤ maxLen) (h2 : f.id.length ≤ maxLen) : Calls Try.prog 6 #[.int .i64 v, vF f a, .int .u16 c] w fun e w' => e = .returned (.bool true) ∧ Below w.heap.size w w' := by
  unfold maxLen at h1 h2
  have HA := Lib.hid (fun W (h : Below w.heap.size w W) => awake_any L W (L.u.stay w W hK h))
  unfold vF
  have hb : (un.bs f.bd).size = f.bd.length := un.bs_size _
  have hi : (un.bs f.id).size = f.id.length := un.bs_size _
  rw [← hb, ← hi] at h
  rw [← hb] at h1; rw [← hi] at h2
  clear hb hi L hK
  have hh : (1000 : Int) < (un.bs f.bd).size ∨ (¬ (1000 : Int) < (un.bs f.bd).size ∧ (100 : Int) < (un.bs f.id).size) := by omega
  clear h
  generalize ((f.st.toNat : Nat) : Int) = s at *
  generalize ((f.fm.toNat : Nat) : Int) = m at *
  generalize ((f.gr.toNat : Nat) : Int) = g at *
  generalize un.bs f.id = I at *
  generalize un.bs f.bd = B at *
  rcases hh with q1 | ⟨q1, q2⟩
  all_goals
    go_enter Try.func6, Try.ntmps6
    go_wp2_with (go_at_call 7; refine (HA.out _ (al _ _)).mono ?_; rintro e2 w2 ⟨rfl, hb2⟩)
    go_ret
    exact ⟨rfl, (al w _).trans (hb2.mono (al w _).size)⟩
set_option maxRecDepth 100000 in
set_option maxHeartbeats 4000000 in
theorem cuts_bad {K : World → Prop} (L : Fm K) (v : Int) (f : Fr) (a c : Int) (w : World) (hK : K w) (h1 : f.bd.length ≤ 1000) (h2 : f.id.length ≤ 100) (hk : okF v f = false) : Calls Try.prog 6 #[.int .i64 v, vF f a, .int .u16 c] w fun e w' => e = .returned (.bool true) ∧ Below w.heap.size w w' := by
  have HAW := Lib.hid (fun W h => awake_any L W h)
  have HK : Hid (∀ W, Below w.heap.size w W → K W) := Lib.hid (fun W h => L.u.stay w W hK h)
  have HPR := Lib.hid (fun W h => L.print v f a W h (by omega) (by omega))
  have HBD : Hid (∀ W, Calls Try.prog 28 #[.agg #[.int .i64 5, .int .i64 0]] W fun e w' => e = .returned (.bool true) ∧ Below W.heap.size W w') := Lib.hid (fun W => oct.bad_any 5 0 W)
  have e1 : erI v f = 5 := by unfold erI; rw [hk]; rfl
  have e2 : prS v f = ⟨#[]⟩ := by unfold prS; rw [hk]; rfl
  rw [e1, e2] at HPR
  have q1 : ¬ (1000 : Int) < (un.bs f.bd).size := by rw [un.bs_size]; omega
  have q2 : ¬ (100 : Int) < (un.bs f.id).size := by rw [un.bs_size]; omega
  unfold vF at HPR ⊢
  clear e1 e2 hk L hK h1 h2
  generalize ((f.st.toNat : Nat) : Int) = s at *
  generalize ((f.fm.toNat : Nat) : Int) = m at *
  generalize ((f.gr.toNat : Nat) : Int) = g at *
  generalize un.bs f.id = I at *
  generalize un.bs f.bd = B at *
  have T0 := Lib.hid (t6_new w 31 (.string I) (.int .u8 s) (.int .u8 m) (.int .u8 g) (.string B) (.int .i64 a))
  obtain ⟨_, y0, y1, y2, y3, y4, y5, _⟩ := T0.out
  go_enter Try.func6, Try.ntmps6
  go_wp2_with (first
    | (go_at_call 20; refine (HPR.out _ (HK.out _ T0.out.b)).mono ?_; rintro e1 w1 ⟨rfl, hb1⟩; have T1 := Lib.hid ((T0.out.below hb1).below (al w1 (.cells #[.int .i64 5, .int .i64 0] 34))); have E1 := Lib.hid (d2_new w1 34 5 0); clear hb1; obtain ⟨_, x0, x1⟩ := E1.out)
    | (go_at_call 28; refine (HBD.out _).mono ?_; rintro e2 w2 ⟨rfl, hb2⟩; have T2 := Lib.hid (T1.out.below hb2); clear hb2)
    | (go_at_call 7; refine (HAW.out _ (HK.out _ T2.out.b)).mono ?_; rintro e6 w6 ⟨rfl, hb6⟩; have T6' := Lib.hid (T2.out.below hb6); clear hb6))
  go_ret
  exact ⟨rfl, T6'.out.b⟩
set_option maxRecDepth 100000 in
set_option maxHeartbeats 8000000 in
theorem cuts_good {K : World → Prop} (L : Fm K) (v : Int) (f : Fr) (a c : Int) (w : World) (hK : K w) (h1 : f.bd.length ≤ 1000) (h2 : f.id.length ≤ 100) (hk : okF v f = true) (c0 : 0 ≤ c) (c1 : c ≤ 65535) : Calls Try.prog 6 #[.int .i64 v, vF f a, .int .u16 c] w fun e w' => e = .returned (.bool true) ∧ Below w.heap.size w w' := by
  have HAW := Lib.hid (fun W h => awake_any L W h)
  have HK : Hid (∀ W, Below w.heap.size w W → K W) := Lib.hid (fun W h => L.u.stay w W hK h)
  have HPR := Lib.hid (fun W h => L.print v f a W h (by omega) (by omega))
  have HBD : Hid (∀ e n W, Calls Try.prog 28 #[.agg #[.int .i64 e, .int .i64 n]] W fun e' w' => e' = .returned (.bool (e != 0)) ∧ Below W.heap.size W w') := Lib.hid (fun e n W => oct.bad_any e n W)
  have hpl := pr_len v f h2 h1
  have e1 : erI v f = 0 := by unfold erI; rw [hk]; rfl
  have e2 : prS v f = un.bs (pr v f) := by unfold prS; rw [hk]; rfl
  rw [e1, e2] at HPR
  have hid1 : 0 < (pr v f).length := by
    have := (nmd_at (okF_at hk).1).2.1
    unfold pr
    rw [List.length_append]; omega
  obtain ⟨m1, m2⟩ := str_ne (s := un.bs (pr v f)) (by rw [un.bs_size]; omega)
  obtain ⟨n, hn⟩ : ∃ n : Nat, (n : Int) = c % ((pr v f).length : Int) := ⟨(c % ((pr v f).length : Int)).toNat, by have := Int.emod_nonneg c (show ((pr v f).length : Int) ≠ 0 by omega); omega⟩
  have hnl : n < (pr v f).length := by have := Int.emod_lt_of_pos c (show (0 : Int) < ((pr v f).length : Int) by omega); omega
  have hcut := cut_pr v f hk (by omega) n hnl
  have hsl := slice_to (un.bs (pr v f)) n (by rw [un.bs_size]; omega)
  rw [un.bs_list] at hsl
  have htl : ((pr v f).take n).length = n := by rw [List.length_take]; omega
  have HIN := Lib.hid (fun W => oct.inner_any (un.bs ((pr v f).take n)) 7 W)
  have HPA := Lib.hid (fun b W h (hr : oct.Rd W b (un.bs ((pr v f).take n)) 0 7 0 0) => by
    have := L.parse v false b (un.bs ((pr v f).take n)) 0 7 W h hr (by omega) (by rw [un.bs_size]; omega) (by decide) (by decide)
    rw [List.drop_zero, un.bs_list, hcut] at this
    exact this)
  have e3 : (un.bs (pr v f)).size = (pr v f).length := un.bs_size _
  have q1 : ¬ (1000 : Int) < (un.bs f.bd).size := by rw [un.bs_size]; omega
  have q2 : ¬ (100 : Int) < (un.bs f.id).size := by rw [un.bs_size]; omega
  have wc : IntKind.i64.wrap c = c := by simp [IntKind.wrap, IntKind.bits, IntKind.signed]; omega
  have tm : c.tmod ((pr v f).length : Int) = (n : Int) := by rw [hn, Int.tmod_eq_emod_of_nonneg c0]
  have em : c % ((pr v f).length : Int) = (n : Int) := hn.symm
  have lp : (0 : Int) < ((pr v f).length : Int) := by omega
  have lz : ¬ ((pr v f).length : Int) = 0 := by omega
  have lz2 : (((pr v f).length : Int) == 0) = false := beq_eq_false_iff_ne.2 lz
  unfold PaP vF f0 at HPA
  unfold vF at HPR ⊢
  clear e1 e2 hk L hK h1 h2 hn hcut htl hid1
  generalize un.bs ((pr v f).take n) = SN at *
  generalize un.bs (pr v f) = S at *
  generalize (pr v f).length = l at *
  generalize ((f.st.toNat : Nat) : Int) = s at *
  generalize ((f.fm.toNat : Nat) : Int) = m at *
  generalize ((f.gr.toNat : Nat) : Int) = g at *
  generalize un.bs f.id = I at *
  generalize un.bs f.bd = B at *
  have T0 := Lib.hid (t6_new w 31 (.string I) (.int .u8 s) (.int .u8 m) (.int .u8 g) (.string B) (.int .i64 a))
  obtain ⟨_, y0, y1, y2, y3, y4, y5, _⟩ := T0.out
  by_cases hn0 : n = 0
  · subst hn0
    rw [if_pos rfl] at HPA
    have hsl' : ∀ wx, (Instr.slice 9 (.string S) none (some (.int .i64 0)) none).run Try.prog wx = .ok (.string SN) wx := hsl
    have tm' : c.tmod (l : Int) = 0 := tm
    have em' : c % (l : Int) = 0 := em
    clear hsl tm em
    go_enter Try.func6, Try.ntmps6
    go_wp2_with (first
      | (go_at_call 20; refine (HPR.out _ (HK.out _ T0.out.b)).mono ?_; rintro e1 w1 ⟨rfl, hb1⟩; have T1 := Lib.hid ((T0.out.below hb1).below (al w1 (.cells #[.int .i64 0, .int .i64 0] 34))); have E1 := Lib.hid (d2_new w1 34 0 0); clear hb1; obtain ⟨_, x0, x1⟩ := E1.out)
      | (go_at_call 29; refine (HIN.out _).mono ?_; rintro e3 w3 ⟨rfl, hr3, hb3⟩; have T3 := Lib.hid (T2.out.below hb3); have L3 := Lib.hid T2.out.lt; have R3 := Lib.hid hr3; clear hb3 hr3)
      | (go_at_call 25; refine (HPA.out _ _ (HK.out _ T3.out.b) R3.out).mono ?_; rintro e4 w4 ⟨hu4, rfl, hr4⟩; have T4 := Lib.hid ((T3.out.upd hu4 (by have := L3.out; omega) (by have := L3.out; omega)).below (al w4 (.cells #[.string ⟨#[]⟩, .int .u8 0, .int .u8 0, .int .u8 0, .string ⟨#[]⟩, .int .i64 0] 31))); have R4 := Lib.hid (hr4.below (al w4 (.cells #[.string ⟨#[]⟩, .int .u8 0, .int .u8 0, .int .u8 0, .string ⟨#[]⟩, .int .i64 0] 31)) hr4.lt); clear hu4 hr4)
      | (go_at_call 7; refine (HAW.out _ (HK.out _ T4.out.b)).mono ?_; rintro e5 w5 ⟨rfl, hb5⟩; have T5 := Lib.hid (T4.out.below hb5); have R5 := Lib.hid (R4.out.below hb5 R4.out.lt); clear hb5)
      | (go_at_call 30; refine (fault_any _ _ _ _ _ _ _ R5.out).mono ?_; rintro e6 w6 ⟨rfl, hb6⟩; have T6' := Lib.hid (T5.out.below hb6); clear hb6)
      | (go_at_call 28; refine (HBD.out _ _ _).mono ?_; rintro e7 w7 ⟨rfl, hb7⟩; have T7 := Lib.hid (T6'.out.below hb7); clear hb7)
      | (go_at_call 28; refine (HBD.out _ _ _).mono ?_; rintro e2 w2 ⟨rfl, hb2⟩; have T2 := Lib.hid (T1.out.below hb2); clear hb2))
    go_ret
    exact ⟨rfl, T7.out.b⟩
  · rw [if_neg hn0] at HPA
    have p0 : (0 : Int) < (n : Int) := by omega
    have nz : ((n : Int) == 0) = false := beq_eq_false_iff_ne.2 (by omega)
    have nz2 : ¬ (n : Int) = 0 := by omega
    have w7 : IntKind.i64.wrap (7 + (n : Int)) = 7 + (n : Int) := by simp [IntKind.wrap, IntKind.bits, IntKind.signed]; omega
    go_enter Try.func6, Try.ntmps6
    go_wp2_with (first
      | (go_at_call 20; refine (HPR.out _ (HK.out _ T0.out.b)).mono ?_; rintro e1 w1 ⟨rfl, hb1⟩; have T1 := Lib.hid ((T0.out.below hb1).below (al w1 (.cells #[.int .i64 0, .int .i64 0] 34))); have E1 := Lib.hid (d2_new w1 34 0 0); clear hb1; obtain ⟨_, x0, x1⟩ := E1.out)
      | (go_at_call 29; refine (HIN.out _).mono ?_; rintro e3 w3 ⟨rfl, hr3, hb3⟩; have T3 := Lib.hid (T2.out.below hb3); have L3 := Lib.hid T2.out.lt; have R3 := Lib.hid hr3; clear hb3 hr3)
      | (go_at_call 25; refine (HPA.out _ _ (HK.out _ T3.out.b) R3.out).mono ?_; rintro e4 w4 ⟨hu4, rfl, k4, _, hr4⟩; have T4 := Lib.hid ((T3.out.upd hu4 (by have := L3.out; omega) (by have := L3.out; omega)).below (al w4 (.cells #[.string ⟨#[]⟩, .int .u8 0, .int .u8 0, .int .u8 0, .string ⟨#[]⟩, .int .i64 0] 31))); rw [show (7 : Int) + ((0 : Nat) : Int) + (n : Int) = 7 + (n : Int) by omega] at hr4; have R4 := Lib.hid (hr4.below (al w4 (.cells #[.string ⟨#[]⟩, .int .u8 0, .int .u8 0, .int .u8 0, .string ⟨#[]⟩, .int .i64 0] 31)) hr4.lt); clear hu4 hr4)
      | (go_at_call 7; refine (HAW.out _ (HK.out _ T4.out.b)).mono ?_; rintro e5 w5 ⟨rfl, hb5⟩; have T5 := Lib.hid (T4.out.below hb5); have R5 := Lib.hid (R4.out.below hb5 R4.out.lt); clear hb5)
      | (go_at_call 30; refine (fault_any _ _ _ _ _ _ _ R7.out).mono ?_; rintro e8 w8 ⟨rfl, hb8⟩; have T8 := Lib.hid (T7.out.below hb8); clear hb8)
      | (go_at_call 30; refine (fault_any _ _ _ _ _ _ _ R5.out).mono ?_; rintro e6 w6 ⟨rfl, hb6⟩; have T6' := Lib.hid (T5.out.below hb6); have R6 := Lib.hid (R5.out.below hb6 R5.out.lt); clear hb6)
      | (go_at_call 28; refine (HBD.out _ _ _).mono ?_; rintro e7 w7 ⟨rfl, hb7⟩; have T7 := Lib.hid (T6'.out.below hb7); have R7 := Lib.hid (R6.out.below hb7 R6.out.lt); clear hb7)
      | (go_at_call 28; refine (HBD.out _ _ _).mono ?_; rintro e2 w2 ⟨rfl, hb2⟩; have T2 := Lib.hid (T1.out.below hb2); clear hb2))
    go_ret
    exact ⟨rfl, T8.out.b⟩
end Go.Proofs.Ytkhajafjieofhaa.fn
