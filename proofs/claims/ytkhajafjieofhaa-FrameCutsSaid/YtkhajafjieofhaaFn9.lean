/- Layer 13: the walk of FrameSizes. -/
import Derived.Test.YtkhajafjieofhaaFn8
import Derived.BigQuiet
namespace Go.Proofs.Ytkhajafjieofhaa.fn
open Go.RowKit Go.Lib
open Go.Proofs.Ytkhajafjieofhaa.fr
set_option linter.unusedVariables false
theorem wI {x : Nat} (h : x < 9223372036854775808) : IntKind.i64.wrap (x : Int) = (x : Int) := IntWalk.i64_in _ (by omega)
theorem wM (x k : Nat) (h : x * k < 9223372036854775808) : IntKind.i64.wrap ((x : Int) * (k : Int)) = ((x * k : Nat) : Int) := by
  rw [show (x : Int) * (k : Int) = ((x * k : Nat) : Int) by simp]
  exact wI h
theorem join2 {x3 x4 x5 n : Nat} (h3 : x3 = n / 65536 % 256) (h4 : x4 = n / 256 % 256) (h5 : x5 = n % 256) (hn : n ≤ 3000) :
    ∃ A3 A4 C1 : Int, IntKind.i64.wrap ((x3 : Int) * 65536) = A3 ∧ IntKind.i64.wrap ((x4 : Int) * 256) = A4 ∧ bits .or .i64 A3 A4 = C1 ∧ bits .or .i64 C1 (x5 : Int) = (n : Int) := by
  refine ⟨_, _, _, wM x3 65536 (by omega), wM x4 256 (by omega), i64_or x3 (x4 * 256) 16 (by omega) (by omega), ?_⟩
  have h := i64_or (x3 * 256 + x4) x5 8 (by omega) (by omega)
  rw [show (x3 * 256 + x4) * 2 ^ 8 = x3 * 2 ^ 16 + x4 * 256 by omega] at h
  rw [h]; omega
theorem i64_or' (a b i k : Nat) (hk : k = 2 ^ i) (h : b < k) (ha : a * k + b < 9223372036854775808) : bits .or .i64 ((a * k : Nat) : Int) (b : Int) = ((a * k + b : Nat) : Int) := by
  subst hk; exact i64_or a b i h ha
theorem castM (x k : Nat) : ((x * k : Nat) : Int) = (x : Int) * (k : Int) := by simp
theorem join3 {x4 x5 x6 x7 n : Nat} (h4 : x4 = n / 16777216 % 256) (h5 : x5 = n / 65536 % 256) (h6 : x6 = n / 256 % 256) (h7 : x7 = n % 256) (hn : n ≤ 3000) :
    ∃ A4 A5 A6 C1 C2 : Int, IntKind.i64.wrap ((x4 : Int) * 16777216) = A4 ∧ IntKind.i64.wrap ((x5 : Int) * 65536) = A5 ∧ IntKind.i64.wrap ((x6 : Int) * 256) = A6 ∧ bits .or .i64 A4 A5 = C1 ∧ bits .or .i64 C1 A6 = C2 ∧ bits .or .i64 C2 (x7 : Int) = (n : Int) := by
  have z4 : x4 = 0 := by omega
  have z5 : x5 = 0 := by omega
  have g3 := i64_or' x6 x7 8 256 rfl (by omega) (by omega)
  have g0 := oct.i64_or_nat 0 0 (by decide) (by omega) (by omega)
  have g1 := oct.i64_or_nat 0 (x6 * 256) (by rw [Nat.zero_or]; omega) (by omega) (by omega)
  rw [Nat.zero_or] at g0 g1
  refine ⟨0, 0, ((x6 * 256 : Nat) : Int), 0, ((x6 * 256 : Nat) : Int), by rw [z4]; rfl, by rw [z5]; rfl, wM x6 256 (by omega), g0, g1, ?_⟩
  rw [g3]; omega
theorem join4 {x4 x5 x6 x7 n : Nat} (h4 : x4 = n / 2097152 % 128) (h5 : x5 = n / 16384 % 128) (h6 : x6 = n / 128 % 128) (h7 : x7 = n % 128) (hn : n ≤ 3000) :
    (∃ A4 A5 A6 C1 C2 : Int, IntKind.i64.wrap ((x4 : Int) * 2097152) = A4 ∧ IntKind.i64.wrap ((x5 : Int) * 16384) = A5 ∧ IntKind.i64.wrap ((x6 : Int) * 128) = A6 ∧ bits .or .i64 A4 A5 = C1 ∧ bits .or .i64 C1 A6 = C2 ∧ bits .or .i64 C2 (x7 : Int) = (n : Int)) ∧
    ∃ O1 O2 O3 : Int, bits .or .u8 (x4 : Int) (x5 : Int) = O1 ∧ bits .or .u8 O1 (x6 : Int) = O2 ∧ bits .or .u8 O2 (x7 : Int) = O3 ∧ ¬ 128 ≤ O3 := by
  have z4 : x4 = 0 := by omega
  have z5 : x5 = 0 := by omega
  constructor
  · have g3 := i64_or' x6 x7 7 128 rfl (by omega) (by omega)
    have g0 := oct.i64_or_nat 0 0 (by decide) (by omega) (by omega)
    have g1 := oct.i64_or_nat 0 (x6 * 128) (by rw [Nat.zero_or]; omega) (by omega) (by omega)
    rw [Nat.zero_or] at g0 g1
    refine ⟨0, 0, ((x6 * 128 : Nat) : Int), 0, ((x6 * 128 : Nat) : Int), by rw [z4]; rfl, by rw [z5]; rfl, wM x6 128 (by omega), g0, g1, ?_⟩
    rw [g3]; omega
  · have e1 : x4 ||| x5 < 128 := Nat.or_lt_two_pow (n := 7) (by omega) (by omega)
    have e2 : x4 ||| x5 ||| x6 < 128 := Nat.or_lt_two_pow (n := 7) e1 (by omega)
    have e3 : x4 ||| x5 ||| x6 ||| x7 < 128 := Nat.or_lt_two_pow (n := 7) e2 (by omega)
    exact ⟨_, _, _, u8_or_nat x4 x5 (by omega) (by omega), u8_or_nat _ x6 (by omega) (by omega), u8_or_nat _ x7 (by omega) (by omega), by omega⟩
theorem T6.dN {w W : World} {p n : Nat} {v0 v1 v2 v3 v4 v5 : Value} (h : T6 w p v0 v1 v2 v3 v4 v5 W) : T6 w p v0 v1 v2 v3 v4 v5 (W.drewN n) :=
  ⟨h.lt, h.c0, h.c1, h.c2, h.c3, h.c4, h.c5, ⟨h.b.os, h.b.tape, h.b.output, h.b.size, h.b.block⟩⟩
set_option maxRecDepth 100000 in
set_option maxHeartbeats 4000000 in
theorem sizes_out {K : World → Prop} (L : Fm K) (v : Int) (f : Fr) (a : Int) (w : World) (hK : K w) (h : 1000 < f.bd.length ∨ 100 < f.id.length) (h1 : f.bd.length ≤ maxLen) (h2 : f.id.length ≤ maxLen) : Calls Try.prog 5 #[.int .i64 v, vF f a] w fun e w' => e = .returned (.bool true) ∧ Below w.heap.size w w' := by
  unfold maxLen at h1 h2
  have HA := Lib.hid (fun W (h : Below w.heap.size w W) => awake_any L W (L.u.stay w W hK h))
  unfold vF
  have hb : (un.bs f.bd).size = f.bd.length := un.bs_size _
  have hi : (un.bs f.id).size = f.id.length := un.bs_size _
  rw [← hb, ← hi] at h
  rw [← hb] at h1; rw [← hi] at h2
  clear hb hi L hK
  have hh : (1000 : Int) < (un.bs f.bd).size ∨ (¬ (1000 : Int) < (un.bs f.bd).size ∧ (100 : Int) < (un.bs f.id).size) := by omega
  clear h
  generalize ((f.st.toNat : Nat) : Int) = s at *
  generalize ((f.fm.toNat : Nat) : Int) = m at *
  generalize ((f.gr.toNat : Nat) : Int) = g at *
  generalize un.bs f.id = I at *
  generalize un.bs f.bd = B at *
  rcases hh with q1 | ⟨q1, q2⟩
  all_goals
    go_enter Try.func5, Try.ntmps5
    go_wp2_with (go_at_call 7; refine (HA.out _ (al _ _)).mono ?_; rintro e2 w2 ⟨rfl, hb2⟩)
    go_ret
    exact ⟨rfl, (al w _).trans (hb2.mono (al w _).size)⟩
set_option maxRecDepth 100000 in
set_option maxHeartbeats 4000000 in
theorem sizes_bad {K : World → Prop} (L : Fm K) (v : Int) (f : Fr) (a : Int) (w : World) (hK : K w) (h1 : f.bd.length ≤ 1000) (h2 : f.id.length ≤ 100) (hk : okF v f = false) : Calls Try.prog 5 #[.int .i64 v, vF f a] w fun e w' => e = .returned (.bool true) ∧ Below w.heap.size w w' := by
  have HAW := Lib.hid (fun W h => awake_any L W h)
  have HK : Hid (∀ W, Below w.heap.size w W → K W) := Lib.hid (fun W h => L.u.stay w W hK h)
  have HPR := Lib.hid (fun W h => L.print v f a W h (by omega) (by omega))
  have HBD : Hid (∀ W, Calls Try.prog 28 #[.agg #[.int .i64 5, .int .i64 0]] W fun e w' => e = .returned (.bool true) ∧ Below W.heap.size W w') := Lib.hid (fun W => oct.bad_any 5 0 W)
  have e1 : erI v f = 5 := by unfold erI; rw [hk]; rfl
  have e2 : prS v f = ⟨#[]⟩ := by unfold prS; rw [hk]; rfl
  rw [e1, e2] at HPR
  have q1 : ¬ (1000 : Int) < (un.bs f.bd).size := by rw [un.bs_size]; omega
  have q2 : ¬ (100 : Int) < (un.bs f.id).size := by rw [un.bs_size]; omega
  unfold vF at HPR ⊢
  clear e1 e2 hk L hK h1 h2
  generalize ((f.st.toNat : Nat) : Int) = s at *
  generalize ((f.fm.toNat : Nat) : Int) = m at *
  generalize ((f.gr.toNat : Nat) : Int) = g at *
  generalize un.bs f.id = I at *
  generalize un.bs f.bd = B at *
  have T0 := Lib.hid (t6_new w 31 (.string I) (.int .u8 s) (.int .u8 m) (.int .u8 g) (.string B) (.int .i64 a))
  obtain ⟨_, y0, y1, y2, y3, y4, y5, _⟩ := T0.out
  go_enter Try.func5, Try.ntmps5
  go_wp2_with (first
    | (go_at_call 20; refine (HPR.out _ (HK.out _ T0.out.b)).mono ?_; rintro e1 w1 ⟨rfl, hb1⟩; have T1 := Lib.hid ((T0.out.below hb1).below (al w1 (.cells #[.int .i64 5, .int .i64 0] 34))); have E1 := Lib.hid (d2_new w1 34 5 0); clear hb1; obtain ⟨_, x0, x1⟩ := E1.out)
    | (go_at_call 28; refine (HBD.out _).mono ?_; rintro e2 w2 ⟨rfl, hb2⟩; have T2 := Lib.hid (T1.out.below hb2); clear hb2)
    | (go_at_call 7; refine (HAW.out _ (HK.out _ T2.out.b)).mono ?_; rintro e6 w6 ⟨rfl, hb6⟩; have T6' := Lib.hid (T2.out.below hb6); clear hb6))
  go_ret
  exact ⟨rfl, T6'.out.b⟩
set_option maxRecDepth 100000 in
set_option maxHeartbeats 8000000 in
theorem sizes_2 {K : World → Prop} (L : Fm K) (f : Fr) (a : Int) (w : World) (hK : K w) (h1 : f.bd.length ≤ 1000) (h2 : f.id.length ≤ 100) (hk : okF 2 f = true) (hs : sprd 2 f.fm.toNat = false) : Calls Try.prog 5 #[.int .i64 2, vF f a] w fun e w' => e = .returned (.bool true) ∧ Below w.heap.size w w' := by
  have HAW := Lib.hid (fun W h => awake_any L W h)
  have HK : Hid (∀ W, Below w.heap.size w W → K W) := Lib.hid (fun W h => L.u.stay w W hK h)
  have HPR := Lib.hid (fun W h => L.print 2 f a W h (by omega) (by omega))
  have HSP := Lib.hid (fun W h => L.spread 2 f W h (by omega))
  rw [hs] at HSP
  have HBD : Hid (∀ W, Calls Try.prog 28 #[.agg #[.int .i64 0, .int .i64 0]] W fun e w' => e = .returned (.bool false) ∧ Below W.heap.size W w') := Lib.hid (fun W => oct.bad_any 0 0 W)
  have hpl := pr_len 2 f h2 h1
  have e1 : erI 2 f = 0 := by unfold erI; rw [hk]; rfl
  have e2 : prS 2 f = un.bs (pr 2 f) := by unfold prS; rw [hk]; rfl
  rw [e1, e2] at HPR
  have e3 : (un.bs (pr 2 f)).size = (pr 2 f).length := un.bs_size _
  have q1 : ¬ (1000 : Int) < (un.bs f.bd).size := by rw [un.bs_size]; omega
  have q2 : ¬ (100 : Int) < (un.bs f.id).size := by rw [un.bs_size]; omega
  obtain ⟨b3, b4, b5, bl⟩ := pr_bytes2 hk
  have i3 : ∀ wx, (Instr.index 9 (.string (un.bs (pr 2 f))) (.int .i64 3)).run Try.prog wx = .ok (.int .u8 ((un.bt (un.bs (pr 2 f)) 3 : Nat) : Int)) wx := fun wx => un.index_bt _ 3 (by omega) wx
  have k3 : IntKind.i64.wrap ((un.bt (un.bs (pr 2 f)) 3 : Nat) : Int) = ((un.bt (un.bs (pr 2 f)) 3 : Nat) : Int) := wI (by omega)
  have i4 : ∀ wx, (Instr.index 9 (.string (un.bs (pr 2 f))) (.int .i64 4)).run Try.prog wx = .ok (.int .u8 ((un.bt (un.bs (pr 2 f)) 4 : Nat) : Int)) wx := fun wx => un.index_bt _ 4 (by omega) wx
  have k4 : IntKind.i64.wrap ((un.bt (un.bs (pr 2 f)) 4 : Nat) : Int) = ((un.bt (un.bs (pr 2 f)) 4 : Nat) : Int) := wI (by omega)
  have i5 : ∀ wx, (Instr.index 9 (.string (un.bs (pr 2 f))) (.int .i64 5)).run Try.prog wx = .ok (.int .u8 ((un.bt (un.bs (pr 2 f)) 5 : Nat) : Int)) wx := fun wx => un.index_bt _ 5 (by omega) wx
  have k5 : IntKind.i64.wrap ((un.bt (un.bs (pr 2 f)) 5 : Nat) : Int) = ((un.bt (un.bs (pr 2 f)) 5 : Nat) : Int) := wI (by omega)
  generalize un.bt (un.bs (pr 2 f)) = BT at *
  have hn3 : (dat 2 f).length ≤ 3000 := by omega
  obtain ⟨A3, A4, C1, j1, j2, j3, j4⟩ := join2 b3 b4 b5 hn3
  unfold vF at HPR ⊢
  unfold vH at HSP
  clear e1 e2 hk hs L hK h1 h2 b3 b4 b5
  generalize un.bs (pr 2 f) = S at *
  have p0 : ((pr 2 f).length : Int) = 6 + ((dat 2 f).length : Int) := by omega
  clear bl
  generalize (pr 2 f).length = l at *
  generalize (dat 2 f).length = n at *
  generalize ((BT 3 : Nat) : Int) = X3 at *
  generalize ((BT 4 : Nat) : Int) = X4 at *
  generalize ((BT 5 : Nat) : Int) = X5 at *
  have r1 : ¬ (l : Int) < 6 := by omega
  have r3 : IntKind.i64.wrap (6 + (n : Int)) = 6 + (n : Int) := by simp [IntKind.wrap, IntKind.bits, IntKind.signed]; omega
  generalize ((f.st.toNat : Nat) : Int) = s at *
  generalize ((f.fm.toNat : Nat) : Int) = m at *
  generalize ((f.gr.toNat : Nat) : Int) = g at *
  generalize un.bs f.id = I at *
  generalize un.bs f.bd = B at *
  have T0 := Lib.hid (t6_new w 31 (.string I) (.int .u8 s) (.int .u8 m) (.int .u8 g) (.string B) (.int .i64 a))
  obtain ⟨_, y0, y1, y2, y3, y4, y5, _⟩ := T0.out
  go_enter Try.func5, Try.ntmps5
  go_wp2_with (first
    | (go_at_call 20; refine (HPR.out _ (HK.out _ T0.out.b)).mono ?_; rintro e1 w1 ⟨rfl, hb1⟩; have T1 := Lib.hid ((T0.out.below hb1).below (al w1 (.cells #[.int .i64 0, .int .i64 0] 34))); have E1 := Lib.hid (d2_new w1 34 0 0); clear hb1; obtain ⟨_, x0, x1⟩ := E1.out; obtain ⟨_, y0, y1, y2, y3, y4, y5, _⟩ := T1.out)
    | (go_at_call 28; refine (HBD.out _).mono ?_; rintro e2 w2 ⟨rfl, hb2⟩; have T2 := Lib.hid (T1.out.below hb2); clear hb2; obtain ⟨_, y0, y1, y2, y3, y4, y5, _⟩ := T2.out)
    | (go_at_call 14; refine (HSP.out _ (HK.out _ T2.out.dN.b)).mono ?_; rintro e3 w3 ⟨rfl, hb3⟩; have T3 := Lib.hid (T2.out.dN.below hb3); clear hb3)
    | (go_at_call 14; refine (HSP.out _ (HK.out _ T2.out.dN.dN.b)).mono ?_; rintro e3 w3 ⟨rfl, hb3⟩; have T3 := Lib.hid (T2.out.dN.dN.below hb3); clear hb3)
    | (go_at_call 7; refine (HAW.out _ (HK.out _ T3.out.b)).mono ?_; rintro e6 w6 ⟨rfl, hb6⟩; have T6' := Lib.hid (T3.out.below hb6); clear hb6))
  go_quiet (fail)
  go_wp2_with (first
    | (go_at_call 20; refine (HPR.out _ (HK.out _ T0.out.b)).mono ?_; rintro e1 w1 ⟨rfl, hb1⟩; have T1 := Lib.hid ((T0.out.below hb1).below (al w1 (.cells #[.int .i64 0, .int .i64 0] 34))); have E1 := Lib.hid (d2_new w1 34 0 0); clear hb1; obtain ⟨_, x0, x1⟩ := E1.out; obtain ⟨_, y0, y1, y2, y3, y4, y5, _⟩ := T1.out)
    | (go_at_call 28; refine (HBD.out _).mono ?_; rintro e2 w2 ⟨rfl, hb2⟩; have T2 := Lib.hid (T1.out.below hb2); clear hb2; obtain ⟨_, y0, y1, y2, y3, y4, y5, _⟩ := T2.out)
    | (go_at_call 14; refine (HSP.out _ (HK.out _ T2.out.dN.b)).mono ?_; rintro e3 w3 ⟨rfl, hb3⟩; have T3 := Lib.hid (T2.out.dN.below hb3); clear hb3)
    | (go_at_call 14; refine (HSP.out _ (HK.out _ T2.out.dN.dN.b)).mono ?_; rintro e3 w3 ⟨rfl, hb3⟩; have T3 := Lib.hid (T2.out.dN.dN.below hb3); clear hb3)
    | (go_at_call 7; refine (HAW.out _ (HK.out _ T3.out.b)).mono ?_; rintro e6 w6 ⟨rfl, hb6⟩; have T6' := Lib.hid (T3.out.below hb6); clear hb6))
  go_ret
  exact ⟨by first | (simp; omega) | simp, T6'.out.b⟩
set_option maxRecDepth 100000 in
set_option maxHeartbeats 8000000 in
theorem sizes_3 {K : World → Prop} (L : Fm K) (f : Fr) (a : Int) (w : World) (hK : K w) (h1 : f.bd.length ≤ 1000) (h2 : f.id.length ≤ 100) (hk : okF 3 f = true) (hs : sprd 3 f.fm.toNat = false) : Calls Try.prog 5 #[.int .i64 3, vF f a] w fun e w' => e = .returned (.bool true) ∧ Below w.heap.size w w' := by
  have HAW := Lib.hid (fun W h => awake_any L W h)
  have HK : Hid (∀ W, Below w.heap.size w W → K W) := Lib.hid (fun W h => L.u.stay w W hK h)
  have HPR := Lib.hid (fun W h => L.print 3 f a W h (by omega) (by omega))
  have HSP := Lib.hid (fun W h => L.spread 3 f W h (by omega))
  rw [hs] at HSP
  have HBD : Hid (∀ W, Calls Try.prog 28 #[.agg #[.int .i64 0, .int .i64 0]] W fun e w' => e = .returned (.bool false) ∧ Below W.heap.size W w') := Lib.hid (fun W => oct.bad_any 0 0 W)
  have hpl := pr_len 3 f h2 h1
  have e1 : erI 3 f = 0 := by unfold erI; rw [hk]; rfl
  have e2 : prS 3 f = un.bs (pr 3 f) := by unfold prS; rw [hk]; rfl
  rw [e1, e2] at HPR
  have e3 : (un.bs (pr 3 f)).size = (pr 3 f).length := un.bs_size _
  have q1 : ¬ (1000 : Int) < (un.bs f.bd).size := by rw [un.bs_size]; omega
  have q2 : ¬ (100 : Int) < (un.bs f.id).size := by rw [un.bs_size]; omega
  obtain ⟨b4, b5, b6, b7, bl⟩ := pr_bytes3 hk
  have i4 : ∀ wx, (Instr.index 9 (.string (un.bs (pr 3 f))) (.int .i64 4)).run Try.prog wx = .ok (.int .u8 ((un.bt (un.bs (pr 3 f)) 4 : Nat) : Int)) wx := fun wx => un.index_bt _ 4 (by omega) wx
  have k4 : IntKind.i64.wrap ((un.bt (un.bs (pr 3 f)) 4 : Nat) : Int) = ((un.bt (un.bs (pr 3 f)) 4 : Nat) : Int) := wI (by omega)
  have i5 : ∀ wx, (Instr.index 9 (.string (un.bs (pr 3 f))) (.int .i64 5)).run Try.prog wx = .ok (.int .u8 ((un.bt (un.bs (pr 3 f)) 5 : Nat) : Int)) wx := fun wx => un.index_bt _ 5 (by omega) wx
  have k5 : IntKind.i64.wrap ((un.bt (un.bs (pr 3 f)) 5 : Nat) : Int) = ((un.bt (un.bs (pr 3 f)) 5 : Nat) : Int) := wI (by omega)
  have i6 : ∀ wx, (Instr.index 9 (.string (un.bs (pr 3 f))) (.int .i64 6)).run Try.prog wx = .ok (.int .u8 ((un.bt (un.bs (pr 3 f)) 6 : Nat) : Int)) wx := fun wx => un.index_bt _ 6 (by omega) wx
  have k6 : IntKind.i64.wrap ((un.bt (un.bs (pr 3 f)) 6 : Nat) : Int) = ((un.bt (un.bs (pr 3 f)) 6 : Nat) : Int) := wI (by omega)
  have i7 : ∀ wx, (Instr.index 9 (.string (un.bs (pr 3 f))) (.int .i64 7)).run Try.prog wx = .ok (.int .u8 ((un.bt (un.bs (pr 3 f)) 7 : Nat) : Int)) wx := fun wx => un.index_bt _ 7 (by omega) wx
  have k7 : IntKind.i64.wrap ((un.bt (un.bs (pr 3 f)) 7 : Nat) : Int) = ((un.bt (un.bs (pr 3 f)) 7 : Nat) : Int) := wI (by omega)
  generalize un.bt (un.bs (pr 3 f)) = BT at *
  have hn3 : (dat 3 f).length ≤ 3000 := by omega
  obtain ⟨A4, A5, A6, C1, C2, j1, j2, j3, j4, j5, j6⟩ := join3 b4 b5 b6 b7 hn3
  unfold vF at HPR ⊢
  unfold vH at HSP
  clear e1 e2 hk hs L hK h1 h2 b4 b5 b6 b7
  generalize un.bs (pr 3 f) = S at *
  have p0 : ((pr 3 f).length : Int) = 10 + ((dat 3 f).length : Int) := by omega
  clear bl
  generalize (pr 3 f).length = l at *
  generalize (dat 3 f).length = n at *
  generalize ((BT 4 : Nat) : Int) = X4 at *
  generalize ((BT 5 : Nat) : Int) = X5 at *
  generalize ((BT 6 : Nat) : Int) = X6 at *
  generalize ((BT 7 : Nat) : Int) = X7 at *
  have r1 : ¬ (l : Int) < 6 := by omega
  have r2 : ¬ (l : Int) < 10 := by omega
  have r3 : IntKind.i64.wrap (10 + (n : Int)) = 10 + (n : Int) := by simp [IntKind.wrap, IntKind.bits, IntKind.signed]; omega
  generalize ((f.st.toNat : Nat) : Int) = s at *
  generalize ((f.fm.toNat : Nat) : Int) = m at *
  generalize ((f.gr.toNat : Nat) : Int) = g at *
  generalize un.bs f.id = I at *
  generalize un.bs f.bd = B at *
  have T0 := Lib.hid (t6_new w 31 (.string I) (.int .u8 s) (.int .u8 m) (.int .u8 g) (.string B) (.int .i64 a))
  obtain ⟨_, y0, y1, y2, y3, y4, y5, _⟩ := T0.out
  go_enter Try.func5, Try.ntmps5
  go_wp2_with (first
    | (go_at_call 20; refine (HPR.out _ (HK.out _ T0.out.b)).mono ?_; rintro e1 w1 ⟨rfl, hb1⟩; have T1 := Lib.hid ((T0.out.below hb1).below (al w1 (.cells #[.int .i64 0, .int .i64 0] 34))); have E1 := Lib.hid (d2_new w1 34 0 0); clear hb1; obtain ⟨_, x0, x1⟩ := E1.out; obtain ⟨_, y0, y1, y2, y3, y4, y5, _⟩ := T1.out)
    | (go_at_call 28; refine (HBD.out _).mono ?_; rintro e2 w2 ⟨rfl, hb2⟩; have T2 := Lib.hid (T1.out.below hb2); clear hb2; obtain ⟨_, y0, y1, y2, y3, y4, y5, _⟩ := T2.out)
    | (go_at_call 14; refine (HSP.out _ (HK.out _ T2.out.dN.b)).mono ?_; rintro e3 w3 ⟨rfl, hb3⟩; have T3 := Lib.hid (T2.out.dN.below hb3); clear hb3)
    | (go_at_call 14; refine (HSP.out _ (HK.out _ T2.out.dN.dN.b)).mono ?_; rintro e3 w3 ⟨rfl, hb3⟩; have T3 := Lib.hid (T2.out.dN.dN.below hb3); clear hb3)
    | (go_at_call 7; refine (HAW.out _ (HK.out _ T3.out.b)).mono ?_; rintro e6 w6 ⟨rfl, hb6⟩; have T6' := Lib.hid (T3.out.below hb6); clear hb6))
  go_quiet (fail)
  go_wp2_with (first
    | (go_at_call 20; refine (HPR.out _ (HK.out _ T0.out.b)).mono ?_; rintro e1 w1 ⟨rfl, hb1⟩; have T1 := Lib.hid ((T0.out.below hb1).below (al w1 (.cells #[.int .i64 0, .int .i64 0] 34))); have E1 := Lib.hid (d2_new w1 34 0 0); clear hb1; obtain ⟨_, x0, x1⟩ := E1.out; obtain ⟨_, y0, y1, y2, y3, y4, y5, _⟩ := T1.out)
    | (go_at_call 28; refine (HBD.out _).mono ?_; rintro e2 w2 ⟨rfl, hb2⟩; have T2 := Lib.hid (T1.out.below hb2); clear hb2; obtain ⟨_, y0, y1, y2, y3, y4, y5, _⟩ := T2.out)
    | (go_at_call 14; refine (HSP.out _ (HK.out _ T2.out.dN.b)).mono ?_; rintro e3 w3 ⟨rfl, hb3⟩; have T3 := Lib.hid (T2.out.dN.below hb3); clear hb3)
    | (go_at_call 14; refine (HSP.out _ (HK.out _ T2.out.dN.dN.b)).mono ?_; rintro e3 w3 ⟨rfl, hb3⟩; have T3 := Lib.hid (T2.out.dN.dN.below hb3); clear hb3)
    | (go_at_call 7; refine (HAW.out _ (HK.out _ T3.out.b)).mono ?_; rintro e6 w6 ⟨rfl, hb6⟩; have T6' := Lib.hid (T3.out.below hb6); clear hb6))
  go_ret
  exact ⟨by first | (simp; omega) | simp, T6'.out.b⟩
set_option maxRecDepth 100000 in
set_option maxHeartbeats 8000000 in
theorem sizes_4n {K : World → Prop} (L : Fm K) (f : Fr) (a : Int) (w : World) (hK : K w) (h1 : f.bd.length ≤ 1000) (h2 : f.id.length ≤ 100) (hk : okF 4 f = true) (hs : sprd 4 f.fm.toNat = false) : Calls Try.prog 5 #[.int .i64 4, vF f a] w fun e w' => e = .returned (.bool true) ∧ Below w.heap.size w w' := by
  have HAW := Lib.hid (fun W h => awake_any L W h)
  have HK : Hid (∀ W, Below w.heap.size w W → K W) := Lib.hid (fun W h => L.u.stay w W hK h)
  have HPR := Lib.hid (fun W h => L.print 4 f a W h (by omega) (by omega))
  have HSP := Lib.hid (fun W h => L.spread 4 f W h (by omega))
  rw [hs] at HSP
  have HBD : Hid (∀ W, Calls Try.prog 28 #[.agg #[.int .i64 0, .int .i64 0]] W fun e w' => e = .returned (.bool false) ∧ Below W.heap.size W w') := Lib.hid (fun W => oct.bad_any 0 0 W)
  have hpl := pr_len 4 f h2 h1
  have e1 : erI 4 f = 0 := by unfold erI; rw [hk]; rfl
  have e2 : prS 4 f = un.bs (pr 4 f) := by unfold prS; rw [hk]; rfl
  rw [e1, e2] at HPR
  have e3 : (un.bs (pr 4 f)).size = (pr 4 f).length := un.bs_size _
  have q1 : ¬ (1000 : Int) < (un.bs f.bd).size := by rw [un.bs_size]; omega
  have q2 : ¬ (100 : Int) < (un.bs f.id).size := by rw [un.bs_size]; omega
  obtain ⟨b4, b5, b6, b7, bl⟩ := pr_bytes4 hk
  have i4 : ∀ wx, (Instr.index 9 (.string (un.bs (pr 4 f))) (.int .i64 4)).run Try.prog wx = .ok (.int .u8 ((un.bt (un.bs (pr 4 f)) 4 : Nat) : Int)) wx := fun wx => un.index_bt _ 4 (by omega) wx
  have k4 : IntKind.i64.wrap ((un.bt (un.bs (pr 4 f)) 4 : Nat) : Int) = ((un.bt (un.bs (pr 4 f)) 4 : Nat) : Int) := wI (by omega)
  have i5 : ∀ wx, (Instr.index 9 (.string (un.bs (pr 4 f))) (.int .i64 5)).run Try.prog wx = .ok (.int .u8 ((un.bt (un.bs (pr 4 f)) 5 : Nat) : Int)) wx := fun wx => un.index_bt _ 5 (by omega) wx
  have k5 : IntKind.i64.wrap ((un.bt (un.bs (pr 4 f)) 5 : Nat) : Int) = ((un.bt (un.bs (pr 4 f)) 5 : Nat) : Int) := wI (by omega)
  have i6 : ∀ wx, (Instr.index 9 (.string (un.bs (pr 4 f))) (.int .i64 6)).run Try.prog wx = .ok (.int .u8 ((un.bt (un.bs (pr 4 f)) 6 : Nat) : Int)) wx := fun wx => un.index_bt _ 6 (by omega) wx
  have k6 : IntKind.i64.wrap ((un.bt (un.bs (pr 4 f)) 6 : Nat) : Int) = ((un.bt (un.bs (pr 4 f)) 6 : Nat) : Int) := wI (by omega)
  have i7 : ∀ wx, (Instr.index 9 (.string (un.bs (pr 4 f))) (.int .i64 7)).run Try.prog wx = .ok (.int .u8 ((un.bt (un.bs (pr 4 f)) 7 : Nat) : Int)) wx := fun wx => un.index_bt _ 7 (by omega) wx
  have k7 : IntKind.i64.wrap ((un.bt (un.bs (pr 4 f)) 7 : Nat) : Int) = ((un.bt (un.bs (pr 4 f)) 7 : Nat) : Int) := wI (by omega)
  generalize un.bt (un.bs (pr 4 f)) = BT at *
  have hn3 : (dat 4 f).length ≤ 3000 := by omega
  obtain ⟨⟨A4, A5, A6, C1, C2, j1, j2, j3, j4, j5, j6⟩, O1, O2, O3, u1, u2, u3, u4⟩ := join4 b4 b5 b6 b7 hn3
  unfold vF at HPR ⊢
  unfold vH at HSP
  clear e1 e2 hk hs L hK h1 h2 b4 b5 b6 b7
  generalize un.bs (pr 4 f) = S at *
  have p0 : ((pr 4 f).length : Int) = 10 + ((dat 4 f).length : Int) := by omega
  clear bl
  generalize (pr 4 f).length = l at *
  generalize (dat 4 f).length = n at *
  generalize ((BT 4 : Nat) : Int) = X4 at *
  generalize ((BT 5 : Nat) : Int) = X5 at *
  generalize ((BT 6 : Nat) : Int) = X6 at *
  generalize ((BT 7 : Nat) : Int) = X7 at *
  have r1 : ¬ (l : Int) < 6 := by omega
  have r2 : ¬ (l : Int) < 10 := by omega
  have r3 : IntKind.i64.wrap (10 + (n : Int)) = 10 + (n : Int) := by simp [IntKind.wrap, IntKind.bits, IntKind.signed]; omega
  generalize ((f.st.toNat : Nat) : Int) = s at *
  generalize ((f.fm.toNat : Nat) : Int) = m at *
  generalize ((f.gr.toNat : Nat) : Int) = g at *
  generalize un.bs f.id = I at *
  generalize un.bs f.bd = B at *
  have T0 := Lib.hid (t6_new w 31 (.string I) (.int .u8 s) (.int .u8 m) (.int .u8 g) (.string B) (.int .i64 a))
  obtain ⟨_, y0, y1, y2, y3, y4, y5, _⟩ := T0.out
  go_enter Try.func5, Try.ntmps5
  go_wp2_with (first
    | (go_at_call 20; refine (HPR.out _ (HK.out _ T0.out.b)).mono ?_; rintro e1 w1 ⟨rfl, hb1⟩; have T1 := Lib.hid ((T0.out.below hb1).below (al w1 (.cells #[.int .i64 0, .int .i64 0] 34))); have E1 := Lib.hid (d2_new w1 34 0 0); clear hb1; obtain ⟨_, x0, x1⟩ := E1.out; obtain ⟨_, y0, y1, y2, y3, y4, y5, _⟩ := T1.out)
    | (go_at_call 28; refine (HBD.out _).mono ?_; rintro e2 w2 ⟨rfl, hb2⟩; have T2 := Lib.hid (T1.out.below hb2); clear hb2; obtain ⟨_, y0, y1, y2, y3, y4, y5, _⟩ := T2.out)
    | (go_at_call 14; refine (HSP.out _ (HK.out _ T2.out.dN.b)).mono ?_; rintro e3 w3 ⟨rfl, hb3⟩; have T3 := Lib.hid (T2.out.dN.below hb3); clear hb3)
    | (go_at_call 14; refine (HSP.out _ (HK.out _ T2.out.dN.dN.b)).mono ?_; rintro e3 w3 ⟨rfl, hb3⟩; have T3 := Lib.hid (T2.out.dN.dN.below hb3); clear hb3)
    | (go_at_call 7; refine (HAW.out _ (HK.out _ T3.out.b)).mono ?_; rintro e6 w6 ⟨rfl, hb6⟩; have T6' := Lib.hid (T3.out.below hb6); clear hb6))
  go_quiet (fail)
  go_wp2_with (first
    | (go_at_call 20; refine (HPR.out _ (HK.out _ T0.out.b)).mono ?_; rintro e1 w1 ⟨rfl, hb1⟩; have T1 := Lib.hid ((T0.out.below hb1).below (al w1 (.cells #[.int .i64 0, .int .i64 0] 34))); have E1 := Lib.hid (d2_new w1 34 0 0); clear hb1; obtain ⟨_, x0, x1⟩ := E1.out; obtain ⟨_, y0, y1, y2, y3, y4, y5, _⟩ := T1.out)
    | (go_at_call 28; refine (HBD.out _).mono ?_; rintro e2 w2 ⟨rfl, hb2⟩; have T2 := Lib.hid (T1.out.below hb2); clear hb2; obtain ⟨_, y0, y1, y2, y3, y4, y5, _⟩ := T2.out)
    | (go_at_call 14; refine (HSP.out _ (HK.out _ T2.out.dN.b)).mono ?_; rintro e3 w3 ⟨rfl, hb3⟩; have T3 := Lib.hid (T2.out.dN.below hb3); clear hb3)
    | (go_at_call 14; refine (HSP.out _ (HK.out _ T2.out.dN.dN.b)).mono ?_; rintro e3 w3 ⟨rfl, hb3⟩; have T3 := Lib.hid (T2.out.dN.dN.below hb3); clear hb3)
    | (go_at_call 7; refine (HAW.out _ (HK.out _ T3.out.b)).mono ?_; rintro e6 w6 ⟨rfl, hb6⟩; have T6' := Lib.hid (T3.out.below hb6); clear hb6))
  go_quiet (fail)
  go_wp2_with (first
    | (go_at_call 20; refine (HPR.out _ (HK.out _ T0.out.b)).mono ?_; rintro e1 w1 ⟨rfl, hb1⟩; have T1 := Lib.hid ((T0.out.below hb1).below (al w1 (.cells #[.int .i64 0, .int .i64 0] 34))); have E1 := Lib.hid (d2_new w1 34 0 0); clear hb1; obtain ⟨_, x0, x1⟩ := E1.out; obtain ⟨_, y0, y1, y2, y3, y4, y5, _⟩ := T1.out)
    | (go_at_call 28; refine (HBD.out _).mono ?_; rintro e2 w2 ⟨rfl, hb2⟩; have T2 := Lib.hid (T1.out.below hb2); clear hb2; obtain ⟨_, y0, y1, y2, y3, y4, y5, _⟩ := T2.out)
    | (go_at_call 14; refine (HSP.out _ (HK.out _ T2.out.dN.b)).mono ?_; rintro e3 w3 ⟨rfl, hb3⟩; have T3 := Lib.hid (T2.out.dN.below hb3); clear hb3)
    | (go_at_call 14; refine (HSP.out _ (HK.out _ T2.out.dN.dN.b)).mono ?_; rintro e3 w3 ⟨rfl, hb3⟩; have T3 := Lib.hid (T2.out.dN.dN.below hb3); clear hb3)
    | (go_at_call 7; refine (HAW.out _ (HK.out _ T3.out.b)).mono ?_; rintro e6 w6 ⟨rfl, hb6⟩; have T6' := Lib.hid (T3.out.below hb6); clear hb6))
  go_ret
  exact ⟨by first | (simp; omega) | simp, T6'.out.b⟩
set_option maxRecDepth 100000 in
set_option maxHeartbeats 8000000 in
theorem sizes_4s {K : World → Prop} (L : Fm K) (f : Fr) (a : Int) (w : World) (hK : K w) (h1 : f.bd.length ≤ 1000) (h2 : f.id.length ≤ 100) (hk : okF 4 f = true) (hs : sprd 4 f.fm.toNat = true) : Calls Try.prog 5 #[.int .i64 4, vF f a] w fun e w' => e = .returned (.bool true) ∧ Below w.heap.size w w' := by
  have HAW := Lib.hid (fun W h => awake_any L W h)
  have HK : Hid (∀ W, Below w.heap.size w W → K W) := Lib.hid (fun W h => L.u.stay w W hK h)
  have HPR := Lib.hid (fun W h => L.print 4 f a W h (by omega) (by omega))
  have HSP := Lib.hid (fun W h => L.spread 4 f W h (by omega))
  rw [hs] at HSP
  have HBD : Hid (∀ W, Calls Try.prog 28 #[.agg #[.int .i64 0, .int .i64 0]] W fun e w' => e = .returned (.bool false) ∧ Below W.heap.size W w') := Lib.hid (fun W => oct.bad_any 0 0 W)
  have hpl := pr_len 4 f h2 h1
  have e1 : erI 4 f = 0 := by unfold erI; rw [hk]; rfl
  have e2 : prS 4 f = un.bs (pr 4 f) := by unfold prS; rw [hk]; rfl
  rw [e1, e2] at HPR
  have e3 : (un.bs (pr 4 f)).size = (pr 4 f).length := un.bs_size _
  have q1 : ¬ (1000 : Int) < (un.bs f.bd).size := by rw [un.bs_size]; omega
  have q2 : ¬ (100 : Int) < (un.bs f.id).size := by rw [un.bs_size]; omega
  obtain ⟨b4, b5, b6, b7, bl⟩ := pr_bytes4 hk
  have i4 : ∀ wx, (Instr.index 9 (.string (un.bs (pr 4 f))) (.int .i64 4)).run Try.prog wx = .ok (.int .u8 ((un.bt (un.bs (pr 4 f)) 4 : Nat) : Int)) wx := fun wx => un.index_bt _ 4 (by omega) wx
  have k4 : IntKind.i64.wrap ((un.bt (un.bs (pr 4 f)) 4 : Nat) : Int) = ((un.bt (un.bs (pr 4 f)) 4 : Nat) : Int) := wI (by omega)
  have i5 : ∀ wx, (Instr.index 9 (.string (un.bs (pr 4 f))) (.int .i64 5)).run Try.prog wx = .ok (.int .u8 ((un.bt (un.bs (pr 4 f)) 5 : Nat) : Int)) wx := fun wx => un.index_bt _ 5 (by omega) wx
  have k5 : IntKind.i64.wrap ((un.bt (un.bs (pr 4 f)) 5 : Nat) : Int) = ((un.bt (un.bs (pr 4 f)) 5 : Nat) : Int) := wI (by omega)
  have i6 : ∀ wx, (Instr.index 9 (.string (un.bs (pr 4 f))) (.int .i64 6)).run Try.prog wx = .ok (.int .u8 ((un.bt (un.bs (pr 4 f)) 6 : Nat) : Int)) wx := fun wx => un.index_bt _ 6 (by omega) wx
  have k6 : IntKind.i64.wrap ((un.bt (un.bs (pr 4 f)) 6 : Nat) : Int) = ((un.bt (un.bs (pr 4 f)) 6 : Nat) : Int) := wI (by omega)
  have i7 : ∀ wx, (Instr.index 9 (.string (un.bs (pr 4 f))) (.int .i64 7)).run Try.prog wx = .ok (.int .u8 ((un.bt (un.bs (pr 4 f)) 7 : Nat) : Int)) wx := fun wx => un.index_bt _ 7 (by omega) wx
  have k7 : IntKind.i64.wrap ((un.bt (un.bs (pr 4 f)) 7 : Nat) : Int) = ((un.bt (un.bs (pr 4 f)) 7 : Nat) : Int) := wI (by omega)
  have HI := Lib.hid (fun (j : Nat) (hj : j < (un.bs (pr 4 f)).size) wx => un.index_bt (un.bs (pr 4 f)) j hj wx)
  have HJ := Lib.hid (fun (j : Nat) (hj : j + 1 < (un.bs (pr 4 f)).size) wx => un.index_bt1 (un.bs (pr 4 f)) j hj wx)
  have HCL := Lib.hid (fun (j : Nat) (hj : 16 ≤ j) (hj1 : j + 1 < (pr 4 f).length) => pr_clean hk hs j hj hj1)
  generalize hBT : un.bt (un.bs (pr 4 f)) = BT at *
  have hn3 : (dat 4 f).length ≤ 3000 := by omega
  obtain ⟨⟨A4, A5, A6, C1, C2, j1, j2, j3, j4, j5, j6⟩, O1, O2, O3, u1, u2, u3, u4⟩ := join4 b4 b5 b6 b7 hn3
  unfold vF at HPR ⊢
  unfold vH at HSP
  clear e1 e2 hk hs L hK h1 h2 b4 b5 b6 b7
  generalize un.bs (pr 4 f) = S at *
  have p0 : ((pr 4 f).length : Int) = 10 + ((dat 4 f).length : Int) := by omega
  clear bl
  generalize (pr 4 f).length = l at *
  generalize (dat 4 f).length = n at *
  generalize ((BT 4 : Nat) : Int) = X4 at *
  generalize ((BT 5 : Nat) : Int) = X5 at *
  generalize ((BT 6 : Nat) : Int) = X6 at *
  generalize ((BT 7 : Nat) : Int) = X7 at *
  have r1 : ¬ (l : Int) < 6 := by omega
  have r2 : ¬ (l : Int) < 10 := by omega
  have r3 : IntKind.i64.wrap (10 + (n : Int)) = 10 + (n : Int) := by simp [IntKind.wrap, IntKind.bits, IntKind.signed]; omega
  generalize ((f.st.toNat : Nat) : Int) = s at *
  generalize ((f.fm.toNat : Nat) : Int) = m at *
  generalize ((f.gr.toNat : Nat) : Int) = g at *
  generalize un.bs f.id = I at *
  generalize un.bs f.bd = B at *
  have T0 := Lib.hid (t6_new w 31 (.string I) (.int .u8 s) (.int .u8 m) (.int .u8 g) (.string B) (.int .i64 a))
  obtain ⟨_, y0, y1, y2, y3, y4, y5, _⟩ := T0.out
  go_enter Try.func5, Try.ntmps5
  go_wp2_with (first
    | (go_at_call 20; refine (HPR.out _ (HK.out _ T0.out.b)).mono ?_; rintro e1 w1 ⟨rfl, hb1⟩; have T1 := Lib.hid ((T0.out.below hb1).below (al w1 (.cells #[.int .i64 0, .int .i64 0] 34))); have E1 := Lib.hid (d2_new w1 34 0 0); clear hb1; obtain ⟨_, x0, x1⟩ := E1.out; obtain ⟨_, y0, y1, y2, y3, y4, y5, _⟩ := T1.out)
    | (go_at_call 28; refine (HBD.out _).mono ?_; rintro e2 w2 ⟨rfl, hb2⟩; have T2 := Lib.hid (T1.out.below hb2); clear hb2; obtain ⟨_, y0, y1, y2, y3, y4, y5, _⟩ := T2.out)
    | (go_at_call 14; refine (HSP.out _ (HK.out _ T2.out.dN.b)).mono ?_; rintro e3 w3 ⟨rfl, hb3⟩; have T3 := Lib.hid (T2.out.dN.below hb3); clear hb3)
    | (go_at_call 14; refine (HSP.out _ (HK.out _ T2.out.dN.dN.b)).mono ?_; rintro e3 w3 ⟨rfl, hb3⟩; have T3 := Lib.hid (T2.out.dN.dN.below hb3); clear hb3)
    | (go_at_call 7; refine (HAW.out _ (HK.out _ T3.out.b)).mono ?_; rintro e6 w6 ⟨rfl, hb6⟩; have T6' := Lib.hid (T3.out.below hb6); clear hb6))
  go_quiet (fail)
  go_wp2_with (first
    | (go_at_call 20; refine (HPR.out _ (HK.out _ T0.out.b)).mono ?_; rintro e1 w1 ⟨rfl, hb1⟩; have T1 := Lib.hid ((T0.out.below hb1).below (al w1 (.cells #[.int .i64 0, .int .i64 0] 34))); have E1 := Lib.hid (d2_new w1 34 0 0); clear hb1; obtain ⟨_, x0, x1⟩ := E1.out; obtain ⟨_, y0, y1, y2, y3, y4, y5, _⟩ := T1.out)
    | (go_at_call 28; refine (HBD.out _).mono ?_; rintro e2 w2 ⟨rfl, hb2⟩; have T2 := Lib.hid (T1.out.below hb2); clear hb2; obtain ⟨_, y0, y1, y2, y3, y4, y5, _⟩ := T2.out)
    | (go_at_call 14; refine (HSP.out _ (HK.out _ T2.out.dN.b)).mono ?_; rintro e3 w3 ⟨rfl, hb3⟩; have T3 := Lib.hid (T2.out.dN.below hb3); clear hb3)
    | (go_at_call 14; refine (HSP.out _ (HK.out _ T2.out.dN.dN.b)).mono ?_; rintro e3 w3 ⟨rfl, hb3⟩; have T3 := Lib.hid (T2.out.dN.dN.below hb3); clear hb3)
    | (go_at_call 7; refine (HAW.out _ (HK.out _ T3.out.b)).mono ?_; rintro e6 w6 ⟨rfl, hb6⟩; have T6' := Lib.hid (T3.out.below hb6); clear hb6))
  go_quiet (fail)
  go_wp2_with (first
    | (go_at_call 20; refine (HPR.out _ (HK.out _ T0.out.b)).mono ?_; rintro e1 w1 ⟨rfl, hb1⟩; have T1 := Lib.hid ((T0.out.below hb1).below (al w1 (.cells #[.int .i64 0, .int .i64 0] 34))); have E1 := Lib.hid (d2_new w1 34 0 0); clear hb1; obtain ⟨_, x0, x1⟩ := E1.out; obtain ⟨_, y0, y1, y2, y3, y4, y5, _⟩ := T1.out)
    | (go_at_call 28; refine (HBD.out _).mono ?_; rintro e2 w2 ⟨rfl, hb2⟩; have T2 := Lib.hid (T1.out.below hb2); clear hb2; obtain ⟨_, y0, y1, y2, y3, y4, y5, _⟩ := T2.out)
    | (go_at_call 14; refine (HSP.out _ (HK.out _ T2.out.dN.b)).mono ?_; rintro e3 w3 ⟨rfl, hb3⟩; have T3 := Lib.hid (T2.out.dN.below hb3); clear hb3)
    | (go_at_call 14; refine (HSP.out _ (HK.out _ T2.out.dN.dN.b)).mono ?_; rintro e3 w3 ⟨rfl, hb3⟩; have T3 := Lib.hid (T2.out.dN.dN.below hb3); clear hb3)
    | (go_at_call 7; refine (HAW.out _ (HK.out _ T3.out.b)).mono ?_; rintro e6 w6 ⟨rfl, hb6⟩; have T6' := Lib.hid (T3.out.below hb6); clear hb6))
  go_loopw [9] (fun t wr => ∃ j : Nat, 10 ≤ j ∧ j ≤ l ∧ t = .int .i64 j ∧ w3 = wr) (fun t _ => l - (RowKit.intOf t).toNat)
  case atStart => exact ⟨10, by omega, by omega, rfl, rfl⟩
  case round =>
    obtain ⟨j, hj, hj1, rfl, rfl⟩ := hrel
    have wl : IntKind.i64.wrap ((l : Int) - 1) = (l : Int) - 1 := by simp [IntKind.wrap, IntKind.bits, IntKind.signed]; omega
    by_cases hlt : (j : Int) < (l : Int) - 1
    · have hix := HI.out j (by omega)
      have hiy := HJ.out j (by omega)
      have HCJ := Lib.hid (fun h => HCL.out j h (by omega))
      generalize BT j = xb at *
      generalize BT (j + 1) = yb at *
      have w1' : IntKind.i64.wrap ((j : Int) + 1) = (j : Int) + 1 := by simp [IntKind.wrap, IntKind.bits, IntKind.signed]; omega
      by_cases hx : (xb : Int) = 255
      · have gx : ((xb : Int) == 255) = true := by rw [hx]; rfl
        by_cases hy : (224 : Int) ≤ (yb : Int)
        · have h15 : ¬ (15 : Int) < (j : Int) := fun h => by rcases HCJ.out (by omega) with h9 | h9 <;> omega
          go_wp2_with fail
          go_roundw
          case rel => exact ⟨j + 1, by omega, by omega, by go_num, by simp⟩
          case measure => simp [RowKit.intOf]; omega
        · go_wp2_with fail
          go_roundw
          case rel => exact ⟨j + 1, by omega, by omega, by go_num, by simp⟩
          case measure => simp [RowKit.intOf]; omega
      · have gx : ((xb : Int) == 255) = false := beq_eq_false_iff_ne.2 hx
        go_wp2_with fail
        go_roundw
        case rel => exact ⟨j + 1, by omega, by omega, by go_num, by simp⟩
        case measure => simp [RowKit.intOf]; omega
    · go_wp2_with (go_at_call 7; refine (HAW.out _ (HK.out _ T3.out.b)).mono ?_; rintro e6 w6 ⟨rfl, hb6⟩; have T6' := Lib.hid (T3.out.below hb6); clear hb6)
      go_ret
      exact ⟨by first | (simp; omega) | simp, T6'.out.b⟩
end Go.Proofs.Ytkhajafjieofhaa.fn
