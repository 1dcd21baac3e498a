/- Layer 13: the walk of FramePrints. -/
import Derived.Test.YtkhajafjieofhaaFn4
namespace Go.Proofs.Ytkhajafjieofhaa.fn
open Go.RowKit Go.Lib
open Go.Proofs.Ytkhajafjieofhaa.fr
set_option linter.unusedVariables false
theorem wrapU {x : Int} (h0 : 0 ≤ x) (h1 : x ≤ 255) : IntKind.i64.wrap x = x := by simp [IntKind.wrap, IntKind.bits, IntKind.signed]; omega
set_option maxRecDepth 100000 in
set_option maxHeartbeats 2000000 in
theorem Of_any (f : Fr) (a : Int) (w : World) : Calls Try.prog 22 #[vF f a] w fun e w' => e = .returned (vR f a) ∧ Below w.heap.size w w' := by
  unfold vF vR
  have s1 : IntKind.i64.wrap ((f.st.toNat : Nat) : Int) = ((f.st.toNat : Nat) : Int) := wrapU (by omega) (by have := UInt8.toNat_lt f.st; omega)
  have s2 : IntKind.i64.wrap ((f.fm.toNat : Nat) : Int) = ((f.fm.toNat : Nat) : Int) := wrapU (by omega) (by have := UInt8.toNat_lt f.fm; omega)
  have s3 : IntKind.i64.wrap ((f.gr.toNat : Nat) : Int) = ((f.gr.toNat : Nat) : Int) := wrapU (by omega) (by have := UInt8.toNat_lt f.gr; omega)
  generalize ((f.st.toNat : Nat) : Int) = s at *
  generalize ((f.fm.toNat : Nat) : Int) = m at *
  generalize ((f.gr.toNat : Nat) : Int) = g at *
  generalize un.bs f.id = I at *
  generalize un.bs f.bd = B at *
  go_enter Try.func22, Try.ntmps22
  go_wp2
  exact bodyPost_ret (v := .agg #[.string I, .int .i64 s, .int .i64 m, .int .i64 g, .string B, .int .i64 a]) (by simp [results, Try.results22, go_sem]) rfl ⟨rfl, by repeat (first | (with_reducible exact Below.refl _ _) | (with_reducible refine Below.setCell ?_ (by simp) _) | (with_reducible refine Below.alloc ?_ (by simp) _))⟩
theorem D2.drew {W : World} {p : Nat} {x y : Int} (h : D2 p x y W) : D2 p x y W.drew := ⟨h.lt, h.c0, h.c1⟩
/-- A block's sixth cell can be written. -/
structure Z5 (p : Nat) (W : World) : Prop where
  lt : p < W.heap.size
  fz : W.frozen? ⟨p, 5, none⟩ = false
theorem Z5.below {p : Nat} {W W' : World} (h : Z5 p W) (hb : Below W.heap.size W W') : Z5 p W' := ⟨Nat.lt_of_lt_of_le h.lt hb.size, (hb.frozen (p := ⟨p, 5, none⟩) h.lt).trans h.fz⟩
theorem Z5.upd {p r : Nat} {W W' : World} (h : Z5 p W) (hu : oct.Upd r W W') (hp : p ≠ r) : Z5 p W' := ⟨Nat.lt_of_lt_of_le h.lt hu.size, (hu.frozen (p := ⟨p, 5, none⟩) h.lt hp).trans h.fz⟩
theorem z5_new (w : World) (t : TypeId) (v0 v1 v2 v3 v4 v5 : Value) : Z5 w.heap.size (w.alloc (.cells #[v0, v1, v2, v3, v4, v5] t)) := by
  refine ⟨by simp, ?_⟩
  have := World.frozen?_alloc_mark w #[v0, v1, v2, v3, v4, v5] t 0 0 5
  rw [this]; simp
theorem T6.set {w W : World} {p : Nat} {v0 v1 v2 v3 v4 v5 : Value} (h : T6 w p v0 v1 v2 v3 v4 v5 W) (u : Value) (hp : w.heap.size ≤ p) : T6 w p v0 v1 v2 v3 v4 u (W.setCell ⟨p, 5, none⟩ u) := by
  refine ⟨by simpa [World.setCell] using h.lt, ?_, ?_, ?_, ?_, ?_, World.cell?_setCell_same _ _ _ h.c5, h.b.setCell (p := ⟨p, 5, none⟩) hp _⟩
  · rw [World.cell?_setCell_other _ _ _ _ (by simp)]; exact h.c0
  · rw [World.cell?_setCell_other _ _ _ _ (by simp)]; exact h.c1
  · rw [World.cell?_setCell_other _ _ _ _ (by simp)]; exact h.c2
  · rw [World.cell?_setCell_other _ _ _ _ (by simp)]; exact h.c3
  · rw [World.cell?_setCell_other _ _ _ _ (by simp)]; exact h.c4
theorem upd_set (W : World) (p o : Nat) (u : Value) : oct.Upd p W (W.setCell ⟨p, o, none⟩ u) := (oct.Upd.refl p W).setCell o u
set_option maxRecDepth 100000 in
set_option maxHeartbeats 4000000 in
theorem prints_out {K : World → Prop} (L : Fm K) (v : Int) (f : Fr) (a : Int) (r : ByteArray) (w : World) (hK : K w) (h : 1000 < f.bd.length ∨ 100 < f.id.length ∨ 100 < r.size) (h1 : f.bd.length ≤ maxLen) (h2 : f.id.length ≤ maxLen) (h3 : r.size ≤ maxLen) : Calls Try.prog 4 #[.int .i64 v, vF f a, .string r] w fun e w' => e = .returned (.bool true) ∧ Below w.heap.size w w' := by
  unfold maxLen at h1 h2 h3
  have HA := Lib.hid (fun W (h : Below w.heap.size w W) => awake_any L W (L.u.stay w W hK h))
  unfold vF
  have hb : (un.bs f.bd).size = f.bd.length := un.bs_size _
  have hi : (un.bs f.id).size = f.id.length := un.bs_size _
  rw [← hb, ← hi] at h
  rw [← hb] at h1; rw [← hi] at h2
  clear hb hi L hK
  have hh : (1000 : Int) < (un.bs f.bd).size ∨ (¬ (1000 : Int) < (un.bs f.bd).size ∧ (100 : Int) < (un.bs f.id).size) ∨ (¬ (1000 : Int) < (un.bs f.bd).size ∧ ¬ (100 : Int) < (un.bs f.id).size ∧ (100 : Int) < r.size) := by omega
  clear h
  generalize ((f.st.toNat : Nat) : Int) = s at *
  generalize ((f.fm.toNat : Nat) : Int) = m at *
  generalize ((f.gr.toNat : Nat) : Int) = g at *
  generalize un.bs f.id = I at *
  generalize un.bs f.bd = B at *
  rcases hh with q1 | ⟨q1, q2⟩ | ⟨q1, q2, q3⟩
  all_goals
    go_enter Try.func4, Try.ntmps4
    go_wp2_with (go_at_call 7; refine (HA.out _ (al _ _)).mono ?_; rintro e2 w2 ⟨rfl, hb2⟩)
    go_ret
    exact ⟨rfl, (al w _).trans (hb2.mono (al w _).size)⟩
theorem pr_len (v : Int) (f : Fr) (hi : f.id.length ≤ 100) (hb : f.bd.length ≤ 1000) : (pr v f).length ≤ 3000 := by
  have h := dat_len v f
  unfold pr siz flg
  simp only [List.length_append]
  have h1 : (if v = 2 then oct.bigL 256 3 (dat v f).length else if v = 4 then oct.bigL 128 4 (dat v f).length else oct.bigL 256 4 (dat v f).length).length ≤ 4 := by
    split
    · rw [oct.bigL_len]; omega
    · split <;> (rw [oct.bigL_len]; omega)
  have h2 : (if v = 2 then [] else [f.st, f.fm]).length ≤ 2 := by split <;> simp
  omega
theorem v_okF {v : Int} {f : Fr} (h : okF v f = true) : v = 2 ∨ v = 3 ∨ v = 4 := by
  have h1 := (okF_at h).1
  obtain ⟨h2, h3, _⟩ := nmd_at h1
  exact v_of (by omega)
set_option maxRecDepth 100000 in
set_option maxHeartbeats 4000000 in
theorem prints_bad {K : World → Prop} (L : Fm K) (v : Int) (f : Fr) (a : Int) (r : ByteArray) (w : World) (hK : K w) (h1 : f.bd.length ≤ 1000) (h2 : f.id.length ≤ 100) (h3 : r.size ≤ 100) (hk : okF v f = false) : Calls Try.prog 4 #[.int .i64 v, vF f a, .string r] w fun e w' => e = .returned (.bool true) ∧ Below w.heap.size w w' := by
  have HAW := Lib.hid (fun W h => awake_any L W h)
  have HK : Hid (∀ W, Below w.heap.size w W → K W) := Lib.hid (fun W h => L.u.stay w W hK h)
  have HPR := Lib.hid (fun W h => L.print v f a W h (by omega) (by omega))
  have HCH := Lib.hid (fun W h => L.check v f a W h (by omega) (by omega))
  have HRC := Lib.hid (fun W => Check_any v f a W (by omega))
  have HOF := Lib.hid (fun W => Of_any f a W)
  have e1 : erI v f = 5 := by unfold erI; rw [hk]; rfl
  have e2 : prS v f = ⟨#[]⟩ := by unfold prS; rw [hk]; rfl
  rw [e1, e2] at HPR
  rw [e1] at HCH
  rw [hk, if_neg (by simp)] at HRC
  have q1 : ¬ (1000 : Int) < (un.bs f.bd).size := by rw [un.bs_size]; omega
  have q2 : ¬ (100 : Int) < (un.bs f.id).size := by rw [un.bs_size]; omega
  have q3 : ¬ (100 : Int) < r.size := by omega
  unfold vF at HPR HCH HOF ⊢
  unfold vR at HOF HRC
  clear e1 e2 hk L hK h1 h2 h3
  generalize ((f.st.toNat : Nat) : Int) = s at *
  generalize ((f.fm.toNat : Nat) : Int) = m at *
  generalize ((f.gr.toNat : Nat) : Int) = g at *
  generalize un.bs f.id = I at *
  generalize un.bs f.bd = B at *
  have T0 := Lib.hid (t6_new w 31 (.string I) (.int .u8 s) (.int .u8 m) (.int .u8 g) (.string B) (.int .i64 a))
  obtain ⟨_, y0, y1, y2, y3, y4, y5, _⟩ := T0.out
  go_enter Try.func4, Try.ntmps4
  go_wp2_with (first
    | (go_at_call 20; refine (HPR.out _ (HK.out _ T0.out.b)).mono ?_; rintro e1 w1 ⟨rfl, hb1⟩; have T1 := Lib.hid ((T0.out.below hb1).below (al w1 (.cells #[.int .i64 5, .int .i64 0] 34))); have E1 := Lib.hid (d2_new w1 34 5 0); clear hb1; obtain ⟨_, y0, y1, y2, y3, y4, y5, _⟩ := T1.out)
    | (go_at_call 22; refine (HOF.out _).mono ?_; rintro e2 w2 ⟨rfl, hb2⟩; have T2 := Lib.hid (T1.out.below hb2); have E2 := Lib.hid (E1.out.below hb2); clear hb2; obtain ⟨_, y0, y1, y2, y3, y4, y5, _⟩ := T2.out; obtain ⟨_, x0, x1⟩ := E2.out)
    | (go_at_call 21; refine (HRC.out _).mono ?_; rintro e3 w3 ⟨rfl, hb3⟩; have T3 := Lib.hid (T2.out.below hb3); have E3 := Lib.hid (E2.out.below hb3); clear hb3; obtain ⟨_, y0, y1, y2, y3, y4, y5, _⟩ := T3.out; obtain ⟨_, x0, x1⟩ := E3.out))
  go_region_held3 (fun W => W.cell? ⟨w.heap.size, 0, none⟩ = some (.string I) ∧ W.cell? ⟨w.heap.size, 1, none⟩ = some (.int .u8 s) ∧ W.cell? ⟨w.heap.size, 2, none⟩ = some (.int .u8 m) ∧ W.cell? ⟨w.heap.size, 3, none⟩ = some (.int .u8 g) ∧ W.cell? ⟨w.heap.size, 4, none⟩ = some (.string B) ∧ W.cell? ⟨w.heap.size, 5, none⟩ = some (.int .i64 a) ∧ W.cell? ⟨w1.heap.size, 0, none⟩ = some (.int .i64 5) ∧ W.cell? ⟨w1.heap.size, 1, none⟩ = some (.int .i64 0)) (first | exact ⟨y0, y1, y2, y3, y4, y5, x0, x1⟩ | go_keep) (first
    | (go_at_call 23; refine (HCH.out _ (HK.out _ T4.out.b)).mono ?_; rintro e5 w5 ⟨rfl, hb5⟩; have T5 := Lib.hid (T4.out.below hb5); have E5 := Lib.hid (E4.out.below hb5); clear hb5; obtain ⟨_, y0, y1, y2, y3, y4, y5, _⟩ := T5.out; obtain ⟨_, x0, x1⟩ := E5.out)
    | (go_at_call 23; refine (HCH.out _ (HK.out _ T3.out.drew.b)).mono ?_; rintro e4 w4 ⟨rfl, hb4⟩; have T4 := Lib.hid (T3.out.drew.below hb4); have E4 := Lib.hid (E3.out.drew.below hb4); clear hb4; obtain ⟨_, y0, y1, y2, y3, y4, y5, _⟩ := T4.out; obtain ⟨_, x0, x1⟩ := E4.out))
  all_goals go_wp2_with (go_at_call 7; refine (HAW.out _ (HK.out _ T5.out.b)).mono ?_; rintro e6 w6 ⟨rfl, hb6⟩; have T6' := Lib.hid (T5.out.below hb6); clear hb6)
  all_goals go_ret
  all_goals exact ⟨rfl, T6'.out.b⟩
end Go.Proofs.Ytkhajafjieofhaa.fn
