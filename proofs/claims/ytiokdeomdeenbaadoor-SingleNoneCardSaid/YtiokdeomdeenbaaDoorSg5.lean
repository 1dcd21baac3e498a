/- Of, of the landed single: contracts. -/
import Derived.Test.YtiokdeomdeenbaaDoorSg4
namespace Go.Proofs.YtiokdeomdeenbaaDoor.sg
open Go.RowKit Go.Lib
open Go.Proofs.YtiokdeomdeenbaaDoor.tb
set_option linter.unusedVariables false
set_option maxRecDepth 100000 in
set_option maxHeartbeats 2000000 in
theorem tof_lat (w : World) (hT : pt.Tabs w) : Calls Tryd.prog 52 #[.int .i64 0] w fun e w' => ∃ X, e = .returned (.tuple #[.agg #[X], .bool true]) ∧ TE TBr w' X (tbl 0) ∧ Below w.heap.size w w' := by
  have HT := Lib.hid hT
  have G0 := Lib.hid (Gs.new w)
  clear hT
  go_enter Tryd.func52, Tryd.ntmps52
  go_wp2_with (first | (go_at_call 60; refine (seq_any _ _ _ _).mono ?_; rintro e1 w1 ⟨rfl, hb1⟩; have G0 := Lib.hid (G0.out.below hb1); clear hb1) | (go_at_call 74; refine (lat_lit _ (HT.out.below G0.out.b)).mono ?_; rintro e3 w3 ⟨X, rfl, hx, hb3⟩; have G3 := Lib.hid (G0.out.below hb3); have X3 := Lib.hid hx; have hst := (fun wx (a : Addr) m => run_store (P := Tryd.prog) (w := wx) (a := a) X m (TE.one hx)); obtain ⟨⟨_, z0, z1⟩, _⟩ := G3.out.f; clear hx hb3))
  obtain ⟨t1, t2, t3⟩ := G3.out.fin X3.out X
  exact bodyPost_ret (v := .tuple #[.agg #[X], .bool true]) (by simp [results, Tryd.results52, go_sem, t3]) rfl ⟨X, rfl, t1, t2⟩
set_option maxRecDepth 100000 in
set_option maxHeartbeats 2000000 in
theorem tof_koi (w : World) (hT : pt.Tabs w) : Calls Tryd.prog 52 #[.int .i64 1] w fun e w' => ∃ X, e = .returned (.tuple #[.agg #[X], .bool true]) ∧ TE TBr w' X (tbl 1) ∧ Below w.heap.size w w' := by
  have HT := Lib.hid hT
  have G0 := Lib.hid (Gs.new w)
  clear hT
  go_enter Tryd.func52, Tryd.ntmps52
  go_wp2_with (first | (go_at_call 75; refine (koi_any _ (HT.out.below G0.out.b)).mono ?_; rintro e3 w3 ⟨X, rfl, hx, hb3⟩; have G3 := Lib.hid (G0.out.below hb3); have X3 := Lib.hid hx; have hst := (fun wx (a : Addr) m => run_store (P := Tryd.prog) (w := wx) (a := a) X m (TE.one hx)); obtain ⟨⟨_, z0, z1⟩, _⟩ := G3.out.f; clear hx hb3))
  obtain ⟨t1, t2, t3⟩ := G3.out.fin X3.out X
  exact bodyPost_ret (v := .tuple #[.agg #[X], .bool true]) (by simp [results, Tryd.results52, go_sem, t3]) rfl ⟨X, rfl, t1, t2⟩
set_option maxRecDepth 100000 in
set_option maxHeartbeats 2000000 in
theorem tof_cp (w : World) (hT : pt.Tabs w) : Calls Tryd.prog 52 #[.int .i64 3] w fun e w' => ∃ X, e = .returned (.tuple #[.agg #[X], .bool true]) ∧ TE TBr w' X (tbl 3) ∧ Below w.heap.size w w' := by
  have HT := Lib.hid hT
  have G0 := Lib.hid (Gs.new w)
  clear hT
  go_enter Tryd.func52, Tryd.ntmps52
  go_wp2_with (first | (go_at_call 77; refine (cp_any _ (HT.out.below G0.out.b)).mono ?_; rintro e3 w3 ⟨X, rfl, hx, hb3⟩; have G3 := Lib.hid (G0.out.below hb3); have X3 := Lib.hid hx; have hst := (fun wx (a : Addr) m => run_store (P := Tryd.prog) (w := wx) (a := a) X m (TE.one hx)); obtain ⟨⟨_, z0, z1⟩, _⟩ := G3.out.f; clear hx hb3))
  obtain ⟨t1, t2, t3⟩ := G3.out.fin X3.out X
  exact bodyPost_ret (v := .tuple #[.agg #[X], .bool true]) (by simp [results, Tryd.results52, go_sem, t3]) rfl ⟨X, rfl, t1, t2⟩
set_option maxRecDepth 100000 in
set_option maxHeartbeats 2000000 in
theorem tof_kou (w : World) (hT : pt.Tabs w) : Calls Tryd.prog 52 #[.int .i64 2] w fun e w' => ∃ X, e = .returned (.tuple #[.agg #[X], .bool true]) ∧ TE TBr w' X (tbl 2) ∧ Below w.heap.size w w' := by
  have HT := Lib.hid hT
  have G0 := Lib.hid (Gs.new w)
  clear hT
  go_enter Tryd.func52, Tryd.ntmps52
  go_wp2_with (first | (go_at_call 76; refine (ukr_any _ (HT.out.below G0.out.b)).mono ?_; rintro e1 w1 ⟨X1, rfl, hx1, hb1⟩; have G0 := Lib.hid (G0.out.below hb1); have Y1 := Lib.hid hx1; clear hb1 hx1) | (go_at_call 75; refine (koi_any _ (HT.out.below G0.out.b)).mono ?_; rintro e2 w2 ⟨X2, rfl, hx2, hb2⟩; have G0 := Lib.hid (G0.out.below hb2); have Y1 := Lib.hid (te_below Y1.out hb2); have Y2 := Lib.hid hx2; clear hb2 hx2) | (go_at_call 25; refine (tbr_over _ X1 X2 _ _ Y1.out Y2.out (by decide) (by rw [tbl_len]; decide)).mono ?_; rw [over_ukr]; rintro e3 w3 ⟨X, rfl, hx, hb3⟩; have G3 := Lib.hid (G0.out.below hb3); have X3 := Lib.hid hx; have hst := (fun wx (a : Addr) m => run_store (P := Tryd.prog) (w := wx) (a := a) X m (TE.one hx)); obtain ⟨⟨_, z0, z1⟩, _⟩ := G3.out.f; clear hx hb3))
  obtain ⟨t1, t2, t3⟩ := G3.out.fin X3.out X
  exact bodyPost_ret (v := .tuple #[.agg #[X], .bool true]) (by simp [results, Tryd.results52, go_sem, t3]) rfl ⟨X, rfl, t1, t2⟩
set_option maxRecDepth 100000 in
set_option maxHeartbeats 2000000 in
theorem tof_none (c : Int) (w : World) (h : c < 0 ∨ 3 < c) : Calls Tryd.prog 52 #[.int .i64 c] w fun e w' => e = .returned (.tuple #[.agg #[.slice none 0 0], .bool false]) ∧ Below w.heap.size w w' := by
  have G0 := Lib.hid (Gs.new w)
  have n0 : ¬ c = 0 := by omega
  have n1 : ¬ c = 1 := by omega
  have n2 : ¬ c = 2 := by omega
  have n3 : ¬ c = 3 := by omega
  clear h
  go_enter Tryd.func52, Tryd.ntmps52
  go_wp2_with fail
  refine bodyPost_ret (v := .tuple #[.agg #[.slice none 0 0], .bool false]) (by simp [results, Tryd.results52, go_sem]) rfl ⟨rfl, ?_⟩
  repeat (first | (with_reducible exact Below.refl _ _) | (with_reducible refine Below.setCell ?_ (by simp) _) | (with_reducible refine Below.alloc ?_ (by simp) _))
theorem tof_any (c : Int) (w : World) (hT : pt.Tabs w) (h0 : 0 ≤ c) (h1 : c ≤ 3) : Calls Tryd.prog 52 #[.int .i64 c] w fun e w' => ∃ X, e = .returned (.tuple #[.agg #[X], .bool true]) ∧ TE TBr w' X (tbl c) ∧ Below w.heap.size w w' := by
  rcases four h0 h1 with rfl | rfl | rfl | rfl
  · exact tof_lat w hT
  · exact tof_koi w hT
  · exact tof_kou w hT
  · exact tof_cp w hT
/-- A block of two words, of a type that is no row's. -/
structure K2 (w : World) (b : Nat) (t : TypeId) (x y : Value) : Prop where
  lt : b < w.heap.size
  c0 : w.cell? ⟨b, 0, none⟩ = some x
  c1 : w.cell? ⟨b, 1, none⟩ = some y
  fr : ∀ i, w.frozen? ⟨b, i, none⟩ = false
  k : ∃ cs, w.heap[b]? = some (.cells cs t)
theorem K2.below {w w' : World} {b B : Nat} {t : TypeId} {x y : Value} (h : K2 w b t x y) (hb : Below B w w') (hB : b < B) : K2 w' b t x y :=
  ⟨Nat.lt_of_lt_of_le h.lt hb.size, (hb.cell (p := ⟨b, 0, none⟩) hB).trans h.c0, (hb.cell (p := ⟨b, 1, none⟩) hB).trans h.c1, fun i => (hb.frozen (p := ⟨b, i, none⟩) hB).trans (h.fr i), by obtain ⟨cs, h⟩ := h.k; exact ⟨cs, by rw [hb.block b hB]; exact h⟩⟩
theorem k2_new (w : World) (t : TypeId) (x y : Value) : K2 (w.alloc (.cells #[x, y] t)) w.heap.size t x y := by
  refine ⟨by simp, ?_, ?_, fun i => by simp, ⟨_, heap_alloc_new w _⟩⟩ <;> (rw [World.cell?_alloc_mark]; rfl)
theorem kind_put {w : World} {p : Nat} {t : TypeId} (h : ∃ cs, w.heap[p]? = some (.cells cs t)) (o : Nat) (u : Value) : ∃ cs, (w.setCell ⟨p, o, none⟩ u).heap[p]? = some (.cells cs t) := by
  obtain ⟨cs, hk⟩ := h
  refine ⟨cs.setIfInBounds o u, ?_⟩
  obtain ⟨hp, hk2⟩ := Array.getElem?_eq_some_iff.1 hk
  simp only [World.setCell]
  rw [Array.getElem?_eq_getElem (by simpa using hp), Array.getElem_modify, hk2]
  simp
theorem te_set {w : World} {p o : Nat} {t : TypeId} {V : Value} {l : List (Int × Int)} (h : TE TBr w V l) (hp : ∃ cs, w.heap[p]? = some (.cells cs t)) (hne : t ≠ 85) (u : Value) : TE TBr (w.setCell ⟨p, o, none⟩ u) V l := by
  obtain ⟨B, S, ⟨h1, h2⟩, h3⟩ := h
  refine ⟨B, S, ⟨h1, ?_⟩, h3⟩
  rcases h2 with h2 | ⟨g, cap, cur, hv, hg, hh, r⟩
  · exact .inl h2
  · refine .inr ⟨g, cap, cur, hv, hg, ?_, r⟩
    have hgp : g ≠ p := fun e => by
      subst e
      obtain ⟨cs, hk⟩ := hp
      rw [hk] at hh
      injection hh with hh
      injection hh with _ hh
      exact hne hh
    rw [Below.heap_setCell _ _ _ _ hgp]; exact hh
set_option maxRecDepth 100000 in
set_option maxHeartbeats 2000000 in
theorem of_any (c : Int) (w : World) (hT : pt.Tabs w) (h0 : 0 ≤ c) (h1 : c ≤ 3) : Calls Tryd.prog 27 #[.int .i64 c] w fun e w' => ∃ X, e = .returned (.tuple #[.agg #[X, .int .i64 c], .bool true]) ∧ TE TBr w' X (tbl c) ∧ Below w.heap.size w w' := by
  have HT := Lib.hid hT
  have HTO := Lib.hid (fun w2 h2 => tof_any c w2 h2 h0 h1)
  have K0 := Lib.hid (k2_new w 56 (.slice none 0 0) (.int .i64 0))
  have B0 : Hid (Below w.heap.size w (w.alloc (.cells #[.slice none 0 0, .int .i64 0] 56))) := Lib.hid ((Below.refl _ _).alloc (Nat.le_refl _) _)
  clear hT h0 h1
  go_enter Tryd.func27, Tryd.ntmps27
  go_wp2_with (go_at_call 52; refine (HTO.out _ (HT.out.below B0.out)).mono ?_; rintro e1 w1 ⟨X, rfl, hx, hb1⟩; have q0 : w.heap.size < w1.heap.size := (by have := hb1.size; simp at this; omega); have B1 := Lib.hid (B0.out.trans (hb1.mono B0.out.size)); have K1 := Lib.hid (K0.out.below hb1 K0.out.lt); have X1 := Lib.hid hx; obtain ⟨_, z0, z1⟩ := f1_new w1 (.slice none 0 0) 27; have hst := (fun wx (a : Addr) m => run_store (P := Tryd.prog) (w := wx) (a := a) X m (TE.one hx)); have n0 : ¬ w1.heap.size = w.heap.size := (by omega); have n1 : ¬ w.heap.size = w1.heap.size := (by omega); obtain ⟨_, k0, k1, k2, _⟩ := K1.out; have hA : Below w1.heap.size w1 (w1.alloc (.cells #[X] 27)) := (Below.refl _ _).alloc (Nat.le_refl _) _; have X2 := Lib.hid (te_below hx hA); have B2 := Lib.hid (B1.out.trans (hA.mono B1.out.size)); have K2' := Lib.hid (K1.out.below hA K1.out.lt); obtain ⟨_, p0, p1, p2, _⟩ := K2'.out; clear hx hb1 hA)
  have k1' := kind_put K1.out.k 0 X
  have t2 := te_set (o := 1) (te_set (o := 0) X1.out K1.out.k (by decide) X) k1' (by decide) (.int .i64 c)
  have t3 := te_below t2 ((Below.refl _ _).alloc (Nat.le_refl _) (.cells #[X] 27))
  refine bodyPost_ret (v := .tuple #[.agg #[X, .int .i64 c], .bool true]) ?_ rfl ⟨X, rfl, t3, ((B1.out.setCell (p := ⟨w.heap.size, 0, none⟩) (Nat.le_refl _) _).setCell (p := ⟨w.heap.size, 1, none⟩) (Nat.le_refl _) _).alloc (by simp; omega) _⟩
  have lt2 : w.heap.size < ((w1.setCell ⟨w.heap.size, 0, none⟩ X).setCell ⟨w.heap.size, 1, none⟩ (.int .i64 c)).heap.size := by simpa using q0
  have hA := (Below.refl ((w1.setCell ⟨w.heap.size, 0, none⟩ X).setCell ⟨w.heap.size, 1, none⟩ (.int .i64 c)).heap.size _).alloc (Nat.le_refl _) (.cells #[X] 27)
  have r0 := hA.cell (p := ⟨w.heap.size, 0, none⟩) lt2
  have r1 := hA.cell (p := ⟨w.heap.size, 1, none⟩) lt2
  simp [results, Tryd.results27, go_sem, k0, k1, r0, r1]
set_option maxRecDepth 100000 in
set_option maxHeartbeats 2000000 in
theorem of_none (c : Int) (w : World) (h : c < 0 ∨ 3 < c) : Calls Tryd.prog 27 #[.int .i64 c] w fun e w' => e = .returned (.tuple #[.agg #[.slice none 0 0, .int .i64 0], .bool false]) ∧ Below w.heap.size w w' := by
  have HTO := Lib.hid (fun w2 => tof_none c w2 h)
  have K0 := Lib.hid (k2_new w 56 (.slice none 0 0) (.int .i64 0))
  have B0 : Hid (Below w.heap.size w (w.alloc (.cells #[.slice none 0 0, .int .i64 0] 56))) := Lib.hid ((Below.refl _ _).alloc (Nat.le_refl _) _)
  clear h
  go_enter Tryd.func27, Tryd.ntmps27
  go_wp2_with (go_at_call 52; refine (HTO.out _).mono ?_; rintro e1 w1 ⟨rfl, hb1⟩; have q0 : w.heap.size < w1.heap.size := (by have := hb1.size; simp at this; omega); have B1 := Lib.hid (B0.out.trans (hb1.mono B0.out.size)); have K1 := Lib.hid (K0.out.below hb1 K0.out.lt); obtain ⟨_, z0, z1⟩ := f1_new w1 (.slice none 0 0) 27; have n0 : ¬ w1.heap.size = w.heap.size := (by omega); have n1 : ¬ w.heap.size = w1.heap.size := (by omega); obtain ⟨_, k0, k1, k2, _⟩ := K1.out; have hA : Below w1.heap.size w1 (w1.alloc (.cells #[.slice none 0 0] 27)) := (Below.refl _ _).alloc (Nat.le_refl _) _; have B2 := Lib.hid (B1.out.trans (hA.mono B1.out.size)); have K2' := Lib.hid (K1.out.below hA K1.out.lt); obtain ⟨_, p0, p1, p2, _⟩ := K2'.out; clear hb1 hA)
  refine bodyPost_ret (v := .tuple #[.agg #[.slice none 0 0, .int .i64 0], .bool false]) ?_ rfl ⟨rfl, ((B1.out.setCell (p := ⟨w.heap.size, 0, none⟩) (Nat.le_refl _) _).setCell (p := ⟨w.heap.size, 1, none⟩) (Nat.le_refl _) _).alloc (by simp; omega) _⟩
  have lt2 : w.heap.size < ((w1.setCell ⟨w.heap.size, 0, none⟩ (.slice none 0 0)).setCell ⟨w.heap.size, 1, none⟩ (.int .i64 0)).heap.size := by simpa using q0
  have hA := (Below.refl ((w1.setCell ⟨w.heap.size, 0, none⟩ (.slice none 0 0)).setCell ⟨w.heap.size, 1, none⟩ (.int .i64 0)).heap.size _).alloc (Nat.le_refl _) (.cells #[.slice none 0 0] 27)
  have r0 := hA.cell (p := ⟨w.heap.size, 0, none⟩) lt2
  have r1 := hA.cell (p := ⟨w.heap.size, 1, none⟩) lt2
  simp [results, Tryd.results27, go_sem, k0, k1, r0, r1]
end Go.Proofs.YtiokdeomdeenbaaDoor.sg
