/- The landed charsets of one byte a sign, as tables: contracts. -/
import Derived.Test.YtiokdeomdeenbaaDoorSg3
namespace Go.Proofs.YtiokdeomdeenbaaDoor.sg
open Go.RowKit Go.Lib
open Go.Proofs.YtiokdeomdeenbaaDoor.tb
set_option linter.unusedVariables false
/-- A block of four words. -/
structure G4 (w : World) (b : Nat) (x y z u : Value) : Prop where
  lt : b < w.heap.size
  c0 : w.cell? ⟨b, 0, none⟩ = some x
  c1 : w.cell? ⟨b, 1, none⟩ = some y
  c2 : w.cell? ⟨b, 2, none⟩ = some z
  c3 : w.cell? ⟨b, 3, none⟩ = some u
  fr : ∀ i, w.frozen? ⟨b, i, none⟩ = false
theorem G4.below {w w' : World} {b B : Nat} {x y z u : Value} (h : G4 w b x y z u) (hb : Below B w w') (hB : b < B) : G4 w' b x y z u :=
  ⟨Nat.lt_of_lt_of_le h.lt hb.size, (hb.cell (p := ⟨b, 0, none⟩) hB).trans h.c0, (hb.cell (p := ⟨b, 1, none⟩) hB).trans h.c1, (hb.cell (p := ⟨b, 2, none⟩) hB).trans h.c2, (hb.cell (p := ⟨b, 3, none⟩) hB).trans h.c3, fun i => (hb.frozen (p := ⟨b, i, none⟩) hB).trans (h.fr i)⟩
theorem g4_new (w : World) (x y z u : Value) (t : Nat) : G4 (w.alloc (.cells #[x, y, z, u] t)) w.heap.size x y z u := by
  refine ⟨by simp, ?_, ?_, ?_, ?_, fun i => by simp⟩ <;> (rw [World.cell?_alloc_mark]; rfl)
set_option maxRecDepth 100000 in
theorem plain_any (w : World) : Calls Tryd.prog 88 #[] w fun e w' => e = .returned (.agg #[.int .i64 0, .int .i32 0, .int .i64 128, .string ⟨#[]⟩]) ∧ Below w.heap.size w w' := by
  go_enter Tryd.func88, Tryd.ntmps88
  go_wp2_with (go_at_call 60; refine (seq_any _ _ _ _).mono ?_; rintro e1 w1 ⟨rfl, hb1⟩; have HB := Lib.hid (((Below.refl w.heap.size w).alloc (Nat.le_refl _) (.cells #[.int .i64 0, .int .i32 0, .int .i64 0, .string ⟨#[]⟩] 74)).trans (hb1.mono (by simp))); obtain ⟨_, g0, g1, g2, g3, g4⟩ := (g4_new w (.int .i64 0) (.int .i32 0) (.int .i64 0) (.string ⟨#[]⟩) 74).below hb1 (by simp); clear hb1)
  refine bodyPost_ret (v := .agg #[.int .i64 0, .int .i32 0, .int .i64 128, .string ⟨#[]⟩]) (by simp [results, Tryd.results88, go_sem, g0, g1, g2, g3]) rfl ⟨rfl, ?_⟩
  exact ((((HB.out.setCell (p := ⟨w.heap.size, 0, none⟩) (by simp) _).setCell (p := ⟨w.heap.size, 1, none⟩) (by simp) _).setCell (p := ⟨w.heap.size, 2, none⟩) (by simp) _).setCell (p := ⟨w.heap.size, 3, none⟩) (by simp) _)
/-- The cell of a result, while it isn't written. -/
structure Gs (w W : World) : Prop where
  f : Fr W w.heap.size (.slice none 0 0)
  b : Below w.heap.size w W
theorem Gs.new (w : World) : Gs w (w.alloc (.cells #[.slice none 0 0] 27)) := ⟨fr_new w _, (Below.refl _ _).alloc (Nat.le_refl _) _⟩
theorem Gs.below {w W W' : World} (h : Gs w W) (hb : Below W.heap.size W W') : Gs w W' := ⟨h.f.below hb h.f.f.lt, h.b.trans (hb.mono h.b.size)⟩
theorem Gs.fin {w W : World} (h : Gs w W) {X : Value} {l : List (Int × Int)} (ht : TE TBr W X l) (u : Value) : TE TBr (W.setCell ⟨w.heap.size, 0, none⟩ u) X l ∧ Below w.heap.size w (W.setCell ⟨w.heap.size, 0, none⟩ u) ∧ (W.setCell ⟨w.heap.size, 0, none⟩ u).cell? ⟨w.heap.size, 0, none⟩ = some u :=
  ⟨te_put ht h.f u, h.b.setCell (p := ⟨w.heap.size, 0, none⟩) (Nat.le_refl _) _, (h.f.put' u).f.c0⟩
theorem okSeq (f t c : Int) (h : -9223372036854775808 ≤ f ∧ f ≤ 9223372036854775807 ∧ -2147483648 ≤ t ∧ t ≤ 2147483647 ∧ -9223372036854775808 ≤ c ∧ c ≤ 9223372036854775807) {s : ByteArray} (hs : s.size ≤ 2000) : (⟨f, t, c, s⟩ : Pce).ok :=
  ⟨h.1, h.2.1, h.2.2.1, h.2.2.2.1, h.2.2.2.2.1, h.2.2.2.2.2, by show s.size ≤ _; omega⟩
theorem lat_lit (W : World) (hW : pt.Tabs W) : Calls Tryd.prog 74 #[.slice (some ⟨W.heap.size, 0, none⟩) 1 1] (W.alloc (.cells #[.int .i64 0, .int .i32 0, .int .i64 256, .string ⟨#[]⟩] 74)) fun e w' => ∃ X, e = .returned (.agg #[X]) ∧ TE TBr w' X (tbl 0) ∧ Below W.heap.size W w' :=
  stable_lit [⟨0, 0, 256, ⟨#[]⟩⟩] (tbl 0) 1 W hW (by intro p hp; simp at hp; subst hp; exact okSeq _ _ _ (by decide) (by decide)) rfl (by decide) (by intro p hp; simp at hp; subst hp; decide) made_lat 74
theorem koi_lit (s : ByteArray) (hs : pt.scan s = (rusL, none)) (hz : s.size ≠ 0) (hz2 : s.size ≤ 2000) (W : World) (hW : pt.Tabs W) : Calls Tryd.prog 74 #[.slice (some ⟨W.heap.size, 0, none⟩) 2 2] (W.alloc (.cells #[.int .i64 0, .int .i32 0, .int .i64 128, .string ⟨#[]⟩, .int .i64 128, .int .i32 0, .int .i64 0, .string s] 74)) fun e w' => ∃ X, e = .returned (.agg #[X]) ∧ TE TBr w' X (tbl 1) ∧ Below W.heap.size W w' :=
  stable_lit [⟨0, 0, 128, ⟨#[]⟩⟩, ⟨128, 0, 0, s⟩] (tbl 1) 2 W hW (by intro p hp; simp at hp; rcases hp with rfl | rfl; exact okSeq _ _ _ (by decide) (by decide); exact okSeq _ _ _ (by decide) hz2) rfl (by decide) (by intro p hp; simp at hp; rcases hp with rfl | rfl; decide; (show s.size ≤ _); omega) (made_koi hs hz) 74
theorem cp_lit (s u : ByteArray) (hs : pt.scan s = (fraL, none)) (hz : s.size ≠ 0) (hz2 : s.size ≤ 2000) (hu : pt.scan u = (othL, none)) (hv : u.size ≠ 0) (hv2 : u.size ≤ 2000) (W : World) (hW : pt.Tabs W) :
    Calls Tryd.prog 74 #[.slice (some ⟨W.heap.size, 0, none⟩) 5 5] (W.alloc (.cells #[.int .i64 0, .int .i32 0, .int .i64 128, .string ⟨#[]⟩, .int .i64 128, .int .i32 1040, .int .i64 48, .string ⟨#[]⟩, .int .i64 176, .int .i32 0, .int .i64 0, .string s, .int .i64 224, .int .i32 1088, .int .i64 16, .string ⟨#[]⟩, .int .i64 240, .int .i32 0, .int .i64 0, .string u] 74)) fun e w' => ∃ X, e = .returned (.agg #[X]) ∧ TE TBr w' X (tbl 3) ∧ Below W.heap.size W w' :=
  stable_lit [⟨0, 0, 128, ⟨#[]⟩⟩, ⟨128, 1040, 48, ⟨#[]⟩⟩, ⟨176, 0, 0, s⟩, ⟨224, 1088, 16, ⟨#[]⟩⟩, ⟨240, 0, 0, u⟩] (tbl 3) 5 W hW (by intro p hp; simp at hp; rcases hp with rfl | rfl | rfl | rfl | rfl; exact okSeq _ _ _ (by decide) (by decide); exact okSeq _ _ _ (by decide) (by decide); exact okSeq _ _ _ (by decide) hz2; exact okSeq _ _ _ (by decide) (by decide); exact okSeq _ _ _ (by decide) hv2) rfl (by decide)
    (by intro p hp; simp at hp; rcases hp with rfl | rfl | rfl | rfl | rfl; decide; decide; (show s.size ≤ _); omega; decide; (show u.size ≤ _); omega) (made_cp hs hz hu hv) 74
theorem ukr_lit (W : World) (hW : pt.Tabs W) :
    Calls Tryd.prog 74 #[.slice (some ⟨W.heap.size, 0, none⟩) 6 6] (W.alloc (.cells #[.int .i64 164, .int .i32 0, .int .i64 0, .string ⟨#[209, 148]⟩, .int .i64 166, .int .i32 0, .int .i64 0, .string ⟨#[209, 150, 209, 151]⟩, .int .i64 173, .int .i32 0, .int .i64 0, .string ⟨#[210, 145]⟩, .int .i64 180, .int .i32 0, .int .i64 0, .string ⟨#[208, 132]⟩, .int .i64 182, .int .i32 0, .int .i64 0, .string ⟨#[208, 134, 208, 135]⟩, .int .i64 189, .int .i32 0, .int .i64 0, .string ⟨#[210, 144]⟩] 74)) fun e w' => ∃ X, e = .returned (.agg #[X]) ∧ TE TBr w' X ukr ∧ Below W.heap.size W w' :=
  stable_lit pUkr ukr 6 W hW (by intro p hp; simp [pUkr] at hp; rcases hp with rfl | rfl | rfl | rfl | rfl | rfl <;> exact okSeq _ _ _ (by decide) (by decide)) rfl (by decide) (by intro p hp; simp [pUkr] at hp; rcases hp with rfl | rfl | rfl | rfl | rfl | rfl <;> decide) made_ukr 74
set_option maxRecDepth 100000 in
set_option maxHeartbeats 2000000 in
theorem koi_any (w : World) (hT : pt.Tabs w) : Calls Tryd.prog 75 #[] w fun e w' => ∃ X, e = .returned (.agg #[X]) ∧ TE TBr w' X (tbl 1) ∧ Below w.heap.size w w' := by
  have HT := Lib.hid hT
  have G0 := Lib.hid (Gs.new w)
  have HTB := Lib.hid koi_lit
  clear hT
  go_enter Tryd.func75, Tryd.ntmps75
  go_wp2_with (first
    | (go_at_call 88; refine (plain_any _).mono ?_; rintro e1 w1 ⟨rfl, hb1⟩; have G1 := Lib.hid (G0.out.below hb1); clear hb1)
    | (go_at_call 61; refine (list_any _ _ _).mono ?_; rintro e2 w2 ⟨rfl, hb2⟩; have G2 := Lib.hid (G1.out.below hb2); clear hb2)
    | (go_at_call 74; refine (HTB.out _ (by decide +kernel) (by decide +kernel) (by decide +kernel) _ (HT.out.below G2.out.b)).mono ?_; rintro e3 w3 ⟨X, rfl, hx, hb3⟩; have G3 := Lib.hid (G2.out.below hb3); have X3 := Lib.hid hx; have hst := (fun wx (a : Addr) m => run_store (P := Tryd.prog) (w := wx) (a := a) X m (TE.one hx)); obtain ⟨⟨_, z0, z1⟩, _⟩ := G3.out.f; clear hx hb3))
  obtain ⟨t1, t2, t3⟩ := G3.out.fin X3.out X
  exact bodyPost_ret (v := .agg #[X]) (by simp [results, Tryd.results75, go_sem, t3]) rfl ⟨X, rfl, t1, t2⟩
set_option maxRecDepth 100000 in
set_option maxHeartbeats 2000000 in
theorem ukr_any (w : World) (hT : pt.Tabs w) : Calls Tryd.prog 76 #[] w fun e w' => ∃ X, e = .returned (.agg #[X]) ∧ TE TBr w' X ukr ∧ Below w.heap.size w w' := by
  have HT := Lib.hid hT
  have G0 := Lib.hid (Gs.new w)
  have HTB := Lib.hid ukr_lit
  clear hT
  go_enter Tryd.func76, Tryd.ntmps76
  go_wp2_with (first
    | (go_at_call 61; refine (list_any _ _ _).mono ?_; rintro e2 w2 ⟨rfl, hb2⟩; have G0 := Lib.hid (G0.out.below hb2); clear hb2)
    | (go_at_call 74; refine (HTB.out _ (HT.out.below G0.out.b)).mono ?_; rintro e3 w3 ⟨X, rfl, hx, hb3⟩; have G3 := Lib.hid (G0.out.below hb3); have X3 := Lib.hid hx; have hst := (fun wx (a : Addr) m => run_store (P := Tryd.prog) (w := wx) (a := a) X m (TE.one hx)); obtain ⟨⟨_, z0, z1⟩, _⟩ := G3.out.f; clear hx hb3))
  obtain ⟨t1, t2, t3⟩ := G3.out.fin X3.out X
  exact bodyPost_ret (v := .agg #[X]) (by simp [results, Tryd.results76, go_sem, t3]) rfl ⟨X, rfl, t1, t2⟩
set_option maxRecDepth 100000 in
set_option maxHeartbeats 2000000 in
theorem cp_any (w : World) (hT : pt.Tabs w) : Calls Tryd.prog 77 #[] w fun e w' => ∃ X, e = .returned (.agg #[X]) ∧ TE TBr w' X (tbl 3) ∧ Below w.heap.size w w' := by
  have HT := Lib.hid hT
  have G0 := Lib.hid (Gs.new w)
  have HTB := Lib.hid cp_lit
  clear hT
  go_enter Tryd.func77, Tryd.ntmps77
  go_wp2_with (first
    | (go_at_call 88; refine (plain_any _).mono ?_; rintro e1 w1 ⟨rfl, hb1⟩; have G0 := Lib.hid (G0.out.below hb1); clear hb1)
    | (go_at_call 60; refine (seq_any _ _ _ _).mono ?_; rintro e1 w1 ⟨rfl, hb1⟩; have G0 := Lib.hid (G0.out.below hb1); clear hb1)
    | (go_at_call 61; refine (list_any _ _ _).mono ?_; rintro e2 w2 ⟨rfl, hb2⟩; have G0 := Lib.hid (G0.out.below hb2); clear hb2)
    | (go_at_call 74; refine (HTB.out _ _ (by decide +kernel) (by decide +kernel) (by decide +kernel) (by decide +kernel) (by decide +kernel) (by decide +kernel) _ (HT.out.below G0.out.b)).mono ?_; rintro e3 w3 ⟨X, rfl, hx, hb3⟩; have G3 := Lib.hid (G0.out.below hb3); have X3 := Lib.hid hx; have hst := (fun wx (a : Addr) m => run_store (P := Tryd.prog) (w := wx) (a := a) X m (TE.one hx)); obtain ⟨⟨_, z0, z1⟩, _⟩ := G3.out.f; clear hx hb3))
  obtain ⟨t1, t2, t3⟩ := G3.out.fin X3.out X
  exact bodyPost_ret (v := .agg #[X]) (by simp [results, Tryd.results77, go_sem, t3]) rfl ⟨X, rfl, t1, t2⟩
end Go.Proofs.YtiokdeomdeenbaaDoor.sg
