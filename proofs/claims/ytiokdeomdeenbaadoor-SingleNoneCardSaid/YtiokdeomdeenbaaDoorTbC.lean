/- table of the laws of layer 4, from the answers of a table. -/
import Derived.Test.YtiokdeomdeenbaaDoorTb9
import Derived.Test.YtiokdeomdeenbaaDoorTbB
namespace Go.Proofs.YtiokdeomdeenbaaDoor.tb
open Go.RowKit Go.Lib
set_option linter.unusedVariables false
variable {K : World → Prop} {TB : World → Nat → Value → List (Int × Int) → Prop}
set_option maxRecDepth 100000 in
set_option maxHeartbeats 4000000 in
theorem table_any (T : Tab K TB) (A : Option Addr) (n c : Nat) (l : List Pce) (w : World) (h : RowC w A n c l) (hl : light l = true) (hK : K w) :
    Calls Tryd.prog 23 #[.slice A n c] w fun e w' => ∃ X, e = .returned (.agg #[X]) ∧ TE TB w' X ((made l).1.getD []) ∧ Below w.heap.size w w' := by
  have HN2 : Hid (∀ w2, K w2 → RowC w2 A n c l → Calls Tryd.prog 14 #[.slice A n c] w2 fun e w' => Below w2.heap.size w2 w' ∧ ∃ X e1 f1, e = .returned (.tuple #[.agg #[X], .agg #[.int .i64 e1, .int .i64 f1]]) ∧ TB w' w2.heap.size X ((made l).1.getD [])) := Lib.hid (fun w2 h1 h2 => (T.new w2 A n c l h1 h2 hl).mono fun e w' h => ⟨h.1, by
    rcases h.2 with ⟨Z, h3, h4, h5⟩ | ⟨X, r, h3, h4, h5⟩
    · exact ⟨Z, 5, _, h4, by rw [h3]; exact h5⟩
    · exact ⟨X, 0, 0, h4, by rw [h3]; exact h5⟩⟩)
  generalize (made l).1.getD [] = r at *
  have H := Lib.hid h; have HK := Lib.hid hK; have HT := Lib.hid T
  clear h hK T hl
  go_enter Tryd.func23, Tryd.ntmps23
  go_wp2_with (go_at_call 14; refine (HN2.out _ (HT.out.stay _ _ HK.out (by repeat (first | (with_reducible exact Below.refl _ _) | (with_reducible refine Below.setCell ?_ (by simp) _) | (with_reducible refine Below.alloc ?_ (by simp) _)))) (H.out.below (by repeat (first | (with_reducible exact Below.refl _ _) | (with_reducible refine Below.setCell ?_ (by simp) _) | (with_reducible refine Below.alloc ?_ (by simp) _))))).mono ?_; rintro e2 w2 ⟨hb2, X, e1, f1, rfl, ht2⟩; obtain ⟨_, z0, z1⟩ := (f1_new w2 (.slice none 0 0) 27).below ((Below.refl (w2.alloc (.cells #[.slice none 0 0] 27)).heap.size _).alloc (Nat.le_refl _) (.cells #[.int .i64 0, .int .i64 0] 30)) (by simp); have hst := fun wx (a : Addr) m => run_store (P := Tryd.prog) (w := wx) (a := a) X m (HT.out.one _ _ _ ⟨_, ht2⟩); have q0 : w.heap.size < w2.heap.size := (by have := hb2.size; simp at this; omega); have hw : Below w2.heap.size w2 (w2.alloc (.cells #[X] 27)) := (Below.refl _ _).alloc (Nat.le_refl _) _; have hw2 : Below (w2.alloc (.cells #[X] 27)).heap.size (w2.alloc (.cells #[X] 27)) ((w2.alloc (.cells #[X] 27)).alloc (.cells #[.int .i64 e1, .int .i64 f1] 30)) := (Below.refl _ _).alloc (Nat.le_refl _) _; have X1 := (f1_new w2 X 27).below hw2 (by simp); have Y0 := (f1_new w (.slice none 0 0) 27).below hb2 (by simp); have Y1 := (Y0.below hw q0).below hw2 (by simp; omega); have n0 : ¬ w.heap.size = w2.heap.size := (by omega); have n1 : ¬ w2.heap.size = w.heap.size := (by omega); have HB2 := Lib.hid hb2; have HT2 := Lib.hid ht2; obtain ⟨_, x0, x1⟩ := X1; obtain ⟨_, y0, y1⟩ := Y1; clear hw hw2 hb2 ht2)
  have e0 : (w.alloc (.cells #[.slice none 0 0] 27)).heap.size = w.heap.size + 1 := World.size_alloc _ _
  have hs : Same (w.heap.size + 1) w2 ((((w2.setCell ⟨w.heap.size, 0, none⟩ X).alloc (.cells #[X] 27)).alloc (.cells #[.int .i64 e1, .int .i64 f1] 30))) := by
    refine ⟨by simp; omega, fun k h1 h2 => ?_⟩
    rw [Below.heap_alloc _ _ _ (by simp; omega), Below.heap_alloc _ _ _ (by simp; omega), Below.heap_setCell _ _ _ _ (by show k ≠ w.heap.size; omega)]
  have hb : Below w.heap.size w ((((w2.setCell ⟨w.heap.size, 0, none⟩ X).alloc (.cells #[X] 27)).alloc (.cells #[.int .i64 e1, .int .i64 f1] 30))) := by
    have h1 : Below w.heap.size w w2 := ((Below.refl _ _).alloc (Nat.le_refl _) (.cells #[.slice none 0 0] 27)).trans (HB2.out.mono (by simp))
    exact ((h1.setCell (Nat.le_refl _) _).alloc (by simp; omega) _).alloc (by simp; omega) _
  have ht := HT2.out
  rw [e0] at ht
  have htb := HT.out.keep _ _ _ _ _ ht hs
  have hc : ((((w2.setCell ⟨w.heap.size, 0, none⟩ X).alloc (.cells #[X] 27)).alloc (.cells #[.int .i64 e1, .int .i64 f1] 30))).cell? ⟨w.heap.size, 0, none⟩ = some X := by
    have h1 : (w2.setCell ⟨w.heap.size, 0, none⟩ X).cell? ⟨w.heap.size, 0, none⟩ = some X := World.cell?_setCell_same _ _ _ Y0.c0
    have h2 : Below (w2.setCell ⟨w.heap.size, 0, none⟩ X).heap.size (w2.setCell ⟨w.heap.size, 0, none⟩ X) ((w2.setCell ⟨w.heap.size, 0, none⟩ X).alloc (.cells #[X] 27)) := (Below.refl _ _).alloc (Nat.le_refl _) _
    have h3 := ((Below.refl ((w2.setCell ⟨w.heap.size, 0, none⟩ X).alloc (.cells #[X] 27)).heap.size _).alloc (Nat.le_refl _) (.cells #[.int .i64 e1, .int .i64 f1] 30)).cell (p := ⟨w.heap.size, 0, none⟩) (by simp; omega)
    exact h3.trans ((h2.cell (p := ⟨w.heap.size, 0, none⟩) (by simp; omega)).trans h1)
  refine bodyPost_ret (v := .agg #[X]) ?_ rfl ⟨X, rfl, ⟨_, htb⟩, hb⟩
  simp [results, Tryd.results23, go_sem, hc]
end Go.Proofs.YtiokdeomdeenbaaDoor.tb
