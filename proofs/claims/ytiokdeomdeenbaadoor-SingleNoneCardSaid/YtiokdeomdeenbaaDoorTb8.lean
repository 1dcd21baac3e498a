/- A table of one word, whatever it holds: Is of the laws of layer 4, from contracts of Pairs and Size. -/
import Derived.Test.YtiokdeomdeenbaaDoorTb6
namespace Go.Proofs.YtiokdeomdeenbaaDoor.tb
open Go.RowKit Go.Lib
set_option linter.unusedVariables false
/-- A block of one word. -/
structure F1 (w : World) (b : Nat) (X : Value) : Prop where
  lt : b < w.heap.size
  c0 : w.cell? ⟨b, 0, none⟩ = some X
  f0 : w.frozen? ⟨b, 0, none⟩ = false
theorem F1.below {w w' : World} {b B : Nat} {X : Value} (h : F1 w b X) (hb : Below B w w') (hB : b < B) : F1 w' b X :=
  ⟨Nat.lt_of_lt_of_le h.lt hb.size, (hb.cell (p := ⟨b, 0, none⟩) hB).trans h.c0, (hb.frozen (p := ⟨b, 0, none⟩) hB).trans h.f0⟩
theorem f1_new (w : World) (X : Value) (t : Nat) : F1 (w.alloc (.cells #[X] t)) w.heap.size X := by
  refine ⟨by simp, ?_, ?_⟩
  · rw [World.cell?_alloc_mark]; rfl
  · simp
/-- What a table, held in a word, is for its callers. -/
structure TabC (G : World → Prop) (X : Value) (l : List (Int × Int)) : Prop where
  keep : ∀ w w', G w → Below w.heap.size w w' → G w'
  pairs : ∀ w, G w → Calls Tryd.prog 26 #[.agg #[X]] w fun e w' => ∃ A c, e = .returned (.slice A l.length c) ∧ RowP w' A l.length c l ∧ Below w.heap.size w w'
  size : ∀ w, G w → Calls Tryd.prog 16 #[.agg #[X]] w fun e w' => e = .returned (.int .i64 l.length) ∧ Below w.heap.size w w'
set_option maxRecDepth 100000 in
set_option maxHeartbeats 4000000 in
theorem is_true (G : World → Prop) (X : Value) (l : List (Int × Int)) (T : TabC G X l) (A : Option Addr) (n c : Nat) (w : World) (hg : G w) (h : RowP w A n c l) (hn : n ≤ 100000) :
    Calls Tryd.prog 18 #[.agg #[X], .slice A n c] w fun e w' => e = .returned (.bool true) ∧ Below w.heap.size w w' := by
  have hl := h.len
  have HP := Lib.hid T.pairs; have HS := Lib.hid T.size; have HK := Lib.hid T.keep
  rw [hl] at HP HS
  have HG := Lib.hid hg; have H := Lib.hid h; have HL := Lib.hid hl
  clear T hg h hl
  go_enter Tryd.func18, Tryd.ntmps18
  go_wp2_with (first | (go_at_call 26; refine (HP.out _ (HK.out _ _ HG.out (by repeat (first | (with_reducible exact Below.refl _ _) | (with_reducible refine Below.setCell ?_ (by simp) _) | (with_reducible refine Below.alloc ?_ (by simp) _))))).mono ?_; rintro e1 w1 ⟨A1, c1, rfl, hr1, hb1⟩; have q1 : w.heap.size < w1.heap.size := (by have := hb1.size; simp at this; omega); have FB := Lib.hid ((f1_new w X 27).below hb1 (by simp)); have B1 := Lib.hid (((Below.refl w.heap.size w).alloc (Nat.le_refl _) (.cells #[X] 27)).trans (hb1.mono (by simp))); have HR1 := Lib.hid hr1; obtain ⟨_, b0, _⟩ := FB.out; clear hr1 hb1) | (go_at_call 16; refine (HS.out _ (HK.out _ _ HG.out B1.out)).mono ?_; rintro e2 w2 ⟨rfl, hb2⟩; have B2 := Lib.hid (B1.out.trans (hb2.mono (Nat.le_of_lt q1))); have HR2 := Lib.hid (HR1.out.below hb2); clear hb2))
  go_loopw [24] (fun i wr => ∃ j : Nat, j ≤ n ∧ i = .int .i64 j ∧ RowP wr A n c l ∧ RowP wr A1 n c1 l ∧ Below w.heap.size w wr) (fun i _ => n - (RowKit.intOf i).toNat)
  case atStart => exact ⟨0, Nat.zero_le _, rfl, H.out.below B2.out, HR2.out, B2.out⟩
  case round =>
    obtain ⟨j, hj, rfl, hr, hs, hB⟩ := hrel
    have HA := Lib.hid hr; have HC := Lib.hid hs; have HB := Lib.hid hB
    clear hr hs hB
    by_cases hlt : j < n
    · obtain ⟨a, rfl, a1, a2, k0, k1⟩ := HA.out.at j hlt
      obtain ⟨a', rfl, a3, a4, m0, m1⟩ := HC.out.at j hlt
      unfold maxLen at a2 a4
      generalize l.getD j (0, 0) = q at *
      obtain ⟨x, p⟩ := q
      simp only at k0 k1 m0 m1
      have k2 : wr.cell? ⟨(a.add (j * 2)).block, (a.add (j * 2)).off + 1, none⟩ = some (.int .i32 p) := by rw [← k1]; rfl
      have m2 : wr.cell? ⟨(a'.add (j * 2)).block, (a'.add (j * 2)).off + 1, none⟩ = some (.int .i32 p) := by rw [← m1]; rfl
      have b1 : (a.add (j * 2)).block < wr.heap.size := World.block_lt_of_cell? wr _ k0
      have hs0 : ∀ o, (wr.alloc (.cells #[.int .i64 x, .int .i32 p] 53)).cell? ⟨(a.add (j * 2)).block, o, none⟩ = wr.cell? ⟨(a.add (j * 2)).block, o, none⟩ := fun o => ((Below.refl wr.heap.size wr).alloc (Nat.le_refl _) _).cell (p := ⟨(a.add (j * 2)).block, o, none⟩) b1
      have hs1 : (wr.alloc (.cells #[.int .i64 x, .int .i32 p] 53)).cell? (a.add (j * 2)) = wr.cell? (a.add (j * 2)) := ((Below.refl wr.heap.size wr).alloc (Nat.le_refl _) _).cell b1
      clear k1 m1
      go_wp2_with fail
      go_region_held3 (fun w' => w'.cell? ⟨wr.heap.size, 0, none⟩ = some (.int .i64 x) ∧ w'.cell? ⟨wr.heap.size, 1, none⟩ = some (.int .i32 p) ∧ w'.cell? (a.add (j * 2)) = some (.int .i64 x) ∧ w'.cell? ⟨(a.add (j * 2)).block, (a.add (j * 2)).off + 1, none⟩ = some (.int .i32 p)) (go_keep) (fail)
      all_goals go_wp2_with fail
      go_roundw
      case rel =>
        have hX : Below wr.heap.size wr (wr.alloc (.cells #[.int .i64 x, .int .i32 p] 53)).drew := ((Below.refl _ _).alloc (Nat.le_refl _) _).drew
        exact ⟨j + 1, by omega, by go_num, HA.out.below hX, HC.out.below hX, HB.out.trans (hX.mono HB.out.size)⟩
      case measure => simp [RowKit.intOf]; omega
    · go_wp2_with fail
      go_ret
      exact ⟨rfl, HB.out⟩
end Go.Proofs.YtiokdeomdeenbaaDoor.tb
