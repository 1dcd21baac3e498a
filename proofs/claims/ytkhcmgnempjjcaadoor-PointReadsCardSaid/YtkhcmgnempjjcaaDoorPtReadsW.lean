/- The walk of the law PointReads of layer 2. -/
import Derived.Test.YtkhcmgnempjjcaaDoorPt12
import Derived.Deep.RegionHeld3
import Derived.Deep.DeepCutAuto
namespace Go.Proofs.YtkhcmgnempjjcaaDoor
open Go.RowKit Go.Lib
set_option linter.unusedVariables false
theorem fault_none (w : World) : Calls Tryd.prog 20 #[.int .i64 (-1)] w fun x w' => x = .returned (.agg #[.int .i64 0, .int .i64 0]) ∧ Below w.heap.size w w' := fault_any (-1) w
theorem fault_at (A : Nat) (w : World) : Calls Tryd.prog 20 #[.int .i64 A] w fun x w' => x = .returned (.agg #[.int .i64 2, .int .i64 A]) ∧ Below w.heap.size w w' := by
  have h := fault_any (A : Int) w
  rwa [if_neg (by omega), if_neg (by omega)] at h
set_option maxRecDepth 100000 in
theorem reads_big (s : ByteArray) (w : World) (hbig : 2000 < s.size) (hs : s.size ≤ 9223372036854775807) (hT : Tabs w) : Calls Tryd.prog 5 #[.string s] w fun e w' => e = .returned (.bool true) ∧ Below w.heap.size w w' := by
  have HA := Lib.hid (awake_any w hT)
  clear hT
  go_enter Tryd.func5, Tryd.ntmps5
  go_wp2_with (go_at_call 11; refine HA.out.mono ?_; rintro e1 w1 ⟨rfl, hb1⟩)
  go_ret
  exact ⟨rfl, hb1⟩
/-- What holds while the law compares. -/
structure Gt (w : World) (b : Nat) (q q2 : Option Addr) (n d d2 : Nat) (zs : List Int) (x y : Int) (W : World) : Prop where
  r1 : RowI W q n d zs
  r2 : RowI W q2 n d2 zs
  t : Tabs W
  f : F2 W b x y
  bel : Below w.heap.size w W
theorem Gt.below {w : World} {b : Nat} {q q2 : Option Addr} {n d d2 : Nat} {zs : List Int} {x y : Int} {W W' : World} (h : Gt w b q q2 n d d2 zs x y W) (hb : Below W.heap.size W W') : Gt w b q q2 n d d2 zs x y W' :=
  ⟨h.r1.below hb, h.r2.below hb, h.t.below hb, h.f.below hb h.f.lt, h.bel.trans (hb.mono h.bel.size)⟩
set_option maxRecDepth 100000 in
set_option maxHeartbeats 1000000 in
theorem reads_none (s : ByteArray) (w : World) (hs : s.size ≤ 2000) (hT : Tabs w) (h : (scan s).2 = none) : Calls Tryd.prog 5 #[.string s] w fun e w' => e = .returned (.bool true) ∧ Below w.heap.size w w' := by
  have HPo := Lib.hid (fun w2 hT2 => points_row s _ w2 (by omega) hT2 h rfl)
  have HRe := Lib.hid (fun w2 => refPoints_row s _ w2 (by omega) h rfl)
  have hck := fun w2 hT2 => check_any s w2 (by omega) hT2
  have hva := fun w2 hT2 => valid_any s w2 (by omega) hT2
  have hco := fun w2 hT2 => count_any s w2 (by omega) hT2
  rw [h] at hck hva
  have hco' : ∀ w2, Tabs w2 → Calls Tryd.prog 17 #[.string s] w2 fun x w' => x = .returned (.int .i64 ((zsOf s).length : Int)) ∧ Below w2.heap.size w2 w' := fun w2 hT2 => by
    have := hco w2 hT2
    rw [h] at this
    rw [zsOf_len]; exact this
  have htx : ∀ w2 p n c, RowI w2 p n c (zsOf s) → n ≤ 4000 → Calls Tryd.prog 8 #[.slice p n c] w2 fun e w' => e = .returned (.tuple #[.string s, .bool true]) ∧ Below w2.heap.size w2 w' := fun w2 p n c hr hn => by
    have := text_row p n c _ w2 hr hn
    rw [zsOf_valid, if_pos rfl, txt_back s h] at this
    exact this
  have hln : (zsOf s).length ≤ 2000 := by
    have := sc_len s s.size 0
    rw [zsOf_len]; unfold scan; omega
  simp only [fe, fa, Option.isNone_none] at hck hva
  obtain ⟨zs, hzs⟩ : ∃ zs, zs = zsOf s := ⟨_, rfl⟩
  rw [← hzs] at HPo HRe hco' htx hln
  have HCK := Lib.hid hck; have HVA := Lib.hid hva; have HCO := Lib.hid hco'; have HTX := Lib.hid htx; have HT := Lib.hid hT
  clear hck hva hco hco' htx hT h hzs
  go_enter Tryd.func5, Tryd.ntmps5
  go_wp2_with (first
    | (go_at_call 13; refine (HPo.out _ HT.out).mono ?_; rintro e1 w1 ⟨q, d, rfl, hr1, hb1⟩; have B1 := Lib.hid hb1; have R1 := Lib.hid hr1; clear hb1 hr1)
    | (go_at_call 19; refine (HRe.out _).mono ?_; rintro e2 w2 ⟨q2, d2, rfl, hr2, hb2⟩))
  have q1 : w1.heap.size < w2.heap.size := by have := hb2.size; simp at this; omega
  have G2 : Hid (Gt w w1.heap.size q q2 zs.length d d2 zs 0 0 w2.drew) := by
    have hA : Below w1.heap.size w1 (w1.alloc (.cells #[.int .i64 0, .int .i64 0] 30)) := (Below.refl _ _).alloc (Nat.le_refl _) _
    have hB := hA.trans (hb2.mono hA.size)
    have hD : Below w2.heap.size w2 w2.drew := (Below.refl _ _).drew
    have hW : Below w.heap.size w w2 := B1.out.trans (hB.mono B1.out.size)
    exact Lib.hid ⟨(R1.out.below hB).below hD, hr2.below hD, HT.out.below hW.drew, (((f2_new w1 0 0 30).below hb2 (by simp)).below hD q1), hW.drew⟩
  obtain ⟨_, c0, c1, _, _⟩ := ((f2_new w1 0 0 30).below hb2 (by simp))
  clear hr2 hb2 R1 B1
  obtain ⟨X, hX⟩ : ∃ X, X = w1.heap.size := ⟨_, rfl⟩
  rw [← hX] at c0 c1 G2 q1 ⊢
  clear hX
  go_region_held3 (fun w' => w'.cell? ⟨X, 0, none⟩ = some (.int .i64 0) ∧ w'.cell? ⟨X, 1, none⟩ = some (.int .i64 0)) (go_keep) (first
    | (go_at_call 15; refine (same_any _ _ _ _ _ _ _ G2.out.r1 G2.out.r2 (by omega)).mono ?_; rintro e3 w3 ⟨rfl, hb3⟩; have G3 := Lib.hid (G2.out.below hb3); obtain ⟨_, k0, k1, _, _⟩ := G3.out.f)
    | (go_at_call 20; refine (fault_none _).mono ?_; rintro e4 w4 ⟨rfl, hb4⟩; have G4 := Lib.hid (G3.out.below hb4); obtain ⟨_, k0, k1, _, _⟩ := G4.out.f)
    | (go_at_call 21; refine (HCK.out _ G4.out.t).mono ?_; rintro e5 w5 ⟨rfl, hb5⟩; have G5 := Lib.hid (G4.out.below hb5); obtain ⟨_, k0, k1, _, _⟩ := G5.out.f)
    | (go_at_call 18; refine (HVA.out _ G5.out.t).mono ?_; rintro e6 w6 ⟨rfl, hb6⟩; have G6 := Lib.hid (G5.out.below hb6); obtain ⟨_, k0, k1, _, _⟩ := G6.out.f)
    | (go_at_call 17; refine (HCO.out _ G6.out.t).mono ?_; rintro e7 w7 ⟨rfl, hb7⟩; have G7 := Lib.hid (G6.out.below hb7); obtain ⟨_, k0, k1, _, _⟩ := G7.out.f))
  all_goals go_wp2_with (first | (go_at_call 8; refine (HTX.out _ _ _ _ G7.out.r1 (by omega)).mono ?_; rintro e8 w8 ⟨rfl, hb8⟩; have G8 := Lib.hid (G7.out.below hb8)) | (go_at_call 11; refine (awake_any _ G8.out.t).mono ?_; rintro e9 w9 ⟨rfl, hb9⟩; have G9 := Lib.hid (G8.out.below hb9)))
  all_goals
    go_ret
    exact ⟨rfl, G9.out.bel⟩
set_option maxRecDepth 100000 in
set_option maxHeartbeats 1000000 in
theorem reads_bad (s : ByteArray) (A : Nat) (w : World) (hs : s.size ≤ 2000) (hT : Tabs w) (h : (scan s).2 = some A) (hA : A ≤ 2000) : Calls Tryd.prog 5 #[.string s] w fun e w' => e = .returned (.bool true) ∧ Below w.heap.size w w' := by
  have HPo := Lib.hid (fun w2 hT2 => points_bad s A w2 (by omega) hT2 h)
  have HRe := Lib.hid (fun w2 => refPoints_none s A w2 (by omega) h)
  have hck := fun w2 hT2 => check_any s w2 (by omega) hT2
  have hva := fun w2 hT2 => valid_any s w2 (by omega) hT2
  have hco := fun w2 hT2 => count_any s w2 (by omega) hT2
  rw [h] at hck hva hco
  simp only [fe, fa, Option.isNone_some, Bool.false_eq_true, if_false] at hck hva hco
  have HCK := Lib.hid hck; have HVA := Lib.hid hva; have HCO := Lib.hid hco; have HT := Lib.hid hT
  clear hck hva hco hT h
  go_enter Tryd.func5, Tryd.ntmps5
  go_wp2_with (first
    | (go_at_call 13; refine (HPo.out _ HT.out).mono ?_; rintro e1 w1 ⟨rfl, hb1⟩; have B1 := Lib.hid hb1; clear hb1)
    | (go_at_call 19; refine (HRe.out _).mono ?_; rintro e2 w2 ⟨rfl, hb2⟩))
  have q1 : w1.heap.size < w2.heap.size := by have := hb2.size; simp at this; omega
  have G2 : Hid (Gt w w1.heap.size none none 0 0 0 [] 2 A w2.drew) := by
    have hA : Below w1.heap.size w1 (w1.alloc (.cells #[.int .i64 2, .int .i64 A] 30)) := (Below.refl _ _).alloc (Nat.le_refl _) _
    have hB := hA.trans (hb2.mono hA.size)
    have hD : Below w2.heap.size w2 w2.drew := (Below.refl _ _).drew
    have hW : Below w.heap.size w w2 := B1.out.trans (hB.mono B1.out.size)
    exact Lib.hid ⟨.inl ⟨rfl, rfl, rfl, rfl⟩, .inl ⟨rfl, rfl, rfl, rfl⟩, HT.out.below hW.drew, (((f2_new w1 2 A 30).below hb2 (by simp)).below hD q1), hW.drew⟩
  obtain ⟨_, c0, c1, _, _⟩ := ((f2_new w1 2 A 30).below hb2 (by simp))
  clear hb2 B1
  obtain ⟨X, hX⟩ : ∃ X, X = w1.heap.size := ⟨_, rfl⟩
  rw [← hX] at c0 c1 G2 q1 ⊢
  clear hX
  go_region_held3 (fun w' => w'.cell? ⟨X, 0, none⟩ = some (.int .i64 2) ∧ w'.cell? ⟨X, 1, none⟩ = some (.int .i64 A)) (go_keep) (first
    | (go_at_call 15; refine (same_any _ _ _ _ _ _ _ G2.out.r1 G2.out.r2 (by omega)).mono ?_; rintro e3 w3 ⟨rfl, hb3⟩; have G3 := Lib.hid (G2.out.below hb3); obtain ⟨_, k0, k1, _, _⟩ := G3.out.f)
    | (go_at_call 20; refine (fault_at _ _).mono ?_; rintro e4 w4 ⟨rfl, hb4⟩; have G4 := Lib.hid (G3.out.below hb4); obtain ⟨_, k0, k1, _, _⟩ := G4.out.f)
    | (go_at_call 21; refine (HCK.out _ G4.out.t).mono ?_; rintro e5 w5 ⟨rfl, hb5⟩; have G5 := Lib.hid (G4.out.below hb5); obtain ⟨_, k0, k1, _, _⟩ := G5.out.f)
    | (go_at_call 18; refine (HVA.out _ G5.out.t).mono ?_; rintro e6 w6 ⟨rfl, hb6⟩; have G6 := Lib.hid (G5.out.below hb6); obtain ⟨_, k0, k1, _, _⟩ := G6.out.f)
    | (go_at_call 17; refine (HCO.out _ G6.out.t).mono ?_; rintro e7 w7 ⟨rfl, hb7⟩; have G7 := Lib.hid (G6.out.below hb7); obtain ⟨_, k0, k1, _, _⟩ := G7.out.f))
  all_goals go_wp2_with (go_at_call 11; refine (awake_any _ G7.out.t).mono ?_; rintro e9 w9 ⟨rfl, hb9⟩; have G9 := Lib.hid (G7.out.below hb9))
  all_goals
    go_ret
    exact ⟨rfl, G9.out.bel⟩
theorem sc_place (s : ByteArray) : ∀ f pos A, (sc s f pos).2 = some A → A < s.size
  | 0, pos, A, h => by simp [sc] at h
  | f + 1, pos, A, h => by
    by_cases hp : pos < s.size
    · cases hb : bad s pos with
      | true => simp [sc, hp, hb] at h; omega
      | false =>
        rw [sc_good s f pos hp hb] at h
        exact sc_place s f _ A h
    · rw [sc_end s (f + 1) pos hp] at h; cases h
theorem reads_walk (s : ByteArray) (w : World) (hs : s.size ≤ maxLen) (hT : Tabs w) : Calls Tryd.prog 5 #[.string s] w fun e w' => e = .returned (.bool true) ∧ Below w.heap.size w w' := by
  unfold maxLen at hs
  by_cases hbig : 2000 < s.size
  · exact reads_big s w hbig (by omega) hT
  · cases h : (scan s).2 with
    | none => exact reads_none s w (by omega) hT h
    | some A => exact reads_bad s A w (by omega) hT h (by have := sc_place s _ _ A h; omega)
end Go.Proofs.YtkhcmgnempjjcaaDoor
