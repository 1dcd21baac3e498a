/- Several texts in one. -/
import Derived.Test.YtbgbgigpcegenaaGreatDoorChG
import Derived.Test.YtbgbgigpcegenaaGreatDoorZ38
namespace Go.Proofs.YtbgbgigpcegenaaGreatDoor.ch
open Go.RowKit Go.Lib
set_option linter.unusedVariables false
theorem none_any (w : World) : Calls Tryz.prog 21 #[] w fun e w' => e = .returned (.agg #[.int .i64 5, .int .i64 0]) ∧ Below w.heap.size w w' := by
  go_enter Tryz.func21, Tryz.ntmps21
  go_wp2
  exact bodyPost_ret (v := .agg #[.int .i64 5, .int .i64 0]) (by simp [results, Tryz.results21, go_sem]) rfl ⟨rfl, by repeat (first | (with_reducible exact Below.refl _ _) | (with_reducible refine Below.setCell ?_ (by simp) _) | (with_reducible refine Below.alloc ?_ (by simp) _))⟩
theorem f2_low {w W : World} {x y : Int} {t : TypeId} (hb : Below (w.heap.size + 1) (w.alloc (.cells #[.int .i64 x, .int .i64 y] t)) W) : pt.F2 W w.heap.size x y ∧ Below w.heap.size w W :=
  ⟨(pt.f2_new w x y t).below hb (by omega), ((Below.refl w.heap.size w).alloc (Nat.le_refl _) _).trans (hb.mono (by omega))⟩
set_option maxRecDepth 100000 in
set_option maxHeartbeats 2000000 in
theorem signs_good (t : ByteArray) (w : World) (hT : pt.Tabs w) (ht : t.size ≤ 4000) (h : (pt.scan t).2 = none) : Calls Tryz.prog 18 #[.string t] w fun e w' => e = .returned (.tuple #[.string t, .agg #[.int .i64 0, .int .i64 0]]) ∧ Below w.heap.size w w' := by
  have hA : Below w.heap.size w (w.alloc (.cells #[.int .i64 0, .int .i64 0] 32)) := (Below.refl _ _).alloc (Nat.le_refl _) _
  have hc := pt.check_any t (w.alloc (.cells #[.int .i64 0, .int .i64 0] 32)) (by omega) (hT.below hA)
  rw [h, World.size_alloc] at hc
  have HC : Hid (Calls Tryz.prog 43 #[.string t] (w.alloc (.cells #[.int .i64 0, .int .i64 0] 32)) fun e w' => e = .returned (.agg #[.int .i64 0, .int .i64 0]) ∧ Below (w.heap.size + 1) (w.alloc (.cells #[.int .i64 0, .int .i64 0] 32)) w') := Lib.hid hc
  have HBD : Hid (∀ W, Calls Tryz.prog 11 #[.agg #[.int .i64 0, .int .i64 0]] W fun e w' => e = .returned (.bool false) ∧ Below W.heap.size W w') := Lib.hid (fun W => pt.bad_any W 0 0)
  clear hc hA h hT
  go_enter Tryz.func18, Tryz.ntmps18
  go_wp2_with (first
    | (go_at_call 43; refine HC.out.mono ?_; rintro e1 w1 ⟨rfl, hb1⟩; have hA : Below w1.heap.size w1 (w1.alloc (.cells #[.int .i64 0, .int .i64 0] 32)) := (Below.refl _ _).alloc (Nat.le_refl _) _; have Q1 := Lib.hid (f2_low hb1); have F1 := Lib.hid (Q1.out.1.below hA Q1.out.1.lt); have B1 := Lib.hid (Q1.out.2.trans (hA.mono Q1.out.2.size)); obtain ⟨_, z0, z1, z2, z3⟩ := pt.f2_new w1 0 0 32; clear hb1 hA)
    | (go_at_call 11; refine (HBD.out _).mono ?_; rintro e2 w2 ⟨rfl, hb2⟩; obtain ⟨_, c0, c1, f0, f1⟩ := F1.out.below hb2 F1.out.lt; have B2 := Lib.hid (B1.out.trans (hb2.mono B1.out.size)); clear hb2))
  have HB2 := B2.out
  exact bodyPost_ret (v := .tuple #[.string t, .agg #[.int .i64 0, .int .i64 0]]) (by simp [results, Tryz.results18, go_sem, c0, c1]) rfl ⟨rfl, by repeat (first | (with_reducible exact HB2) | (with_reducible exact Below.refl _ _) | (with_reducible refine Below.setCell ?_ (by simp) _) | (with_reducible refine Below.alloc ?_ (by simp; omega) _))⟩
set_option maxRecDepth 100000 in
set_option maxHeartbeats 2000000 in
theorem signs_bad (t : ByteArray) (p : Nat) (w : World) (hT : pt.Tabs w) (ht : t.size ≤ 4000) (h : (pt.scan t).2 = some p) : Calls Tryz.prog 18 #[.string t] w fun e w' => e = .returned (.tuple #[.string ⟨#[]⟩, .agg #[.int .i64 2, .int .i64 (p : Int)]]) ∧ Below w.heap.size w w' := by
  have hA : Below w.heap.size w (w.alloc (.cells #[.int .i64 0, .int .i64 0] 32)) := (Below.refl _ _).alloc (Nat.le_refl _) _
  have hc := pt.check_any t (w.alloc (.cells #[.int .i64 0, .int .i64 0] 32)) (by omega) (hT.below hA)
  rw [h, World.size_alloc] at hc
  have HC : Hid (Calls Tryz.prog 43 #[.string t] (w.alloc (.cells #[.int .i64 0, .int .i64 0] 32)) fun e w' => e = .returned (.agg #[.int .i64 2, .int .i64 (p : Int)]) ∧ Below (w.heap.size + 1) (w.alloc (.cells #[.int .i64 0, .int .i64 0] 32)) w') := Lib.hid hc
  have HBD : Hid (∀ W, Calls Tryz.prog 11 #[.agg #[.int .i64 2, .int .i64 (p : Int)]] W fun e w' => e = .returned (.bool true) ∧ Below W.heap.size W w') := Lib.hid (fun W => pt.bad_any W 2 p)
  clear hc hA h hT
  generalize (p : Int) = PI at *
  go_enter Tryz.func18, Tryz.ntmps18
  go_wp2_with (first
    | (go_at_call 43; refine HC.out.mono ?_; rintro e1 w1 ⟨rfl, hb1⟩; have hA : Below w1.heap.size w1 (w1.alloc (.cells #[.int .i64 2, .int .i64 PI] 32)) := (Below.refl _ _).alloc (Nat.le_refl _) _; have Q1 := Lib.hid (f2_low hb1); have F1 := Lib.hid (Q1.out.1.below hA Q1.out.1.lt); have B1 := Lib.hid (Q1.out.2.trans (hA.mono Q1.out.2.size)); have hlt := Q1.out.1.lt; have G1 := Lib.hid (pt.f2_new w1 2 PI 32); obtain ⟨_, z0, z1, z2, z3⟩ := G1.out; clear hb1 hA)
    | (go_at_call 11; refine (HBD.out _).mono ?_; rintro e2 w2 ⟨rfl, hb2⟩; obtain ⟨_, c0, c1, f0, f1⟩ := F1.out.below hb2 F1.out.lt; obtain ⟨_, g0, g1, _, _⟩ := G1.out.below hb2 G1.out.lt; have B2 := Lib.hid (B1.out.trans (hb2.mono B1.out.size)); clear hb2))
  have n0 : ¬ w.heap.size = w1.heap.size := by omega
  have n1 : ¬ w1.heap.size = w.heap.size := by omega
  go_region_held3 (fun w' => w'.cell? ⟨w1.heap.size, 0, none⟩ = some (.int .i64 2) ∧ w'.cell? ⟨w1.heap.size, 1, none⟩ = some (.int .i64 PI)) (go_keep) (fail)
  all_goals go_wp2_with fail
  all_goals
    have HB2 := B2.out
    exact bodyPost_ret (v := .tuple #[.string ⟨#[]⟩, .agg #[.int .i64 2, .int .i64 PI]]) (by simp [results, Tryz.results18, go_sem, c0, c1]) rfl ⟨rfl, by refine Below.drew ?_; repeat (first | (with_reducible exact HB2) | (with_reducible exact Below.refl _ _) | (with_reducible refine Below.setCell ?_ (by simp) _) | (with_reducible refine Below.alloc ?_ (by simp; omega) _))⟩
theorem dz_7 (t : ByteArray) : dz 7 t = (pt.zsOf t, (pt.scan t).2) := by unfold dz; rw [if_neg (by omega), if_pos rfl]
theorem dz_8 (t : ByteArray) : dz 8 t = wd.wscan t false := by unfold dz; rw [if_neg (by omega), if_neg (by omega), if_pos (by omega)]; rfl
theorem dz_9 (t : ByteArray) : dz 9 t = wd.wscan t true := by unfold dz; rw [if_neg (by omega), if_neg (by omega), if_pos (by omega)]; rfl
theorem dz_3 {c : Int} (h : c ≤ 3) (t : ByteArray) : dz c t = (sg.sdec c t.data.toList, none) := by unfold dz; rw [if_pos h]
/-- What Decode answers, of what dz says. -/
theorem dc_of {c : Int} {s : ByteArray} (hc : inC c) : dcT c s = wd.wt (dz c s) ∧ dcE c s = pt.fe (dz c s).2 ∧ dcA c s = pt.fa (dz c s).2 := by
  cases h : (dz c s).2 with
  | none =>
    obtain ⟨e1, e2, e3⟩ := dok hc h
    refine ⟨?_, e2, e3⟩
    unfold wd.wt
    rw [h]; exact e1
  | some p =>
    obtain ⟨e1, e2, e3⟩ := dbad hc h
    refine ⟨?_, e2, e3⟩
    unfold wd.wt
    rw [h]; exact e1
set_option maxRecDepth 100000 in
set_option maxHeartbeats 4000000 in
theorem Decode_any (c : Int) (t : ByteArray) (w : World) (hK : K9 w) (ht : t.size ≤ 4000) :
    Calls Tryz.prog 9 #[.int .i64 c, .string t] w fun e w' => e = .returned (.tuple #[.string (dcT c t), .agg #[.int .i64 (dcE c t), .int .i64 (dcA c t)]]) ∧ Below w.heap.size w w' := by
  have hA : Below w.heap.size w (w.alloc (.cells #[.int .i64 0, .int .i64 0] 32)) := (Below.refl _ _).alloc (Nat.le_refl _) _
  have K1 := Lib.hid (hK.below hA)
  clear hA hK
  by_cases h3 : 0 ≤ c ∧ c ≤ 3
  · obtain ⟨h0, h3⟩ := h3
    have HOF := Lib.hid (fun w2 h2 => sg.of_any c w2 h2 h0 h3)
    have HD := Lib.hid (fun W X h => sg.decode_any c c X t W h0 h3 ht h)
    have hin : inC c := ⟨h0, by omega⟩
    have hz : (dz c t).2 = none := by rw [dz_3 h3]
    obtain ⟨e1, e2, e3⟩ := dok hin hz
    rw [dz_3 h3] at e1
    rw [e1, e2, e3]
    clear e1 e2 e3 hz hin
    generalize pt.txt (sg.sdec c t.data.toList) = T at *
    have n4 : ¬ c = 4 := by omega
    have n5 : ¬ c = 5 := by omega
    have n6 : ¬ c = 6 := by omega
    have n7 : ¬ c = 7 := by omega
    have n8 : ¬ c = 8 := by omega
    have n9 : ¬ c = 9 := by omega
    have m4 := beq_eq_false_iff_ne.2 n4; have m5 := beq_eq_false_iff_ne.2 n5; have m6 := beq_eq_false_iff_ne.2 n6; have m7 := beq_eq_false_iff_ne.2 n7; have m8 := beq_eq_false_iff_ne.2 n8; have m9 := beq_eq_false_iff_ne.2 n9
    go_enter Tryz.func9, Tryz.ntmps9
    go_wp2_with (first
      | (go_at_call 20; (with_reducible refine (HOF.out _ K1.out.t).mono ?_); rintro e1 w1 ⟨X, rfl, hx, hb1⟩; rw [World.size_alloc] at hb1; have hst := (fun wx (a : Addr) m => run_store (P := Tryz.prog) (w := wx) (a := a) X m (tb.TE.one hx)); have Q1 := Lib.hid (f2_low hb1); have hA : Below w1.heap.size w1 (w1.alloc (.cells #[X, .int .i64 c] 50)) := (Below.refl _ _).alloc (Nat.le_refl _) _; have F1 := Lib.hid (Q1.out.1.below hA Q1.out.1.lt); have LL := Lib.hid (sg.Lw.new (c := c) Q1.out.2 hx); obtain ⟨_, z0, z1, z2, _⟩ := sg.k2z w1; obtain ⟨⟨_, y0, y1, y2, _⟩, _, _⟩ := LL.out; have hlt := Q1.out.1.lt; clear hx hb1 hA)
      | (go_at_call 22; (with_reducible refine (HD.out _ X LL.out.t).mono ?_); rintro e2 w2 ⟨rfl, hb2⟩; have LL := Lib.hid (LL.out.below hb2); obtain ⟨_, c0, c1, f0, f1⟩ := F1.out.below hb2 F1.out.lt; clear hb2))
    have HB := LL.out.b
    exact bodyPost_ret (v := .tuple #[.string T, .agg #[.int .i64 0, .int .i64 0]]) (by simp [results, Tryz.results9, go_sem, c0, c1]) rfl ⟨rfl, by repeat (first | (with_reducible exact HB) | (with_reducible exact Below.refl _ _) | (with_reducible refine Below.setCell ?_ (by simp) _) | (with_reducible refine Below.alloc ?_ (by simp; omega) _))⟩
  by_cases h6 : c = 4 ∨ c = 5 ∨ c = 6
  · have HP := Lib.hid (fun W h => dpairs_any c t W h h6 ht)
    generalize dcT c t = T at *
    generalize dcE c t = E at *
    generalize dcA c t = A at *
    clear h3
    rcases h6 with rfl | rfl | rfl
    all_goals
      go_enter Tryz.func9, Tryz.ntmps9
      go_wp2_with (go_at_call 17; refine (HP.out _ K1.out).mono ?_; rintro e1 w1 ⟨rfl, hb1⟩; rw [World.size_alloc] at hb1; have Q1 := Lib.hid (f2_low hb1); obtain ⟨_, c0, c1, f0, f1⟩ := Q1.out.1; clear hb1)
      have HB := Q1.out.2
      exact bodyPost_ret (v := .tuple #[.string T, .agg #[.int .i64 E, .int .i64 A]]) (by simp [results, Tryz.results9, go_sem, c0, c1]) rfl ⟨rfl, by repeat (first | (with_reducible exact HB) | (with_reducible exact Below.refl _ _) | (with_reducible refine Below.setCell ?_ (by simp) _) | (with_reducible refine Below.alloc ?_ (by simp; omega) _))⟩
  by_cases h7 : c = 7
  · subst h7
    have hin : inC 7 := ⟨by omega, by omega⟩
    cases h : (pt.scan t).2 with
    | none =>
      have hz : (dz 7 t).2 = none := by rw [dz_7]; exact h
      obtain ⟨e1, e2, e3⟩ := dok hin hz
      rw [dz_7, pt.txt_back t h] at e1
      rw [e1, e2, e3]
      have HP := Lib.hid (fun W hW => signs_good t W hW ht h)
      clear e1 e2 e3 hz hin h h3 h6
      go_enter Tryz.func9, Tryz.ntmps9
      go_wp2_with (go_at_call 18; refine (HP.out _ K1.out.t).mono ?_; rintro e1 w1 ⟨rfl, hb1⟩; rw [World.size_alloc] at hb1; have Q1 := Lib.hid (f2_low hb1); obtain ⟨_, c0, c1, f0, f1⟩ := Q1.out.1; clear hb1)
      have HB := Q1.out.2
      exact bodyPost_ret (v := .tuple #[.string t, .agg #[.int .i64 0, .int .i64 0]]) (by simp [results, Tryz.results9, go_sem, c0, c1]) rfl ⟨rfl, by repeat (first | (with_reducible exact HB) | (with_reducible exact Below.refl _ _) | (with_reducible refine Below.setCell ?_ (by simp) _) | (with_reducible refine Below.alloc ?_ (by simp; omega) _))⟩
    | some p =>
      have hz : (dz 7 t).2 = some p := by rw [dz_7]; exact h
      obtain ⟨e1, e2, e3⟩ := dbad hin hz
      rw [e1, e2, e3]
      have HP := Lib.hid (fun W hW => signs_bad t p W hW ht h)
      clear e1 e2 e3 hz hin h h3 h6
      generalize (p : Int) = PI at *
      go_enter Tryz.func9, Tryz.ntmps9
      go_wp2_with (go_at_call 18; refine (HP.out _ K1.out.t).mono ?_; rintro e1 w1 ⟨rfl, hb1⟩; rw [World.size_alloc] at hb1; have Q1 := Lib.hid (f2_low hb1); obtain ⟨_, c0, c1, f0, f1⟩ := Q1.out.1; clear hb1)
      have HB := Q1.out.2
      exact bodyPost_ret (v := .tuple #[.string ⟨#[]⟩, .agg #[.int .i64 2, .int .i64 PI]]) (by simp [results, Tryz.results9, go_sem, c0, c1]) rfl ⟨rfl, by repeat (first | (with_reducible exact HB) | (with_reducible exact Below.refl _ _) | (with_reducible refine Below.setCell ?_ (by simp) _) | (with_reducible refine Below.alloc ?_ (by simp; omega) _))⟩
  by_cases h8 : c = 8 ∨ c = 9
  · have HW := Lib.hid (fun big W => wd.Decode_any t big W (by omega))
    have HZ : Hid (c = 8 → dcT c t = wd.wt (wd.wscan t false) ∧ dcE c t = pt.fe (wd.wscan t false).2 ∧ dcA c t = pt.fa (wd.wscan t false).2) := Lib.hid (fun h => by subst h; rw [← dz_8]; exact dc_of ⟨by omega, by omega⟩)
    have HY : Hid (c = 9 → dcT c t = wd.wt (wd.wscan t true) ∧ dcE c t = pt.fe (wd.wscan t true).2 ∧ dcA c t = pt.fa (wd.wscan t true).2) := Lib.hid (fun h => by subst h; rw [← dz_9]; exact dc_of ⟨by omega, by omega⟩)
    rcases h8 with rfl | rfl
    · obtain ⟨e1, e2, e3⟩ := HZ.out rfl
      rw [e1, e2, e3]
      have HP := Lib.hid (fun W => HW.out false W)
      clear e1 e2 e3 HZ HY HW h3 h6 h7
      generalize wd.wt (wd.wscan t false) = T at *
      generalize pt.fe (wd.wscan t false).2 = E at *
      generalize pt.fa (wd.wscan t false).2 = A at *
      go_enter Tryz.func9, Tryz.ntmps9
      go_wp2_with (go_at_call 19; refine (HP.out _).mono ?_; rintro e1 w1 ⟨rfl, hb1⟩; rw [World.size_alloc] at hb1; have Q1 := Lib.hid (f2_low hb1); obtain ⟨_, c0, c1, f0, f1⟩ := Q1.out.1; clear hb1)
      have HB := Q1.out.2
      exact bodyPost_ret (v := .tuple #[.string T, .agg #[.int .i64 E, .int .i64 A]]) (by simp [results, Tryz.results9, go_sem, c0, c1]) rfl ⟨rfl, by repeat (first | (with_reducible exact HB) | (with_reducible exact Below.refl _ _) | (with_reducible refine Below.setCell ?_ (by simp) _) | (with_reducible refine Below.alloc ?_ (by simp; omega) _))⟩
    · obtain ⟨e1, e2, e3⟩ := HY.out rfl
      rw [e1, e2, e3]
      have HP := Lib.hid (fun W => HW.out true W)
      clear e1 e2 e3 HZ HY HW h3 h6 h7
      generalize wd.wt (wd.wscan t true) = T at *
      generalize pt.fe (wd.wscan t true).2 = E at *
      generalize pt.fa (wd.wscan t true).2 = A at *
      go_enter Tryz.func9, Tryz.ntmps9
      go_wp2_with (go_at_call 19; refine (HP.out _).mono ?_; rintro e1 w1 ⟨rfl, hb1⟩; rw [World.size_alloc] at hb1; have Q1 := Lib.hid (f2_low hb1); obtain ⟨_, c0, c1, f0, f1⟩ := Q1.out.1; clear hb1)
      have HB := Q1.out.2
      exact bodyPost_ret (v := .tuple #[.string T, .agg #[.int .i64 E, .int .i64 A]]) (by simp [results, Tryz.results9, go_sem, c0, c1]) rfl ⟨rfl, by repeat (first | (with_reducible exact HB) | (with_reducible exact Below.refl _ _) | (with_reducible refine Below.setCell ?_ (by simp) _) | (with_reducible refine Below.alloc ?_ (by simp; omega) _))⟩
  · have hin : ¬ inC c := fun h => by unfold inC at h; omega
    have e1 : dcT c t = ⟨#[]⟩ := by unfold dcT; rw [if_neg (fun h => hin h.1)]
    have e2 : dcE c t = 5 := by unfold dcE; rw [if_neg hin]
    have e3 : dcA c t = 0 := by unfold dcA; rw [if_neg hin]
    have HON := Lib.hid (fun w2 => sg.of_none c w2 (by omega))
    have HNO := Lib.hid (fun W => none_any W)
    rw [e1, e2, e3]
    have n4 : ¬ c = 4 := by omega
    have n5 : ¬ c = 5 := by omega
    have n6 : ¬ c = 6 := by omega
    have n7 : ¬ c = 7 := by omega
    have n8 : ¬ c = 8 := by omega
    have n9 : ¬ c = 9 := by omega
    have m4 := beq_eq_false_iff_ne.2 n4; have m5 := beq_eq_false_iff_ne.2 n5; have m6 := beq_eq_false_iff_ne.2 n6; have m7 := beq_eq_false_iff_ne.2 n7; have m8 := beq_eq_false_iff_ne.2 n8; have m9 := beq_eq_false_iff_ne.2 n9
    clear e1 e2 e3 hin h3 h6 h7 h8
    go_enter Tryz.func9, Tryz.ntmps9
    go_wp2_with (first
      | (go_at_call 20; (with_reducible refine (HON.out _).mono ?_); rintro e1 w1 ⟨rfl, hb1⟩; rw [World.size_alloc] at hb1; have Q1 := Lib.hid (f2_low hb1); have hA : Below w1.heap.size w1 (w1.alloc (.cells #[.slice none 0 0, .int .i64 0] 50)) := (Below.refl _ _).alloc (Nat.le_refl _) _; have F1 := Lib.hid (Q1.out.1.below hA Q1.out.1.lt); have B1 := Lib.hid (Q1.out.2.trans (hA.mono Q1.out.2.size)); obtain ⟨_, z0, z1, z2, _⟩ := sg.k2z w1; clear hb1 hA)
      | (go_at_call 21; refine (HNO.out _).mono ?_; rintro e2 w2 ⟨rfl, hb2⟩; obtain ⟨_, c0, c1, f0, f1⟩ := F1.out.below hb2 F1.out.lt; have B2 := Lib.hid (B1.out.trans (hb2.mono B1.out.size)); clear hb2))
    have HB := B2.out
    exact bodyPost_ret (v := .tuple #[.string ⟨#[]⟩, .agg #[.int .i64 5, .int .i64 0]]) (by simp [results, Tryz.results9, go_sem, c0, c1]) rfl ⟨rfl, by repeat (first | (with_reducible exact HB) | (with_reducible exact Below.refl _ _) | (with_reducible refine Below.setCell ?_ (by simp) _) | (with_reducible refine Below.alloc ?_ (by simp; omega) _))⟩
end Go.Proofs.YtbgbgigpcegenaaGreatDoor.ch
namespace Go.Proofs.YtbgbgigpcegenaaGreatDoor.ch
open Go.RowKit Go.Lib
set_option linter.unusedVariables false
set_option maxRecDepth 100000 in
set_option maxHeartbeats 2000000 in
theorem bof_plain (c : Int) (x : UInt8) (g j n cp : Nat) (w : World) (hn : 0 < n) (hx : x.toNat < 128) (hcell : w.cell? ⟨g, j, none⟩ = some (.int .i32 (x.toNat : Int))) : Calls Tryz.prog 49 #[.int .i64 c, .slice (some ⟨g, j, none⟩) n cp] w fun e w' => e = .returned (.tuple #[.string ⟨#[x]⟩, .int .i64 1]) ∧ Below w.heap.size w w' := by
  have hb := fun W => oct.big_any x.toNat 1 1 W (by omega) (by omega) rfl (by omega)
  have e : (⟨(oct.bigL 256 1 x.toNat).toArray⟩ : ByteArray) = ⟨#[x]⟩ := by
    have : UInt8.ofNat (x.toNat / 256 ^ 0 % 256) = x := by rw [Nat.pow_zero, Nat.div_one]; simp
    simp only [oct.bigL]
    rw [this]
  rw [e] at hb
  have u0 : 0 ≤ ((x.toNat : Nat) : Int) := by omega
  have u1 : ((x.toNat : Nat) : Int) < 128 := by omega
  generalize (⟨#[x]⟩ : ByteArray) = T at *
  generalize ((x.toNat : Nat) : Int) = U at *
  have HB := Lib.hid hb
  clear hb e hx
  go_enter Tryz.func49, Tryz.ntmps49
  go_wp2_with (go_at_call 92; refine (HB.out _).mono ?_; rintro e1 w1 ⟨rfl, hb1⟩; have B1 := Lib.hid hb1; clear hb1)
  go_ret2
  exact ⟨rfl, B1.out⟩
theorem zs_plain {s : ByteArray} (h : pt.isPlain s = true) : (pt.scan s).2 = none ∧ pt.zsOf s = pz s := by
  have h1 : (pt.scan s).2 = none := (pt.sc_plain s h s.size 0 (by omega)).1
  refine ⟨h1, ?_⟩
  have hv : (pz s).all validRune = true := by
    rw [List.all_eq_true]
    intro x hx
    unfold pz at hx
    obtain ⟨y, hy, rfl⟩ := List.mem_map.1 hx
    have := List.all_eq_true.1 h y hy
    exact vr_of (.inl (by simp at this; omega))
  have := pt.zsOf_txt (pz s) hv
  rwa [txt_plain h] at this
theorem b8_take (s : ByteArray) (j : Nat) (h : j < s.size) : wd.b8 (s.data.toList.take j) ++ strCells ⟨#[s.data.toList.getD j 0]⟩ = wd.b8 (s.data.toList.take (j + 1)) := by
  have hl := size_list s
  have e : s.data.toList.take (j + 1) = s.data.toList.take j ++ [s.data.toList.getD j 0] := by
    rw [List.take_add_one, List.getElem?_eq_getElem (by omega)]
    simp [List.getD, List.getElem?_eq_getElem (show j < s.data.toList.length by omega)]
  rw [e, wd.b8_app]
  rfl
set_option maxRecDepth 100000 in
set_option maxHeartbeats 4000000 in
theorem encPairs_plain (c : Int) (s : ByteArray) (w : World) (hT : pt.Tabs w) (hs : s.size ≤ 300) (hp : pt.isPlain s = true) :
    Calls Tryz.prog 23 #[.int .i64 c, .string s] w fun e w' => e = .returned (.tuple #[.string s, .agg #[.int .i64 0, .int .i64 0]]) ∧ Below w.heap.size w w' := by
  obtain ⟨h1, h2⟩ := zs_plain hp
  obtain ⟨i0, hi0, hzz⟩ := Option.map_eq_some_iff.1 wd.u8_info
  simp only [Prod.mk.injEq] at hzz
  obtain ⟨hz0, hsi, hby⟩ := hzz
  have hl := size_list s
  have hpl : (pz s).length = s.size := by unfold pz; rw [List.length_map, hl]
  have hA : Below w.heap.size w (w.alloc (.cells #[.int .i64 0, .int .i64 0] 32)) := (Below.refl _ _).alloc (Nat.le_refl _) _
  have hc := pt.points_good s (w.alloc (.cells #[.int .i64 0, .int .i64 0] 32)) (by omega) (hT.below hA) h1
  rw [h2, hpl, World.size_alloc] at hc
  have HCEL : Hid (∀ i, i < s.size → (pz s).getD i 0 = (((s.data.toList.getD i 0).toNat : Nat) : Int)) := Lib.hid (fun i hi => by
    unfold pz
    simp [List.getD, List.getElem?_eq_getElem (show i < s.data.toList.length by omega)])
  have HLOW : Hid (∀ i, (s.data.toList.getD i 0).toNat < 128) := Lib.hid (fun i => plain_at hp i)
  generalize pz s = Z at *
  have HC := Lib.hid hc
  have HBD : Hid (∀ W, Calls Tryz.prog 11 #[.agg #[.int .i64 0, .int .i64 0]] W fun e w' => e = .returned (.bool false) ∧ Below W.heap.size W w') := Lib.hid (fun W => pt.bad_any W 0 0)
  have hmk := fun w2 => wd.mk_bytes s.size (s.size : Int) rfl (by omega) w2
  clear hc hA h1 h2 hT hp hpl hl
  go_enter Tryz.func23, Tryz.ntmps23
  go_wp2_with (first
    | (go_at_call 48; refine HC.out.mono ?_; rintro e1 w1 ⟨g, cap, rfl, hcap, hcm, hg0, hg1, hcel, hb1⟩; have hA : Below w1.heap.size w1 (w1.alloc (.cells #[.int .i64 0, .int .i64 0] 32)) := (Below.refl _ _).alloc (Nat.le_refl _) _; have Q1 := Lib.hid (f2_low hb1); have F1 := Lib.hid (Q1.out.1.below hA Q1.out.1.lt); have B1 := Lib.hid (Q1.out.2.trans (hA.mono Q1.out.2.size)); have C1 : Hid (∀ i, i < s.size → (w1.alloc (.cells #[.int .i64 0, .int .i64 0] 32)).cell? ⟨g, i, none⟩ = some (.int .i32 (Z.getD i 0))) := Lib.hid (fun i hi => (hA.cell (p := ⟨g, i, none⟩) hg1).trans (hcel i hi)); obtain ⟨_, z0, z1, z2, z3⟩ := pt.f2_new w1 0 0 32; have hg2 : g < (w1.alloc (.cells #[.int .i64 0, .int .i64 0] 32)).heap.size := (by simp; omega); unfold maxLen at hcm; clear hb1 hA hcel hg0)
    | (go_at_call 11; refine (HBD.out _).mono ?_; rintro e2 w2 ⟨rfl, hb2⟩; have F2 := Lib.hid (F1.out.below hb2 F1.out.lt); have B2 := Lib.hid (B1.out.trans (hb2.mono B1.out.size)); have C2 : Hid (∀ i, i < s.size → w2.cell? ⟨g, i, none⟩ = some (.int .i32 (Z.getD i 0))) := Lib.hid (fun i hi => (hb2.cell (p := ⟨g, i, none⟩) hg2).trans (C1.out i hi)); have hg3 := Nat.lt_of_lt_of_le hg2 hb2.size; clear hb2 F1 B1 C1 hg2))
  clear hmk
  go_loopw [8, 9] (fun v i wr => ∃ j : Nat, j ≤ s.size ∧ i = .int .i64 j ∧ wr.ownsRow w2.heap.size 5 1 v j (wd.b8 (s.data.toList.take j)) ∧ Below w2.heap.size w2 wr) (fun _ i _ => s.size - (RowKit.intOf i).toNat)
  case atStart => exact ⟨0, Nat.zero_le _, rfl, World.ownsRow_made w2 _ s.size (Nat.le_refl _) (by unfold maxLen; omega) (by simp [madeCells]), (Below.refl _ _).alloc (Nat.le_refl _) _⟩
  case round =>
    obtain ⟨j, hj, rfl, hown, hB⟩ := hrel
    have HOW := Lib.hid hown
    have HB := Lib.hid hB
    clear hown hB
    by_cases hlt : j < s.size
    · have hcell : wr.cell? ⟨g, j, none⟩ = some (.int .i32 (((s.data.toList.getD j 0).toNat : Nat) : Int)) := by
        rw [HB.out.cell (p := ⟨g, j, none⟩) hg3, C2.out j hlt, HCEL.out j hlt]
      have HTK := Lib.hid (b8_take s j hlt)
      have hlow := HLOW.out j
      generalize s.data.toList.getD j 0 = x at *
      have HBF : Hid (∀ W cp n, 0 < n → W.cell? ⟨g, j, none⟩ = some (.int .i32 (x.toNat : Int)) → Calls Tryz.prog 49 #[.int .i64 c, .slice (some ⟨g, j, none⟩) n cp] W fun e w' => e = .returned (.tuple #[.string ⟨#[x]⟩, .int .i64 1]) ∧ Below W.heap.size W w') := Lib.hid (fun W cp n hn h => bof_plain c x g j n cp W hn hlow h)
      have HX : Hid ((⟨#[x]⟩ : ByteArray).size = 1) := Lib.hid rfl
      have HCL := Lib.hid hcell
      clear hcell hlow
      generalize (⟨#[x]⟩ : ByteArray) = T at *
      go_wp2_with (first
        | (go_at_call 49; refine (HBF.out _ _ _ (by omega) HCL.out).mono ?_; rintro e1 w3 ⟨rfl, hb1⟩; have O1 := Lib.hid (pt.owns_below HOW.out hb1); have B1 := Lib.hid (HB.out.trans (hb1.mono HB.out.size)); clear hb1)
        | (at_builtin; (refine wpList_append_own_string _ rfl _ _ 66 9 rfl w2.heap.size 5 i0 Tryz.underlying66 Tryz.underlying9 hi0 hz0 hsi hby _ _ _ rfl O1.out _ rfl ?c1 ?c2 ?c3 ?_)))
      case c1 => rw [HX.out]; unfold maxLen; omega
      case c2 => rw [HX.out]; omega
      case c3 => exact B1.out.size
      intro v' w5 hown5 hgrow _
      rw [HTK.out, HX.out] at hown5
      have HO5 := Lib.hid hown5
      have B5 := Lib.hid (wd.below_grown0 B1.out B1.out.size O1.out hgrow)
      clear hown5 hgrow
      go_wp2
      go_roundw
      case rel => exact ⟨j + 1, by omega, by go_num, HO5.out, B5.out⟩
      case measure => simp [RowKit.intOf]; omega
    · obtain rfl : j = s.size := by omega
      have htk : s.data.toList.take s.size = s.data.toList := List.take_of_length_le (by rw [size_list]; omega)
      rw [htk] at HOW
      have hcv := pt.conv_row wr w2.heap.size _ (s.data.toList.map fun (b : UInt8) => (b.toNat : Int)) (by
        rw [List.length_map, size_list]; exact HOW.out)
      rw [str_whole] at hcv
      obtain ⟨_, c0, c1, f0, f1⟩ := F2.out.below HB.out F2.out.lt
      have B3 := Lib.hid (B2.out.trans (HB.out.mono B2.out.size))
      clear htk hlt
      go_wp2
      have HB3 := B3.out
      exact bodyPost_ret (v := .tuple #[.string s, .agg #[.int .i64 0, .int .i64 0]]) (by simp [results, Tryz.results23, go_sem, c0, c1]) rfl ⟨rfl, by repeat (first | (with_reducible exact HB3) | (with_reducible exact Below.refl _ _) | (with_reducible refine Below.setCell ?_ (by simp) _) | (with_reducible refine Below.alloc ?_ (by simp; omega) _))⟩
theorem sdec_plain {c : Int} {s : ByteArray} (h : pt.isPlain s = true) : sg.sdec c s.data.toList = pz s := by
  unfold sg.sdec pz
  apply List.map_congr_left
  intro x hx
  have := List.all_eq_true.1 h x hx
  unfold sg.sgn
  rw [if_pos (.inr (by simpa using this))]
set_option maxRecDepth 100000 in
set_option maxHeartbeats 4000000 in
theorem Encode_plain (c : Int) (s : ByteArray) (w : World) (hT : pt.Tabs w) (h0 : 0 ≤ c) (h7 : c ≤ 7) (hs : s.size ≤ 300) (hp : pt.isPlain s = true) :
    Calls Tryz.prog 10 #[.int .i64 c, .string s] w fun e w' => e = .returned (.tuple #[.string s, .agg #[.int .i64 0, .int .i64 0]]) ∧ Below w.heap.size w w' := by
  have hA : Below w.heap.size w (w.alloc (.cells #[.int .i64 0, .int .i64 0] 32)) := (Below.refl _ _).alloc (Nat.le_refl _) _
  have K1 := Lib.hid (hT.below hA)
  clear hA hT
  by_cases h3 : c ≤ 3
  · have HOF := Lib.hid (fun w2 h2 => sg.of_any c w2 h2 h0 h3)
    have e1 : pt.txt (sg.sdec c s.data.toList) = s := by rw [sdec_plain hp]; exact txt_plain hp
    have HE : Hid (∀ W X, pt.Tabs W → tb.TE tb.TBr W X (sg.tbl c) → Calls Tryz.prog 25 #[.agg #[X, .int .i64 c], .string s] W fun e w' => e = .returned (.tuple #[.string s, .agg #[.int .i64 0, .int .i64 0]]) ∧ Below W.heap.size W w') := Lib.hid (fun W X hW h => by
      have he := sg.encode_good c c X (sg.sdec c s.data.toList) W h0 h3 (by rw [e1]; omega) (sg.sdec_valid h0 h3 _) h hW
      rw [sg.senc_sdec h0 h3, e1] at he
      exact he.mono fun e w' hh => ⟨by rw [hh.1]; rfl, hh.2⟩)
    have n4 : ¬ c = 4 := by omega
    have n5 : ¬ c = 5 := by omega
    have n6 : ¬ c = 6 := by omega
    have n7 : ¬ c = 7 := by omega
    have n8 : ¬ c = 8 := by omega
    have n9 : ¬ c = 9 := by omega
    have m4 := beq_eq_false_iff_ne.2 n4; have m5 := beq_eq_false_iff_ne.2 n5; have m6 := beq_eq_false_iff_ne.2 n6; have m7 := beq_eq_false_iff_ne.2 n7; have m8 := beq_eq_false_iff_ne.2 n8; have m9 := beq_eq_false_iff_ne.2 n9
    clear e1 hp
    go_enter Tryz.func10, Tryz.ntmps10
    go_wp2_with (first
      | (go_at_call 20; (with_reducible refine (HOF.out _ K1.out).mono ?_); rintro e1 w1 ⟨X, rfl, hx, hb1⟩; rw [World.size_alloc] at hb1; have hst := (fun wx (a : Addr) m => run_store (P := Tryz.prog) (w := wx) (a := a) X m (tb.TE.one hx)); have Q1 := Lib.hid (f2_low hb1); have hA : Below w1.heap.size w1 (w1.alloc (.cells #[X, .int .i64 c] 50)) := (Below.refl _ _).alloc (Nat.le_refl _) _; have F1 := Lib.hid (Q1.out.1.below hA Q1.out.1.lt); have T1 := Lib.hid ((K1.out.below (by rw [World.size_alloc]; exact hb1)).below hA); have LL := Lib.hid (sg.Lw.new (c := c) Q1.out.2 hx); obtain ⟨_, z0, z1, z2, _⟩ := sg.k2z w1; obtain ⟨⟨_, y0, y1, y2, _⟩, _, _⟩ := LL.out; have hlt := Q1.out.1.lt; clear hx hb1 hA)
      | (go_at_call 25; (with_reducible refine (HE.out _ X T1.out LL.out.t).mono ?_); rintro e2 w2 ⟨rfl, hb2⟩; have LL := Lib.hid (LL.out.below hb2); obtain ⟨_, c0, c1, f0, f1⟩ := F1.out.below hb2 F1.out.lt; clear hb2))
    have HB := LL.out.b
    exact bodyPost_ret (v := .tuple #[.string s, .agg #[.int .i64 0, .int .i64 0]]) (by simp [results, Tryz.results10, go_sem, c0, c1]) rfl ⟨rfl, by repeat (first | (with_reducible exact HB) | (with_reducible exact Below.refl _ _) | (with_reducible refine Below.setCell ?_ (by simp) _) | (with_reducible refine Below.alloc ?_ (by simp; omega) _))⟩
  by_cases hq : c = 7
  · subst hq
    have HP := Lib.hid (fun W hW => signs_good s W hW (by omega) (zs_plain hp).1)
    clear hp h3
    go_enter Tryz.func10, Tryz.ntmps10
    go_wp2_with (go_at_call 18; refine (HP.out _ K1.out).mono ?_; rintro e1 w1 ⟨rfl, hb1⟩; rw [World.size_alloc] at hb1; have Q1 := Lib.hid (f2_low hb1); obtain ⟨_, c0, c1, f0, f1⟩ := Q1.out.1; clear hb1)
    have HB := Q1.out.2
    exact bodyPost_ret (v := .tuple #[.string s, .agg #[.int .i64 0, .int .i64 0]]) (by simp [results, Tryz.results10, go_sem, c0, c1]) rfl ⟨rfl, by repeat (first | (with_reducible exact HB) | (with_reducible exact Below.refl _ _) | (with_reducible refine Below.setCell ?_ (by simp) _) | (with_reducible refine Below.alloc ?_ (by simp; omega) _))⟩
  have h6 : c = 4 ∨ c = 5 ∨ c = 6 := by omega
  have HP := Lib.hid (fun c W hW => encPairs_plain c s W hW hs hp)
  clear hp h3 hq
  rcases h6 with rfl | rfl | rfl
  all_goals
    go_enter Tryz.func10, Tryz.ntmps10
    go_wp2_with (go_at_call 23; refine (HP.out _ _ K1.out).mono ?_; rintro e1 w1 ⟨rfl, hb1⟩; rw [World.size_alloc] at hb1; have Q1 := Lib.hid (f2_low hb1); obtain ⟨_, c0, c1, f0, f1⟩ := Q1.out.1; clear hb1)
    have HB := Q1.out.2
    exact bodyPost_ret (v := .tuple #[.string s, .agg #[.int .i64 0, .int .i64 0]]) (by simp [results, Tryz.results10, go_sem, c0, c1]) rfl ⟨rfl, by repeat (first | (with_reducible exact HB) | (with_reducible exact Below.refl _ _) | (with_reducible refine Below.setCell ?_ (by simp) _) | (with_reducible refine Below.alloc ?_ (by simp; omega) _))⟩
end Go.Proofs.YtbgbgigpcegenaaGreatDoor.ch
