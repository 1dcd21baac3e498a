/- The landed charset: signs, noCharset, Decode, of whatever charset: a contract. -/
import Derived.Test.YtiigknimfibdpaaGreatDoorZ31
import Derived.Test.YtiigknimfibdpaaGreatDoorZ38
namespace Go.Proofs.YtiigknimfibdpaaGreatDoor.ch
open Go.RowKit Go.Lib
set_option linter.unusedVariables false
theorem none_any (w : World) : Calls Tryz.prog 42 #[] w fun e w' => e = .returned (.agg #[.int .i64 5, .int .i64 0]) ∧ Below w.heap.size w w' := by
  go_enter Tryz.func42, Tryz.ntmps42
  go_wp2
  exact bodyPost_ret (v := .agg #[.int .i64 5, .int .i64 0]) (by simp [results, Tryz.results42, go_sem]) rfl ⟨rfl, by repeat (first | (with_reducible exact Below.refl _ _) | (with_reducible refine Below.setCell ?_ (by simp) _) | (with_reducible refine Below.alloc ?_ (by simp) _))⟩
theorem f2_low {w W : World} {x y : Int} {t : TypeId} (hb : Below (w.heap.size + 1) (w.alloc (.cells #[.int .i64 x, .int .i64 y] t)) W) : pt.F2 W w.heap.size x y ∧ Below w.heap.size w W :=
  ⟨(pt.f2_new w x y t).below hb (by omega), ((Below.refl w.heap.size w).alloc (Nat.le_refl _) _).trans (hb.mono (by omega))⟩
set_option maxRecDepth 100000 in
set_option maxHeartbeats 2000000 in
theorem signs_good (t : ByteArray) (w : World) (hT : pt.Tabs w) (ht : t.size ≤ 4000) (h : (pt.scan t).2 = none) : Calls Tryz.prog 39 #[.string t] w fun e w' => e = .returned (.tuple #[.string t, .agg #[.int .i64 0, .int .i64 0]]) ∧ Below w.heap.size w w' := by
  have hA : Below w.heap.size w (w.alloc (.cells #[.int .i64 0, .int .i64 0] 54)) := (Below.refl _ _).alloc (Nat.le_refl _) _
  have hc := pt.check_any t (w.alloc (.cells #[.int .i64 0, .int .i64 0] 54)) (by omega) (hT.below hA)
  rw [h, World.size_alloc] at hc
  have HC : Hid (Calls Tryz.prog 69 #[.string t] (w.alloc (.cells #[.int .i64 0, .int .i64 0] 54)) fun e w' => e = .returned (.agg #[.int .i64 0, .int .i64 0]) ∧ Below (w.heap.size + 1) (w.alloc (.cells #[.int .i64 0, .int .i64 0] 54)) w') := Lib.hid hc
  have HBD : Hid (∀ W, Calls Tryz.prog 24 #[.agg #[.int .i64 0, .int .i64 0]] W fun e w' => e = .returned (.bool false) ∧ Below W.heap.size W w') := Lib.hid (fun W => pt.bad_any W 0 0)
  clear hc hA h hT
  go_enter Tryz.func39, Tryz.ntmps39
  go_wp2_with (first
    | (go_at_call 69; refine HC.out.mono ?_; rintro e1 w1 ⟨rfl, hb1⟩; have hA : Below w1.heap.size w1 (w1.alloc (.cells #[.int .i64 0, .int .i64 0] 54)) := (Below.refl _ _).alloc (Nat.le_refl _) _; have Q1 := Lib.hid (f2_low hb1); have F1 := Lib.hid (Q1.out.1.below hA Q1.out.1.lt); have B1 := Lib.hid (Q1.out.2.trans (hA.mono Q1.out.2.size)); obtain ⟨_, z0, z1, z2, z3⟩ := pt.f2_new w1 0 0 54; clear hb1 hA)
    | (go_at_call 24; refine (HBD.out _).mono ?_; rintro e2 w2 ⟨rfl, hb2⟩; obtain ⟨_, c0, c1, f0, f1⟩ := F1.out.below hb2 F1.out.lt; have B2 := Lib.hid (B1.out.trans (hb2.mono B1.out.size)); clear hb2))
  have HB2 := B2.out
  exact bodyPost_ret (v := .tuple #[.string t, .agg #[.int .i64 0, .int .i64 0]]) (by simp [results, Tryz.results39, go_sem, c0, c1]) rfl ⟨rfl, by repeat (first | (with_reducible exact HB2) | (with_reducible exact Below.refl _ _) | (with_reducible refine Below.setCell ?_ (by simp) _) | (with_reducible refine Below.alloc ?_ (by simp; omega) _))⟩
set_option maxRecDepth 100000 in
set_option maxHeartbeats 2000000 in
theorem signs_bad (t : ByteArray) (p : Nat) (w : World) (hT : pt.Tabs w) (ht : t.size ≤ 4000) (h : (pt.scan t).2 = some p) : Calls Tryz.prog 39 #[.string t] w fun e w' => e = .returned (.tuple #[.string ⟨#[]⟩, .agg #[.int .i64 2, .int .i64 (p : Int)]]) ∧ Below w.heap.size w w' := by
  have hA : Below w.heap.size w (w.alloc (.cells #[.int .i64 0, .int .i64 0] 54)) := (Below.refl _ _).alloc (Nat.le_refl _) _
  have hc := pt.check_any t (w.alloc (.cells #[.int .i64 0, .int .i64 0] 54)) (by omega) (hT.below hA)
  rw [h, World.size_alloc] at hc
  have HC : Hid (Calls Tryz.prog 69 #[.string t] (w.alloc (.cells #[.int .i64 0, .int .i64 0] 54)) fun e w' => e = .returned (.agg #[.int .i64 2, .int .i64 (p : Int)]) ∧ Below (w.heap.size + 1) (w.alloc (.cells #[.int .i64 0, .int .i64 0] 54)) w') := Lib.hid hc
  have HBD : Hid (∀ W, Calls Tryz.prog 24 #[.agg #[.int .i64 2, .int .i64 (p : Int)]] W fun e w' => e = .returned (.bool true) ∧ Below W.heap.size W w') := Lib.hid (fun W => pt.bad_any W 2 p)
  clear hc hA h hT
  generalize (p : Int) = PI at *
  go_enter Tryz.func39, Tryz.ntmps39
  go_wp2_with (first
    | (go_at_call 69; refine HC.out.mono ?_; rintro e1 w1 ⟨rfl, hb1⟩; have hA : Below w1.heap.size w1 (w1.alloc (.cells #[.int .i64 2, .int .i64 PI] 54)) := (Below.refl _ _).alloc (Nat.le_refl _) _; have Q1 := Lib.hid (f2_low hb1); have F1 := Lib.hid (Q1.out.1.below hA Q1.out.1.lt); have B1 := Lib.hid (Q1.out.2.trans (hA.mono Q1.out.2.size)); have hlt := Q1.out.1.lt; have G1 := Lib.hid (pt.f2_new w1 2 PI 54); obtain ⟨_, z0, z1, z2, z3⟩ := G1.out; clear hb1 hA)
    | (go_at_call 24; refine (HBD.out _).mono ?_; rintro e2 w2 ⟨rfl, hb2⟩; obtain ⟨_, c0, c1, f0, f1⟩ := F1.out.below hb2 F1.out.lt; obtain ⟨_, g0, g1, _, _⟩ := G1.out.below hb2 G1.out.lt; have B2 := Lib.hid (B1.out.trans (hb2.mono B1.out.size)); clear hb2))
  have n0 : ¬ w.heap.size = w1.heap.size := by omega
  have n1 : ¬ w1.heap.size = w.heap.size := by omega
  go_region_held3 (fun w' => w'.cell? ⟨w1.heap.size, 0, none⟩ = some (.int .i64 2) ∧ w'.cell? ⟨w1.heap.size, 1, none⟩ = some (.int .i64 PI)) (go_keep) (fail)
  all_goals go_wp2_with fail
  all_goals
    have HB2 := B2.out
    exact bodyPost_ret (v := .tuple #[.string ⟨#[]⟩, .agg #[.int .i64 2, .int .i64 PI]]) (by simp [results, Tryz.results39, go_sem, c0, c1]) rfl ⟨rfl, by refine Below.drew ?_; repeat (first | (with_reducible exact HB2) | (with_reducible exact Below.refl _ _) | (with_reducible refine Below.setCell ?_ (by simp) _) | (with_reducible refine Below.alloc ?_ (by simp; omega) _))⟩
theorem dz_7 (t : ByteArray) : dz 7 t = (pt.zsOf t, (pt.scan t).2) := by unfold dz; rw [if_neg (by omega), if_pos rfl]
theorem dz_8 (t : ByteArray) : dz 8 t = wd.wscan t false := by unfold dz; rw [if_neg (by omega), if_neg (by omega), if_pos (by omega)]; rfl
theorem dz_9 (t : ByteArray) : dz 9 t = wd.wscan t true := by unfold dz; rw [if_neg (by omega), if_neg (by omega), if_pos (by omega)]; rfl
theorem dz_3 {c : Int} (h : c ≤ 3) (t : ByteArray) : dz c t = (sg.sdec c t.data.toList, none) := by unfold dz; rw [if_pos h]
/-- What Decode answers, of what dz says. -/
theorem dc_of {c : Int} {s : ByteArray} (hc : inC c) : dcT c s = wd.wt (dz c s) ∧ dcE c s = pt.fe (dz c s).2 ∧ dcA c s = pt.fa (dz c s).2 := by
  cases h : (dz c s).2 with
  | none =>
    obtain ⟨e1, e2, e3⟩ := dok hc h
    refine ⟨?_, e2, e3⟩
    unfold wd.wt
    rw [h]; exact e1
  | some p =>
    obtain ⟨e1, e2, e3⟩ := dbad hc h
    refine ⟨?_, e2, e3⟩
    unfold wd.wt
    rw [h]; exact e1
set_option maxRecDepth 100000 in
set_option maxHeartbeats 4000000 in
theorem Decode_any (c : Int) (t : ByteArray) (w : World) (hK : K9 w) (ht : t.size ≤ 4000) :
    Calls Tryz.prog 23 #[.int .i64 c, .string t] w fun e w' => e = .returned (.tuple #[.string (dcT c t), .agg #[.int .i64 (dcE c t), .int .i64 (dcA c t)]]) ∧ Below w.heap.size w w' := by
  have hA : Below w.heap.size w (w.alloc (.cells #[.int .i64 0, .int .i64 0] 54)) := (Below.refl _ _).alloc (Nat.le_refl _) _
  have K1 := Lib.hid (hK.below hA)
  clear hA hK
  by_cases h3 : 0 ≤ c ∧ c ≤ 3
  · obtain ⟨h0, h3⟩ := h3
    have HOF := Lib.hid (fun w2 h2 => sg.of_any c w2 h2 h0 h3)
    have HD := Lib.hid (fun W X h => sg.decode_any c c X t W h0 h3 ht h)
    have hin : inC c := ⟨h0, by omega⟩
    have hz : (dz c t).2 = none := by rw [dz_3 h3]
    obtain ⟨e1, e2, e3⟩ := dok hin hz
    rw [dz_3 h3] at e1
    rw [e1, e2, e3]
    clear e1 e2 e3 hz hin
    generalize pt.txt (sg.sdec c t.data.toList) = T at *
    have n4 : ¬ c = 4 := by omega
    have n5 : ¬ c = 5 := by omega
    have n6 : ¬ c = 6 := by omega
    have n7 : ¬ c = 7 := by omega
    have n8 : ¬ c = 8 := by omega
    have n9 : ¬ c = 9 := by omega
    have m4 := beq_eq_false_iff_ne.2 n4; have m5 := beq_eq_false_iff_ne.2 n5; have m6 := beq_eq_false_iff_ne.2 n6; have m7 := beq_eq_false_iff_ne.2 n7; have m8 := beq_eq_false_iff_ne.2 n8; have m9 := beq_eq_false_iff_ne.2 n9
    go_enter Tryz.func23, Tryz.ntmps23
    go_wp2_with (first
      | (go_at_call 41; (with_reducible refine (HOF.out _ K1.out.t).mono ?_); rintro e1 w1 ⟨X, rfl, hx, hb1⟩; rw [World.size_alloc] at hb1; have hst := (fun wx (a : Addr) m => run_store (P := Tryz.prog) (w := wx) (a := a) X m (tb.TE.one hx)); have Q1 := Lib.hid (f2_low hb1); have hA : Below w1.heap.size w1 (w1.alloc (.cells #[X, .int .i64 c] 76)) := (Below.refl _ _).alloc (Nat.le_refl _) _; have F1 := Lib.hid (Q1.out.1.below hA Q1.out.1.lt); have LL := Lib.hid (sg.Lw.new (c := c) Q1.out.2 hx); obtain ⟨_, z0, z1, z2, _⟩ := sg.k2z w1; obtain ⟨⟨_, y0, y1, y2, _⟩, _, _⟩ := LL.out; have hlt := Q1.out.1.lt; clear hx hb1 hA)
      | (go_at_call 43; (with_reducible refine (HD.out _ X LL.out.t).mono ?_); rintro e2 w2 ⟨rfl, hb2⟩; have LL := Lib.hid (LL.out.below hb2); obtain ⟨_, c0, c1, f0, f1⟩ := F1.out.below hb2 F1.out.lt; clear hb2))
    have HB := LL.out.b
    exact bodyPost_ret (v := .tuple #[.string T, .agg #[.int .i64 0, .int .i64 0]]) (by simp [results, Tryz.results23, go_sem, c0, c1]) rfl ⟨rfl, by repeat (first | (with_reducible exact HB) | (with_reducible exact Below.refl _ _) | (with_reducible refine Below.setCell ?_ (by simp) _) | (with_reducible refine Below.alloc ?_ (by simp; omega) _))⟩
  by_cases h6 : c = 4 ∨ c = 5 ∨ c = 6
  · have HP := Lib.hid (fun W h => dpairs_any c t W h h6 ht)
    generalize dcT c t = T at *
    generalize dcE c t = E at *
    generalize dcA c t = A at *
    clear h3
    rcases h6 with rfl | rfl | rfl
    all_goals
      go_enter Tryz.func23, Tryz.ntmps23
      go_wp2_with (go_at_call 38; refine (HP.out _ K1.out).mono ?_; rintro e1 w1 ⟨rfl, hb1⟩; rw [World.size_alloc] at hb1; have Q1 := Lib.hid (f2_low hb1); obtain ⟨_, c0, c1, f0, f1⟩ := Q1.out.1; clear hb1)
      have HB := Q1.out.2
      exact bodyPost_ret (v := .tuple #[.string T, .agg #[.int .i64 E, .int .i64 A]]) (by simp [results, Tryz.results23, go_sem, c0, c1]) rfl ⟨rfl, by repeat (first | (with_reducible exact HB) | (with_reducible exact Below.refl _ _) | (with_reducible refine Below.setCell ?_ (by simp) _) | (with_reducible refine Below.alloc ?_ (by simp; omega) _))⟩
  by_cases h7 : c = 7
  · subst h7
    have hin : inC 7 := ⟨by omega, by omega⟩
    cases h : (pt.scan t).2 with
    | none =>
      have hz : (dz 7 t).2 = none := by rw [dz_7]; exact h
      obtain ⟨e1, e2, e3⟩ := dok hin hz
      rw [dz_7, pt.txt_back t h] at e1
      rw [e1, e2, e3]
      have HP := Lib.hid (fun W hW => signs_good t W hW ht h)
      clear e1 e2 e3 hz hin h h3 h6
      go_enter Tryz.func23, Tryz.ntmps23
      go_wp2_with (go_at_call 39; refine (HP.out _ K1.out.t).mono ?_; rintro e1 w1 ⟨rfl, hb1⟩; rw [World.size_alloc] at hb1; have Q1 := Lib.hid (f2_low hb1); obtain ⟨_, c0, c1, f0, f1⟩ := Q1.out.1; clear hb1)
      have HB := Q1.out.2
      exact bodyPost_ret (v := .tuple #[.string t, .agg #[.int .i64 0, .int .i64 0]]) (by simp [results, Tryz.results23, go_sem, c0, c1]) rfl ⟨rfl, by repeat (first | (with_reducible exact HB) | (with_reducible exact Below.refl _ _) | (with_reducible refine Below.setCell ?_ (by simp) _) | (with_reducible refine Below.alloc ?_ (by simp; omega) _))⟩
    | some p =>
      have hz : (dz 7 t).2 = some p := by rw [dz_7]; exact h
      obtain ⟨e1, e2, e3⟩ := dbad hin hz
      rw [e1, e2, e3]
      have HP := Lib.hid (fun W hW => signs_bad t p W hW ht h)
      clear e1 e2 e3 hz hin h h3 h6
      generalize (p : Int) = PI at *
      go_enter Tryz.func23, Tryz.ntmps23
      go_wp2_with (go_at_call 39; refine (HP.out _ K1.out.t).mono ?_; rintro e1 w1 ⟨rfl, hb1⟩; rw [World.size_alloc] at hb1; have Q1 := Lib.hid (f2_low hb1); obtain ⟨_, c0, c1, f0, f1⟩ := Q1.out.1; clear hb1)
      have HB := Q1.out.2
      exact bodyPost_ret (v := .tuple #[.string ⟨#[]⟩, .agg #[.int .i64 2, .int .i64 PI]]) (by simp [results, Tryz.results23, go_sem, c0, c1]) rfl ⟨rfl, by repeat (first | (with_reducible exact HB) | (with_reducible exact Below.refl _ _) | (with_reducible refine Below.setCell ?_ (by simp) _) | (with_reducible refine Below.alloc ?_ (by simp; omega) _))⟩
  by_cases h8 : c = 8 ∨ c = 9
  · have HW := Lib.hid (fun big W => wd.Decode_any t big W (by omega))
    have HZ : Hid (c = 8 → dcT c t = wd.wt (wd.wscan t false) ∧ dcE c t = pt.fe (wd.wscan t false).2 ∧ dcA c t = pt.fa (wd.wscan t false).2) := Lib.hid (fun h => by subst h; rw [← dz_8]; exact dc_of ⟨by omega, by omega⟩)
    have HY : Hid (c = 9 → dcT c t = wd.wt (wd.wscan t true) ∧ dcE c t = pt.fe (wd.wscan t true).2 ∧ dcA c t = pt.fa (wd.wscan t true).2) := Lib.hid (fun h => by subst h; rw [← dz_9]; exact dc_of ⟨by omega, by omega⟩)
    rcases h8 with rfl | rfl
    · obtain ⟨e1, e2, e3⟩ := HZ.out rfl
      rw [e1, e2, e3]
      have HP := Lib.hid (fun W => HW.out false W)
      clear e1 e2 e3 HZ HY HW h3 h6 h7
      generalize wd.wt (wd.wscan t false) = T at *
      generalize pt.fe (wd.wscan t false).2 = E at *
      generalize pt.fa (wd.wscan t false).2 = A at *
      go_enter Tryz.func23, Tryz.ntmps23
      go_wp2_with (go_at_call 40; refine (HP.out _).mono ?_; rintro e1 w1 ⟨rfl, hb1⟩; rw [World.size_alloc] at hb1; have Q1 := Lib.hid (f2_low hb1); obtain ⟨_, c0, c1, f0, f1⟩ := Q1.out.1; clear hb1)
      have HB := Q1.out.2
      exact bodyPost_ret (v := .tuple #[.string T, .agg #[.int .i64 E, .int .i64 A]]) (by simp [results, Tryz.results23, go_sem, c0, c1]) rfl ⟨rfl, by repeat (first | (with_reducible exact HB) | (with_reducible exact Below.refl _ _) | (with_reducible refine Below.setCell ?_ (by simp) _) | (with_reducible refine Below.alloc ?_ (by simp; omega) _))⟩
    · obtain ⟨e1, e2, e3⟩ := HY.out rfl
      rw [e1, e2, e3]
      have HP := Lib.hid (fun W => HW.out true W)
      clear e1 e2 e3 HZ HY HW h3 h6 h7
      generalize wd.wt (wd.wscan t true) = T at *
      generalize pt.fe (wd.wscan t true).2 = E at *
      generalize pt.fa (wd.wscan t true).2 = A at *
      go_enter Tryz.func23, Tryz.ntmps23
      go_wp2_with (go_at_call 40; refine (HP.out _).mono ?_; rintro e1 w1 ⟨rfl, hb1⟩; rw [World.size_alloc] at hb1; have Q1 := Lib.hid (f2_low hb1); obtain ⟨_, c0, c1, f0, f1⟩ := Q1.out.1; clear hb1)
      have HB := Q1.out.2
      exact bodyPost_ret (v := .tuple #[.string T, .agg #[.int .i64 E, .int .i64 A]]) (by simp [results, Tryz.results23, go_sem, c0, c1]) rfl ⟨rfl, by repeat (first | (with_reducible exact HB) | (with_reducible exact Below.refl _ _) | (with_reducible refine Below.setCell ?_ (by simp) _) | (with_reducible refine Below.alloc ?_ (by simp; omega) _))⟩
  · have hin : ¬ inC c := fun h => by unfold inC at h; omega
    have e1 : dcT c t = ⟨#[]⟩ := by unfold dcT; rw [if_neg (fun h => hin h.1)]
    have e2 : dcE c t = 5 := by unfold dcE; rw [if_neg hin]
    have e3 : dcA c t = 0 := by unfold dcA; rw [if_neg hin]
    have HON := Lib.hid (fun w2 => sg.of_none c w2 (by omega))
    have HNO := Lib.hid (fun W => none_any W)
    rw [e1, e2, e3]
    have n4 : ¬ c = 4 := by omega
    have n5 : ¬ c = 5 := by omega
    have n6 : ¬ c = 6 := by omega
    have n7 : ¬ c = 7 := by omega
    have n8 : ¬ c = 8 := by omega
    have n9 : ¬ c = 9 := by omega
    have m4 := beq_eq_false_iff_ne.2 n4; have m5 := beq_eq_false_iff_ne.2 n5; have m6 := beq_eq_false_iff_ne.2 n6; have m7 := beq_eq_false_iff_ne.2 n7; have m8 := beq_eq_false_iff_ne.2 n8; have m9 := beq_eq_false_iff_ne.2 n9
    clear e1 e2 e3 hin h3 h6 h7 h8
    go_enter Tryz.func23, Tryz.ntmps23
    go_wp2_with (first
      | (go_at_call 41; (with_reducible refine (HON.out _).mono ?_); rintro e1 w1 ⟨rfl, hb1⟩; rw [World.size_alloc] at hb1; have Q1 := Lib.hid (f2_low hb1); have hA : Below w1.heap.size w1 (w1.alloc (.cells #[.slice none 0 0, .int .i64 0] 76)) := (Below.refl _ _).alloc (Nat.le_refl _) _; have F1 := Lib.hid (Q1.out.1.below hA Q1.out.1.lt); have B1 := Lib.hid (Q1.out.2.trans (hA.mono Q1.out.2.size)); obtain ⟨_, z0, z1, z2, _⟩ := sg.k2z w1; clear hb1 hA)
      | (go_at_call 42; refine (HNO.out _).mono ?_; rintro e2 w2 ⟨rfl, hb2⟩; obtain ⟨_, c0, c1, f0, f1⟩ := F1.out.below hb2 F1.out.lt; have B2 := Lib.hid (B1.out.trans (hb2.mono B1.out.size)); clear hb2))
    have HB := B2.out
    exact bodyPost_ret (v := .tuple #[.string ⟨#[]⟩, .agg #[.int .i64 5, .int .i64 0]]) (by simp [results, Tryz.results23, go_sem, c0, c1]) rfl ⟨rfl, by repeat (first | (with_reducible exact HB) | (with_reducible exact Below.refl _ _) | (with_reducible refine Below.setCell ?_ (by simp) _) | (with_reducible refine Below.alloc ?_ (by simp; omega) _))⟩
end Go.Proofs.YtiigknimfibdpaaGreatDoor.ch
