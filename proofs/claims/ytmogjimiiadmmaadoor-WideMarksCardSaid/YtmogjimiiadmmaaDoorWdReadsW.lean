/- The walk of the law WideReads of layer 3. -/
import Derived.Test.YtmogjimiiadmmaaDoorWdA
import Derived.Deep.RegionHeld3
import Derived.Deep.DeepCutAuto
namespace Go.Proofs.YtmogjimiiadmmaaDoor.wd
open Go.RowKit Go.Lib
set_option linter.unusedVariables false
theorem fault_none (w : World) : Calls Tryd.prog 22 #[.int .i64 (-1)] w fun x w' => x = .returned (.agg #[.int .i64 0, .int .i64 0]) ∧ Below w.heap.size w w' := pt.fault_any (-1) w
theorem fault_at (A : Nat) (w : World) : Calls Tryd.prog 22 #[.int .i64 A] w fun x w' => x = .returned (.agg #[.int .i64 2, .int .i64 A]) ∧ Below w.heap.size w w' := by
  have h := pt.fault_any (A : Int) w
  rwa [if_neg (by omega), if_neg (by omega)] at h
theorem awake_any (w : World) (hT : pt.Tabs w) : Calls Tryd.prog 19 #[] w fun e w' => e = .returned (.bool true) ∧ Below w.heap.size w w' := by
  have HA := Lib.hid (Awake_any w hT)
  clear hT
  go_enter Tryd.func19, Tryd.ntmps19
  go_wp2_with (go_at_call 36; refine HA.out.mono ?_; rintro e1 w1 ⟨rfl, hb1⟩)
  go_ret
  exact ⟨rfl, hb1⟩
/-- What holds while a law compares. -/
structure St (w : World) (X : Nat) (e f : Int) (W : World) : Prop where
  f : pt.F2 W X e f
  t : pt.Tabs W
  bel : Below w.heap.size w W
theorem St.below {w : World} {X : Nat} {e f : Int} {W W' : World} (h : St w X e f W) (hb : Below W.heap.size W W') : St w X e f W' :=
  ⟨h.f.below hb h.f.lt, h.t.below hb, h.bel.trans (hb.mono h.bel.size)⟩
theorem St.drew {w : World} {X : Nat} {e f : Int} {W : World} (h : St w X e f W) : St w X e f W.drew := h.below (Below.refl _ _).drew
theorem St.new {w : World} {e f : Int} {W : World} (hT : pt.Tabs w) (h : Below w.heap.size w W) : St w W.heap.size e f (W.alloc (.cells #[.int .i64 e, .int .i64 f] 29)) :=
  ⟨pt.f2_new W e f _, hT.below (h.alloc h.size _), h.alloc h.size _⟩
set_option maxRecDepth 100000 in
theorem reads_big (s : ByteArray) (big : Bool) (w : World) (hbig : 2000 < s.size) (hs : s.size ≤ 9223372036854775807) (hT : pt.Tabs w) : Calls Tryd.prog 5 #[.string s, .bool big] w fun e w' => e = .returned (.bool true) ∧ Below w.heap.size w w' := by
  have HA := Lib.hid (awake_any w hT)
  clear hT
  go_enter Tryd.func5, Tryd.ntmps5
  go_wp2_with (go_at_call 19; refine HA.out.mono ?_; rintro e1 w1 ⟨rfl, hb1⟩)
  go_ret
  exact ⟨rfl, hb1⟩
set_option maxRecDepth 100000 in
set_option maxHeartbeats 1000000 in
theorem reads_bad (s : ByteArray) (big : Bool) (A : Nat) (w : World) (hs : s.size ≤ 2000) (hT : pt.Tabs w) (h : (wscan s big).2 = some A) (hA : A ≤ 2000) : Calls Tryd.prog 5 #[.string s, .bool big] w fun e w' => e = .returned (.bool true) ∧ Below w.heap.size w w' := by
  have hd := fun w2 => Decode_any s big w2 (by omega)
  have hr := fun w2 => refDecode_any s big w2 (by omega)
  have ht : wt (wscan s big) = ⟨#[]⟩ := by unfold wt; rw [h]; rfl
  rw [ht, h] at hd hr
  simp only [pt.fe, pt.fa, rat] at hd hr
  have HD := Lib.hid hd; have HR := Lib.hid hr; have HT := Lib.hid hT
  clear hd hr hT ht h
  go_enter Tryd.func5, Tryd.ntmps5
  go_wp2_with (first | (go_at_call 20; refine (HD.out _).mono ?_; rintro e1 w1 ⟨rfl, hb1⟩; have S1 := Lib.hid (St.new (e := 2) (f := (A : Int)) HT.out hb1); clear hb1) | (go_at_call 21; refine (HR.out _).mono ?_; rintro e2 w2 ⟨rfl, hb2⟩; have S2 := Lib.hid (S1.out.below hb2); clear hb2))
  have S3 := Lib.hid S2.out.drew
  obtain ⟨_, c0, c1, _, _⟩ := S2.out.f
  obtain ⟨X, hX⟩ : ∃ X, X = w1.heap.size := ⟨_, rfl⟩
  rw [← hX] at c0 c1 S3 ⊢
  clear S1 S2 hX
  go_region_held3 (fun w' => w'.cell? ⟨X, 0, none⟩ = some (.int .i64 2) ∧ w'.cell? ⟨X, 1, none⟩ = some (.int .i64 A)) (go_keep) ((go_at_call 22; refine (fault_at _ _).mono ?_; rintro e4 w4 ⟨rfl, hb4⟩; have S4 := Lib.hid (S3.out.below hb4); obtain ⟨_, k0, k1, _, _⟩ := S4.out.f))
  all_goals go_wp2_with (go_at_call 19; refine (awake_any _ S4.out.t).mono ?_; rintro e9 w9 ⟨rfl, hb9⟩; have S9 := Lib.hid (S4.out.below hb9))
  all_goals
    go_ret
    exact ⟨rfl, S9.out.bel⟩
set_option maxRecDepth 100000 in
set_option maxHeartbeats 1000000 in
theorem reads_good (s : ByteArray) (big : Bool) (w : World) (hs : s.size ≤ 2000) (hT : pt.Tabs w) (h : (wscan s big).2 = none) : Calls Tryd.prog 5 #[.string s, .bool big] w fun e w' => e = .returned (.bool true) ∧ Below w.heap.size w w' := by
  have hd := fun w2 => Decode_any s big w2 (by omega)
  have hr := fun w2 => refDecode_any s big w2 (by omega)
  have ht : wt (wscan s big) = pt.txt (wscan s big).1 := by unfold wt; rw [h]; rfl
  have hv : (wscan s big).1.all validRune = true := wd_valid s big s.size 0
  have hl : (wscan s big).1.length * 2 ≤ s.size - 0 := wd_len s big s.size 0
  have hsz : (pt.txt (wscan s big).1).size ≤ 4000 := by
    have := pt.txt_size (wscan s big).1
    have := pt.nums_len (wscan s big).1
    omega
  have he := fun w2 hT2 => Encode_good (pt.txt (wscan s big).1) big w2 hsz hT2 (pt.scan_txt _ hv).1
  rw [pt.zsOf_txt _ hv, wb_wscan s big h] at he
  rw [ht, h] at hd hr
  generalize pt.txt (wscan s big).1 = T at *
  simp only [pt.fe, pt.fa, rat] at hd hr
  have HD := Lib.hid hd; have HR := Lib.hid hr; have HT := Lib.hid hT; have HE := Lib.hid he
  clear hd hr hT ht h he hv hl hsz
  go_enter Tryd.func5, Tryd.ntmps5
  go_wp2_with (first | (go_at_call 20; refine (HD.out _).mono ?_; rintro e1 w1 ⟨rfl, hb1⟩; have S1 := Lib.hid (St.new (e := 0) (f := 0) HT.out hb1); clear hb1) | (go_at_call 21; refine (HR.out _).mono ?_; rintro e2 w2 ⟨rfl, hb2⟩; have S2 := Lib.hid (S1.out.below hb2); clear hb2))
  have S3 := Lib.hid S2.out.drew
  obtain ⟨_, c0, c1, _, _⟩ := S2.out.f
  obtain ⟨X, hX⟩ : ∃ X, X = w1.heap.size := ⟨_, rfl⟩
  rw [← hX] at c0 c1 S3 ⊢
  clear S1 S2 hX
  go_region_held3 (fun w' => w'.cell? ⟨X, 0, none⟩ = some (.int .i64 0) ∧ w'.cell? ⟨X, 1, none⟩ = some (.int .i64 0)) (go_keep) ((go_at_call 22; refine (fault_none _).mono ?_; rintro e4 w4 ⟨rfl, hb4⟩; have S4 := Lib.hid (S3.out.below hb4); obtain ⟨_, k0, k1, _, _⟩ := S4.out.f))
  all_goals go_wp2_with (first | (go_at_call 23; refine (HE.out _ S4.out.t).mono ?_; rintro e5 w5 ⟨rfl, hb5⟩; have S5 := Lib.hid (St.new (e := 0) (f := 0) HT.out (S4.out.bel.trans (hb5.mono S4.out.bel.size))); clear hb5) | (go_at_call 19; refine (awake_any _ S5.out.t).mono ?_; rintro e9 w9 ⟨rfl, hb9⟩; have S9 := Lib.hid (S5.out.below hb9); obtain ⟨_, k0, k1, _, _⟩ := S9.out.f) | (go_at_call 15; refine (pt.bad_any _ _ _).mono ?_; rintro e10 w10 ⟨rfl, hb10⟩; have S10 := Lib.hid (S9.out.below hb10)))
  all_goals
    go_ret
    exact ⟨rfl, S10.out.bel⟩
theorem reads_walk (s : ByteArray) (big : Bool) (w : World) (hs : s.size ≤ maxLen) (hT : pt.Tabs w) : Calls Tryd.prog 5 #[.string s, .bool big] w fun e w' => e = .returned (.bool true) ∧ Below w.heap.size w w' := by
  unfold maxLen at hs
  by_cases hbig : 2000 < s.size
  · exact reads_big s big w hbig (by omega) hT
  · cases h : (wscan s big).2 with
    | none => exact reads_good s big w (by omega) hT h
    | some A => exact reads_bad s big A w (by omega) hT h (by have := wd_place s big _ _ A h; omega)
end Go.Proofs.YtmogjimiiadmmaaDoor.wd
