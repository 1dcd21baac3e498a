/- The walks of the laws WideWrites and WideBack of layer 3. -/
import Derived.Test.YtmogjimiiadmmaaDoorWdReadsW
namespace Go.Proofs.YtmogjimiiadmmaaDoor.wd
open Go.RowKit Go.Lib
set_option linter.unusedVariables false
set_option maxRecDepth 100000 in
theorem writes_big (s : ByteArray) (big : Bool) (w : World) (hbig : 2000 < s.size) (hs : s.size ≤ 9223372036854775807) (hT : pt.Tabs w) : Calls Tryd.prog 6 #[.string s, .bool big] w fun e w' => e = .returned (.bool true) ∧ Below w.heap.size w w' := by
  have HA := Lib.hid (awake_any w hT)
  clear hT
  go_enter Tryd.func6, Tryd.ntmps6
  go_wp2_with (go_at_call 19; refine HA.out.mono ?_; rintro e1 w1 ⟨rfl, hb1⟩)
  go_ret
  exact ⟨rfl, hb1⟩
set_option maxRecDepth 100000 in
set_option maxHeartbeats 1000000 in
theorem writes_bad (s : ByteArray) (big : Bool) (A : Nat) (w : World) (hs : s.size ≤ 2000) (hT : pt.Tabs w) (h : (pt.scan s).2 = some A) : Calls Tryd.prog 6 #[.string s, .bool big] w fun e w' => e = .returned (.bool true) ∧ Below w.heap.size w w' := by
  have HE := Lib.hid (fun w2 hT2 => Encode_bad s big A w2 (by omega) hT2 h)
  have HP := Lib.hid (fun w2 => pt.refPoints_none s A w2 (by omega) h)
  have HT := Lib.hid hT
  clear hT h
  go_enter Tryd.func6, Tryd.ntmps6
  go_wp2_with (first | (go_at_call 23; refine (HE.out _ HT.out).mono ?_; rintro e1 w1 ⟨rfl, hb1⟩; have S1 := Lib.hid (St.new (e := 2) (f := (A : Int)) HT.out hb1); clear hb1) | (go_at_call 24; refine (HP.out _).mono ?_; rintro e2 w2 ⟨rfl, hb2⟩; have S2 := Lib.hid (S1.out.below hb2); clear hb2))
  have S3 := Lib.hid S2.out.drew
  obtain ⟨_, c0, c1, _, _⟩ := S2.out.f
  obtain ⟨X, hX⟩ : ∃ X, X = w1.heap.size := ⟨_, rfl⟩
  rw [← hX] at c0 c1 S3 ⊢
  clear S1 S2 hX
  go_region_held3 (fun w' => w'.cell? ⟨X, 0, none⟩ = some (.int .i64 2) ∧ w'.cell? ⟨X, 1, none⟩ = some (.int .i64 A)) (go_keep) ((go_at_call 22; refine (fault_at _ _).mono ?_; rintro e4 w4 ⟨rfl, hb4⟩; have S4 := Lib.hid (S3.out.below hb4); obtain ⟨_, k0, k1, _, _⟩ := S4.out.f))
  all_goals go_wp2_with (go_at_call 19; refine (awake_any _ S4.out.t).mono ?_; rintro e9 w9 ⟨rfl, hb9⟩; have S9 := Lib.hid (S4.out.below hb9))
  all_goals
    go_ret
    exact ⟨rfl, S9.out.bel⟩
/-- The same, and a row of signs. -/
structure Sr (w : World) (X : Nat) (e f : Int) (q : Option Addr) (n d : Nat) (zs : List Int) (W : World) : Prop where
  s : St w X e f W
  r : pt.RowI W q n d zs
theorem Sr.below {w : World} {X : Nat} {e f : Int} {q : Option Addr} {n d : Nat} {zs : List Int} {W W' : World} (h : Sr w X e f q n d zs W) (hb : Below W.heap.size W W') : Sr w X e f q n d zs W' := ⟨h.s.below hb, h.r.below hb⟩
set_option maxRecDepth 100000 in
set_option maxHeartbeats 1000000 in
theorem writes_good (s : ByteArray) (big : Bool) (w : World) (hs : s.size ≤ 2000) (hT : pt.Tabs w) (h : (pt.scan s).2 = none) : Calls Tryd.prog 6 #[.string s, .bool big] w fun e w' => e = .returned (.bool true) ∧ Below w.heap.size w w' := by
  have hv := pt.zsOf_valid s
  have hln : (pt.zsOf s).length ≤ 2000 := by
    have := pt.sc_len s s.size 0
    rw [pt.zsOf_len]; unfold pt.scan; omega
  obtain ⟨N, hN⟩ : ∃ N, N = (pt.zsOf s).length := ⟨_, rfl⟩
  have HE := Lib.hid (fun w2 hT2 => Encode_good s big w2 (by omega) hT2 h)
  have HP := Lib.hid (fun w2 => pt.refPoints_row s N w2 (by omega) h hN.symm)
  have htb := pt.txt_back s h
  have hn4 : N ≤ 8000 := by omega
  generalize pt.zsOf s = zs at *
  have HRE := Lib.hid (fun w2 p c hr => refEncode_any big p N c zs w2 hr hn4 hv)
  have hul := uss_len zs
  have hwz := wb_size big zs
  have hd := fun w2 => Decode_any (wb big zs) big w2 (by omega)
  have hw := wscan_wb big zs hv
  have ht : wt (wscan (wb big zs) big) = s := by unfold wt; rw [hw]; exact htb
  rw [ht, hw] at hd
  simp only [pt.fe, pt.fa] at hd
  clear hw ht hwz hul htb hv hln hN
  generalize wb big zs = B at *
  have HD := Lib.hid hd; have HT := Lib.hid hT
  clear hd hT h
  go_enter Tryd.func6, Tryd.ntmps6
  go_wp2_with (first | (go_at_call 23; refine (HE.out _ HT.out).mono ?_; rintro e1 w1 ⟨rfl, hb1⟩; have S1 := Lib.hid (St.new (e := 0) (f := 0) HT.out hb1); clear hb1) | (go_at_call 24; refine (HP.out _).mono ?_; rintro e2 w2 ⟨q, d, rfl, hr2, hb2⟩; have S2 : Hid (Sr w w1.heap.size 0 0 q N d zs w2) := Lib.hid ⟨S1.out.below hb2, hr2⟩; clear hb2 hr2))
  have S3 := Lib.hid (S2.out.below (Below.refl _ _).drew)
  obtain ⟨_, c0, c1, _, _⟩ := S2.out.s.f
  obtain ⟨X, hX⟩ : ∃ X, X = w1.heap.size := ⟨_, rfl⟩
  rw [← hX] at c0 c1 S3 ⊢
  clear S1 S2 hX
  go_region_held3 (fun w' => w'.cell? ⟨X, 0, none⟩ = some (.int .i64 0) ∧ w'.cell? ⟨X, 1, none⟩ = some (.int .i64 0)) (go_keep) ((go_at_call 22; refine (fault_none _).mono ?_; rintro e4 w4 ⟨rfl, hb4⟩; have S4 := Lib.hid (S3.out.below hb4); obtain ⟨_, k0, k1, _, _⟩ := S4.out.s.f))
  all_goals go_wp2_with (first | (go_at_call 20; refine (HD.out _).mono ?_; rintro e5 w5 ⟨rfl, hb5⟩; have S5 : Hid (Sr w w5.heap.size 0 0 q N d zs (w5.alloc (.cells #[.int .i64 0, .int .i64 0] 29))) := Lib.hid ⟨St.new (e := 0) (f := 0) HT.out (S4.out.s.bel.trans (hb5.mono S4.out.s.bel.size)), (S4.out.r.below hb5).below ((Below.refl _ _).alloc (Nat.le_refl _) _)⟩; clear hb5) | (go_at_call 19; refine (awake_any _ S5.out.s.t).mono ?_; rintro e9 w9 ⟨rfl, hb9⟩; have S9 := Lib.hid (S5.out.below hb9); clear hb9) | (go_at_call 25; refine (HRE.out _ _ _ S9.out.r).mono ?_; rintro e11 w11 ⟨rfl, hb11⟩; have S11 := Lib.hid (S9.out.below hb11); obtain ⟨_, k0, k1, _, _⟩ := S11.out.s.f; clear hb11) | (go_at_call 15; refine (pt.bad_any _ _ _).mono ?_; rintro e10 w10 ⟨rfl, hb10⟩; have S10 := Lib.hid (S11.out.below hb10)))
  all_goals
    go_ret
    exact ⟨rfl, S10.out.s.bel⟩
theorem writes_walk (s : ByteArray) (big : Bool) (w : World) (hs : s.size ≤ maxLen) (hT : pt.Tabs w) : Calls Tryd.prog 6 #[.string s, .bool big] w fun e w' => e = .returned (.bool true) ∧ Below w.heap.size w w' := by
  unfold maxLen at hs
  by_cases hbig : 2000 < s.size
  · exact writes_big s big w hbig (by omega) hT
  · cases h : (pt.scan s).2 with
    | none => exact writes_good s big w (by omega) hT h
    | some A => exact writes_bad s big A w (by omega) hT h
end Go.Proofs.YtmogjimiiadmmaaDoor.wd
