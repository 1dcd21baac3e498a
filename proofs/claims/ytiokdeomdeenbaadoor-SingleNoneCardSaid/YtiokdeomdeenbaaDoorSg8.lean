/- Encode of what is no text, or without codes; the example of layer 5. -/
import Derived.Test.YtiokdeomdeenbaaDoorSg7
namespace Go.Proofs.YtiokdeomdeenbaaDoor.sg
open Go.RowKit Go.Lib
open Go.Proofs.YtiokdeomdeenbaaDoor.tb
set_option linter.unusedVariables false
theorem te_nil (w : World) : TE TBr w (.slice none 0 0) [] := ⟨w.heap.size, [], RO.nil _ _, List.Pairwise.nil, fun _ h => (by cases h), rfl⟩
set_option maxRecDepth 100000 in
set_option maxHeartbeats 4000000 in
theorem encode_bad (A : Nat) (c' : Int) (X : Value) (l : List (Int × Int)) (s : ByteArray) (w : World) (hs : s.size ≤ 4000) (h : (pt.scan s).2 = some A) (hx : TE TBr w X l) (hT : pt.Tabs w) :
    Calls Tryd.prog 31 #[.agg #[X, .int .i64 c'], .string s] w fun e w' => e = .returned (.tuple #[.string ⟨#[]⟩, .agg #[.int .i64 2, .int .i64 A]]) ∧ Below w.heap.size w w' := by
  have h1c := TE.one hx
  have hchk : ∀ W, pt.Tabs W → Calls Tryd.prog 56 #[.string s] W fun e w' => e = .returned (.agg #[.int .i64 2, .int .i64 A]) ∧ Below W.heap.size W w' := fun W hW => by
    have h2 := pt.check_any s W (by omega) hW
    rw [h] at h2
    exact h2
  have HBD : Hid (∀ W x, Calls Tryd.prog 17 #[.agg #[.int .i64 2, .int .i64 x]] W fun e w' => e = .returned (.bool true) ∧ Below W.heap.size W w') := Lib.hid (fun W x => pt.bad_any W 2 x)
  have HX := Lib.hid hx; have HT := Lib.hid hT; have HCK := Lib.hid hchk
  have D0 : Hid (Dc w X c' l (dcW w X c')) := Lib.hid (Dc.new hx)
  clear hx hT hchk h
  go_enter Tryd.func31, Tryd.ntmps31
  go_wp2_with (first
    | (go_at_call 56; refine (HCK.out _ (HT.out.below D0.out.b)).mono ?_; rintro e1 w1 ⟨rfl, hb1⟩; have D1 := Lib.hid (D0.out.below hb1); clear hb1; obtain ⟨_, z0, z1, z2, z3⟩ := pt.f2_new w1 0 0 30)
    | (go_at_call 17; refine (HBD.out _ _).mono ?_; rintro e2 w2 ⟨rfl, hb2⟩; have hA : Below w1.heap.size w1 (w1.alloc (.cells #[.int .i64 2, .int .i64 A] 30)) := (Below.refl _ _).alloc (Nat.le_refl _) _; have D2 := Lib.hid ((D1.out.below hA).below hb2); have E2 := Lib.hid ((pt.f2_new w1 2 A 30).below hb2 (by simp)); clear hb2 hA; obtain ⟨_, e0, e1, e2, e3⟩ := E2.out; obtain ⟨_, ⟨_, f0, f1, f2, f3⟩, _, _⟩ := D2.out))
  have hle : w.heap.size + 1 + 1 ≤ w1.heap.size := D1.out.le
  have n0 : ¬ w1.heap.size = w.heap.size + 1 := by omega
  have n1 : ¬ w.heap.size + 1 = w1.heap.size := by omega
  go_region
  all_goals go_wp2_with fail
  refine bodyPost_ret (v := .tuple #[.string ⟨#[]⟩, .agg #[.int .i64 2, .int .i64 A]]) (by simp [results, Tryd.results31, go_sem, f0, f1]) rfl ⟨rfl, ?_⟩
  exact ((D2.out.b.setCell (p := ⟨w.heap.size + 1, 0, none⟩) (Nat.le_succ _) _).setCell (p := ⟨w.heap.size + 1, 1, none⟩) (Nat.le_succ _) _).drew
set_option maxRecDepth 100000 in
set_option maxHeartbeats 4000000 in
theorem encode_none (c' : Int) (X : Value) (w : World) (hx : TE TBr w X []) (hT : pt.Tabs w) :
    Calls Tryd.prog 31 #[.agg #[X, .int .i64 c'], .string ⟨#[97]⟩] w fun e w' => e = .returned (.tuple #[.string ⟨#[]⟩, .agg #[.int .i64 6, .int .i64 0]]) ∧ Below w.heap.size w w' := by
  have h1c := TE.one hx
  have hchk : ∀ W, pt.Tabs W → Calls Tryd.prog 56 #[.string ⟨#[97]⟩] W fun e w' => e = .returned (.agg #[.int .i64 0, .int .i64 0]) ∧ Below W.heap.size W w' := fun W hW => by
    have h := pt.check_any ⟨#[97]⟩ W (by decide) hW
    rw [show (pt.scan ⟨#[97]⟩).2 = none from by kernel_rfl] at h
    exact h
  have HBD : Hid (∀ W, Calls Tryd.prog 17 #[.agg #[.int .i64 0, .int .i64 0]] W fun e w' => e = .returned (.bool false) ∧ Below W.heap.size W w') := Lib.hid (fun W => pt.bad_any W 0 0)
  have hrv : ∀ W, TE TBr W X [] → Calls Tryd.prog 21 #[.agg #[X], .int .i32 97] W fun e w' => e = .returned (.tuple #[.int .i64 0, .bool false]) ∧ Below W.heap.size W w' := fun W hW => tbr_reverse W X [] 97 hW (by decide)
  have hmk : ∀ w : World, (Instr.makeSlice 101 (.int .i64 0) (.int .i64 1)).run Tryd.prog w = .ok (.slice (some ⟨w.heap.size, 0, none⟩) 0 1) (w.alloc (.cells (madeCells #[.int .u8 0] 1) 5)) := fun w => pt.mk_bytes 1 (by decide) w
  have HX := Lib.hid hx; have HT := Lib.hid hT; have HCK := Lib.hid hchk; have HRV := Lib.hid hrv
  have D0 : Hid (Dc w X c' [] (dcW w X c')) := Lib.hid (Dc.new hx)
  clear hx hT hchk hrv
  go_enter Tryd.func31, Tryd.ntmps31
  go_wp2_with (first
    | (go_at_call 56; refine (HCK.out _ (HT.out.below D0.out.b)).mono ?_; rintro e1 w1 ⟨rfl, hb1⟩; have D1 := Lib.hid (D0.out.below hb1); clear hb1; obtain ⟨_, z0, z1, z2, z3⟩ := pt.f2_new w1 0 0 30)
    | (go_at_call 17; refine (HBD.out _).mono ?_; rintro e2 w2 ⟨rfl, hb2⟩; have D2 := Lib.hid ((D1.out.below ((Below.refl _ _).alloc (Nat.le_refl _) (.cells #[.int .i64 0, .int .i64 0] 30))).below hb2); clear hb2))
  have hle := D2.out.le
  have hitle : w.heap.size + 1 + 1 ≤ w2.heap.size + 1 := by omega
  go_loopw [7] (fun v wr => wr.heap[w2.heap.size + 1]? = some (.stringIter ⟨#[97]⟩ 0) ∧ Dc w X c' [] wr) (fun _ wr => 0)
  case atStart =>
    have h1 : Below w2.heap.size w2 (w2.alloc (.cells (madeCells #[.int .u8 0] 1) 5)) := (Below.refl _ _).alloc (Nat.le_refl _) _
    have h2 : Below (w2.alloc (.cells (madeCells #[.int .u8 0] 1) 5)).heap.size (w2.alloc (.cells (madeCells #[.int .u8 0] 1) 5)) ((w2.alloc (.cells (madeCells #[.int .u8 0] 1) 5)).iter ⟨#[97]⟩ 0) := (Below.refl _ _).alloc (Nat.le_refl _) _
    refine ⟨?_, (D2.out.below h1).below h2⟩
    have := World.iter_heap (w2.alloc (.cells (madeCells #[.int .u8 0] 1) 5)) ⟨#[97]⟩ 0
    rw [World.size_alloc] at this
    exact this
  case round =>
    obtain ⟨hi, hD⟩ := hrel
    have HIT := Lib.hid hi
    have hnx : ∀ ty, (Instr.next (.pointer (some ⟨w2.heap.size + 1, 0, none⟩)) true ty).run Tryd.prog wr = .ok (.tuple #[.bool true, .int .i64 0, .int .i32 97]) (wr.iterAt (w2.heap.size + 1) ⟨#[97]⟩ 1) := fun ty => by
      have h := run_next_any_at (P := Tryd.prog) wr (w2.heap.size + 1) ⟨#[97]⟩ 0 ty HIT.out (by decide)
      rw [show Utf8.decode ⟨#[97]⟩ 0 = (97, 1) from by kernel_rfl] at h
      exact h
    have D1' := Lib.hid (Dc.of (c := c') HX.out (below_iterAt hD.g hitle ⟨#[97]⟩ 1))
    obtain ⟨⟨_, k0, k1, k2, _⟩, ⟨_, f0, f1, f2, f3⟩, _, _⟩ := D1'.out
    clear hi hD
    go_wp2_with (go_at_call 21; refine (HRV.out _ D1'.out.t).mono ?_; rintro e3 w3 ⟨rfl, hb3⟩; have D3 := Lib.hid (D1'.out.below hb3); clear hb3; obtain ⟨_, ⟨_, g0, g1, g2, g3⟩, _, _⟩ := D3.out)
    refine bodyPost_ret (v := .tuple #[.string ⟨#[]⟩, .agg #[.int .i64 6, .int .i64 0]]) (by simp [results, Tryd.results31, go_sem, g0, g1]) rfl ⟨rfl, ?_⟩
    exact (D3.out.b.setCell (p := ⟨w.heap.size + 1, 0, none⟩) (Nat.le_succ _) _).setCell (p := ⟨w.heap.size + 1, 1, none⟩) (Nat.le_succ _) _
theorem k2z (w : World) : K2 (w.alloc (.cells #[.slice none 0 0, .int .i64 0] 56)) w.heap.size 56 (.slice none 0 0) (.int .i64 0) := k2_new w _ _ _
set_option maxRecDepth 100000 in
set_option maxHeartbeats 8000000 in
theorem awake_walk (w : World) (hT : pt.Tabs w) : Calls Tryd.prog 53 #[] w fun e w' => e = .returned (.bool true) ∧ Below w.heap.size w w' := by
  have HT := Lib.hid hT
  have HB := Lib.hid (Below.refl w.heap.size w)
  have HD : Hid (∀ W X, TE TBr W X (tbl 1) → Calls Tryd.prog 30 #[.agg #[X, .int .i64 1], .string ⟨#[193, 194]⟩] W fun e w' => e = .returned (.tuple #[.string ⟨#[208, 176, 208, 177]⟩, .agg #[.int .i64 0, .int .i64 0]]) ∧ Below W.heap.size W w') := Lib.hid (fun W X h => (decode_any 1 1 X ⟨#[193, 194]⟩ W (by decide) (by decide) (by decide) h).mono fun e w' hh => ⟨by rw [hh.1, show pt.txt (sdec 1 (⟨#[193, 194]⟩ : ByteArray).data.toList) = ⟨#[208, 176, 208, 177]⟩ from by kernel_rfl], hh.2⟩)
  have HE : Hid (∀ W X, pt.Tabs W → TE TBr W X (tbl 0) → Calls Tryd.prog 31 #[.agg #[X, .int .i64 0], .string ⟨#[208, 132]⟩] W fun e w' => e = .returned (.tuple #[.string ⟨#[]⟩, .agg #[.int .i64 6, .int .i64 0]]) ∧ Below W.heap.size W w') := Lib.hid (fun W X hW h => by
    have hh := encode_good 0 0 X [1028] W (by decide) (by decide) (by decide +kernel) (by decide) h hW
    rw [show pt.txt [1028] = ⟨#[208, 132]⟩ from by kernel_rfl, show senc 0 0 [1028] = ([], some 0) from by kernel_rfl] at hh
    exact hh)
  have HA2 := Lib.hid (fun w2 h2 => pt.Awake_any w2 h2)
  have HA4 := Lib.hid (fun w2 h2 => tb.awake_walk w2 h2)
  have HBD : Hid (∀ W, Calls Tryd.prog 17 #[.agg #[.int .i64 0, .int .i64 0]] W fun e w' => e = .returned (.bool false) ∧ Below W.heap.size W w') := Lib.hid (fun W => pt.bad_any W 0 0)
  clear hT
  go_enter Tryd.func53, Tryd.ntmps53
  go_wp2_with (first
    | (go_at_call 27; (with_reducible refine (of_any 1 _ (HT.out.below HB.out) (by decide) (by decide)).mono ?_); rintro e1 w1 ⟨X, rfl, hx, hb1⟩; have hA : Below w1.heap.size w1 (w1.alloc (.cells #[X, .int .i64 1] 56)) := (Below.refl _ _).alloc (Nat.le_refl _) _; have hst := (fun wx (a : Addr) m => run_store (P := Tryd.prog) (w := wx) (a := a) X m (TE.one hx)); have B1 := Lib.hid ((HB.out.trans (hb1.mono HB.out.size)).trans (hA.mono (Nat.le_trans HB.out.size hb1.size))); have X1 := Lib.hid (te_below hx hA); obtain ⟨_, z0, z1, z2, _⟩ := k2z w1; obtain ⟨_, y0, y1, y2, _⟩ := k2_new w1 56 X (.int .i64 1); clear hx hb1 hA)
    | (go_at_call 30; (with_reducible refine (HD.out _ X X1.out).mono ?_); rintro e2 w2 ⟨rfl, hb2⟩; have hA : Below w2.heap.size w2 (w2.alloc (.cells #[.int .i64 0, .int .i64 0] 30)) := (Below.refl _ _).alloc (Nat.le_refl _) _; have B2 := Lib.hid ((B1.out.trans (hb2.mono B1.out.size)).trans (hA.mono (Nat.le_trans B1.out.size hb2.size))); have F2 := Lib.hid (pt.f2_new w2 0 0 30); obtain ⟨_, v0, v1, v2, v3⟩ := F2.out; clear hb2 hA)
    | (go_at_call 27; (with_reducible refine (of_any 0 _ (HT.out.below B2.out) (by decide) (by decide)).mono ?_); rintro e3 w3 ⟨Y, rfl, hy, hb3⟩; have hA : Below w3.heap.size w3 (w3.alloc (.cells #[Y, .int .i64 0] 56)) := (Below.refl _ _).alloc (Nat.le_refl _) _; have hst2 := (fun wx (a : Addr) m => run_store (P := Tryd.prog) (w := wx) (a := a) Y m (TE.one hy)); have B3 := Lib.hid ((B2.out.trans (hb3.mono B2.out.size)).trans (hA.mono (Nat.le_trans B2.out.size hb3.size))); have F3 := Lib.hid ((F2.out.below hb3 F2.out.lt).below hA (Nat.lt_of_lt_of_le F2.out.lt hb3.size)); have Y1 := Lib.hid (te_below hy hA); obtain ⟨_, p0, p1, p2, _⟩ := k2z w3; obtain ⟨_, q0, q1, q2, _⟩ := k2_new w3 56 Y (.int .i64 0); clear hy hb3 hA)
    | (go_at_call 31; (with_reducible refine (HE.out _ Y (HT.out.below B3.out) Y1.out).mono ?_); rintro e4 w4 ⟨rfl, hb4⟩; have hA : Below w4.heap.size w4 (w4.alloc (.cells #[.int .i64 6, .int .i64 0] 30)) := (Below.refl _ _).alloc (Nat.le_refl _) _; have B4 := Lib.hid ((B3.out.trans (hb4.mono B3.out.size)).trans (hA.mono (Nat.le_trans B3.out.size hb4.size))); have F4 := Lib.hid ((F3.out.below hb4 F3.out.lt).below hA (Nat.lt_of_lt_of_le F3.out.lt hb4.size)); have E4 := Lib.hid (pt.f2_new w4 6 0 30); obtain ⟨_, r0, r1, r2, r3⟩ := pt.f2_new w4 0 0 30; clear hb4 hA)
    | (go_at_call 78; (with_reducible refine (HA2.out _ (HT.out.below B4.out)).mono ?_); rintro e5 w5 ⟨rfl, hb5⟩; have B5 := Lib.hid (B4.out.trans (hb5.mono B4.out.size)); have F5 := Lib.hid (F4.out.below hb5 F4.out.lt); have E5 := Lib.hid (E4.out.below hb5 E4.out.lt); clear hb5)
    | (go_at_call 36; (with_reducible refine (HA4.out _ (HT.out.below B5.out)).mono ?_); rintro e6 w6 ⟨rfl, hb6⟩; have B6 := Lib.hid (B5.out.trans (hb6.mono B5.out.size)); have F6 := Lib.hid (F5.out.below hb6 F5.out.lt); have E6 := Lib.hid (E5.out.below hb6 E5.out.lt); obtain ⟨_, s0, s1, _, _⟩ := F6.out; clear hb6)
    | (go_at_call 17; (with_reducible refine (HBD.out _).mono ?_); rintro e7 w7 ⟨rfl, hb7⟩; have B7 := Lib.hid (B6.out.trans (hb7.mono B6.out.size)); have E7 := Lib.hid (E6.out.below hb7 E6.out.lt); obtain ⟨_, t0, t1, _, _⟩ := E7.out; clear hb7))
  go_ret
  exact ⟨rfl, B7.out⟩
theorem awake5_any (w : World) (hT : pt.Tabs w) : Calls Tryd.prog 28 #[] w fun e w' => e = .returned (.bool true) ∧ Below w.heap.size w w' := by
  have HA := Lib.hid (fun w2 h2 => awake_walk w2 h2)
  have HT := Lib.hid hT
  clear hT
  go_enter Tryd.func28, Tryd.ntmps28
  go_wp2_with (go_at_call 53; refine (HA.out _ HT.out).mono ?_; rintro e1 w1 ⟨rfl, hb1⟩)
  go_ret
  exact ⟨rfl, hb1⟩
end Go.Proofs.YtiokdeomdeenbaaDoor.sg
