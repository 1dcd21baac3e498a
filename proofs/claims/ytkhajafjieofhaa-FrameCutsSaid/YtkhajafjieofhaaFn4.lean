/- Layer 13: the walk of FrameFlags. -/
import Derived.Test.YtkhajafjieofhaaFn3
namespace Go.Proofs.Ytkhajafjieofhaa.fn
open Go.RowKit Go.Lib
open Go.Proofs.Ytkhajafjieofhaa.fr
set_option linter.unusedVariables false
/-- Three cells of a block, since a world. -/
structure T3 (w : World) (p : Nat) (v0 v1 v2 : Value) (W : World) : Prop where
  lt : p < W.heap.size
  c0 : W.cell? ⟨p, 0, none⟩ = some v0
  c1 : W.cell? ⟨p, 1, none⟩ = some v1
  c2 : W.cell? ⟨p, 2, none⟩ = some v2
  b : Below w.heap.size w W
theorem T3.below {w W W' : World} {p : Nat} {v0 v1 v2 : Value} (h : T3 w p v0 v1 v2 W) (hb : Below W.heap.size W W') : T3 w p v0 v1 v2 W' :=
  ⟨Nat.lt_of_lt_of_le h.lt hb.size, (hb.cell (p := ⟨p, 0, none⟩) h.lt).trans h.c0, (hb.cell (p := ⟨p, 1, none⟩) h.lt).trans h.c1, (hb.cell (p := ⟨p, 2, none⟩) h.lt).trans h.c2, h.b.trans (hb.mono h.b.size)⟩
theorem t3_new (w : World) (t : TypeId) (v0 v1 v2 : Value) : T3 w w.heap.size v0 v1 v2 (w.alloc (.cells #[v0, v1, v2] t)) := by
  refine ⟨by simp, ?_, ?_, ?_, al w _⟩ <;> (rw [World.cell?_alloc_mark]; rfl)
theorem u8_of {m : Int} (h0 : 0 ≤ m) (h1 : m ≤ 255) : ∃ c : UInt8, m = (c.toNat : Int) := ⟨UInt8.ofNat m.toNat, by rw [UInt8.toNat_ofNat_of_lt' (show m.toNat < UInt8.size by show _ < 256; omega)]; omega⟩
set_option maxRecDepth 100000 in
set_option maxHeartbeats 4000000 in
theorem flags_walk {K : World → Prop} (L : Fm K) (v m : Int) (s : ByteArray) (w : World) (hK : K w) (hm0 : 0 ≤ m) (hm1 : m ≤ 255) (hs : s.size ≤ maxLen) : Calls Try.prog 3 #[.int .i64 v, .int .u8 m, .string s] w fun e w' => e = .returned (.bool true) ∧ Below w.heap.size w w' := by
  have HAW := Lib.hid (fun W h => awake_any L W h)
  have HK : Hid (∀ W, Below w.heap.size w W → K W) := Lib.hid (fun W h => L.u.stay w W hK h)
  unfold maxLen at hs
  by_cases h : 100 < s.size
  · have h1 : (100 : Int) < s.size := by omega
    have HA := Lib.hid (HAW.out _ hK)
    clear L hK h HAW HK
    go_enter Try.func3, Try.ntmps3
    go_wp2_with (go_at_call 7; refine (HA.out).mono ?_; rintro e2 w2 ⟨rfl, hb2⟩)
    go_ret
    exact ⟨rfl, hb2⟩
  have h1 : ¬ (100 : Int) < s.size := by omega
  obtain ⟨c, rfl⟩ := u8_of hm0 hm1
  have hc : c.toNat ≤ 255 := by omega
  have hl : s.data.toList.length ≤ 1000 := by rw [un.size_list]; omega
  have F : Fr := ⟨s.data.toList, 0, c, 0, []⟩
  have HLO := Lib.hid (fun W h => L.locked v ⟨s.data.toList, 0, c, 0, []⟩ W h hl)
  have HGR := Lib.hid (fun W h => L.grouped v ⟨s.data.toList, 0, c, 0, []⟩ W h hl)
  have HME := Lib.hid (fun W h => L.measured v ⟨s.data.toList, 0, c, 0, []⟩ W h hl)
  have HSP := Lib.hid (fun W h => L.spread v ⟨s.data.toList, 0, c, 0, []⟩ W h hl)
  have HLE := Lib.hid (fun W h => L.letters v W h)
  have HNA := Lib.hid (fun W h => L.named v s W h (by omega))
  simp only [vH, un.bs_back] at HLO HGR HME HSP
  have RLO := Lib.hid (fun W => Locked_any v c.toNat W hc)
  have RGR := Lib.hid (fun W => Grouped_any v c.toNat W hc)
  have RME := Lib.hid (fun W => Measured_any v c.toNat W hc)
  have RSP := Lib.hid (fun W => Spread_any v c.toNat W hc)
  have RLE := Lib.hid (fun W => Letters_any v W)
  have RNA := Lib.hid (fun W => Named_any v s W (by omega))
  have z0 : (((0 : UInt8).toNat : Nat) : Int) = 0 := rfl
  rw [z0] at HLO HGR HME HSP
  clear z0 F hl L h hK
  generalize lckd v c.toNat = b1 at *
  generalize grpd v c.toNat = b2 at *
  generalize msrd v c.toNat = b3 at *
  generalize sprd v c.toNat = b4 at *
  generalize ((ltrs v : Nat) : Int) = n5 at *
  generalize nmd v s.data.toList = b6 at *
  have wm : IntKind.i64.wrap ((c.toNat : Nat) : Int) = ((c.toNat : Nat) : Int) := by simp [IntKind.wrap, IntKind.bits, IntKind.signed]; omega
  generalize ((c.toNat : Nat) : Int) = m at *
  clear hc
  have T0 := Lib.hid (t3_new w 24 (.string s) (.int .u8 0) (.int .u8 m))
  go_enter Try.func3, Try.ntmps3
  go_wp2_with (first
    | (go_at_call 18; refine (HNA.out _ (HK.out _ T6.out.b)).mono ?_; rintro e1 w7 ⟨rfl, hb1⟩; have T7 := Lib.hid (T6.out.below hb1); clear hb1; obtain ⟨_, y0, y1, y2, _⟩ := T7.out)
    | (go_at_call 16; refine (HLE.out _ (HK.out _ T5.out.b)).mono ?_; rintro e1 w6 ⟨rfl, hb1⟩; have T6 := Lib.hid (T5.out.below hb1); clear hb1; obtain ⟨_, y0, y1, y2, _⟩ := T6.out)
    | (go_at_call 14; refine (HSP.out _ (HK.out _ T4.out.b)).mono ?_; rintro e1 w5 ⟨rfl, hb1⟩; have T5 := Lib.hid (T4.out.below hb1); clear hb1; obtain ⟨_, y0, y1, y2, _⟩ := T5.out)
    | (go_at_call 12; refine (HME.out _ (HK.out _ T3.out.b)).mono ?_; rintro e1 w4 ⟨rfl, hb1⟩; have T4 := Lib.hid (T3.out.below hb1); clear hb1; obtain ⟨_, y0, y1, y2, _⟩ := T4.out)
    | (go_at_call 10; refine (HGR.out _ (HK.out _ T2.out.b)).mono ?_; rintro e1 w3 ⟨rfl, hb1⟩; have T3 := Lib.hid (T2.out.below hb1); clear hb1; obtain ⟨_, y0, y1, y2, _⟩ := T3.out)
    | (go_at_call 8; refine (HLO.out _ (HK.out _ T1.out.b)).mono ?_; rintro e1 w2 ⟨rfl, hb1⟩; have T2 := Lib.hid (T1.out.below hb1); clear hb1; obtain ⟨_, y0, y1, y2, _⟩ := T2.out)
    | (go_at_call 7; refine (HAW.out _ (HK.out _ T0.out.b)).mono ?_; rintro e1 w1 ⟨rfl, hb1⟩; have T1 := Lib.hid (T0.out.below hb1); clear hb1; obtain ⟨_, y0, y1, y2, _⟩ := T1.out)
    | (go_at_call 9; refine (RLO.out _).mono ?_; rintro e1 w8 ⟨rfl, rfl⟩)
    | (go_at_call 11; refine (RGR.out _).mono ?_; rintro e1 w8 ⟨rfl, rfl⟩)
    | (go_at_call 13; refine (RME.out _).mono ?_; rintro e1 w8 ⟨rfl, rfl⟩)
    | (go_at_call 15; refine (RSP.out _).mono ?_; rintro e1 w8 ⟨rfl, rfl⟩)
    | (go_at_call 17; refine (RLE.out _).mono ?_; rintro e1 w8 ⟨rfl, rfl⟩)
    | (go_at_call 19; refine (RNA.out _).mono ?_; rintro e1 w8 ⟨rfl, rfl⟩))
  go_ret
  exact ⟨by simp, T7.out.b⟩
end Go.Proofs.Ytkhajafjieofhaa.fn
