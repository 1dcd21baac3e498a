/- Several texts in one. -/
import Derived.Test.YtiigknimfibdpaaGreatDoorRows
import Derived.Test.YtiigknimfibdpaaGreatDoorFlat
import Derived.Test.YtiigknimfibdpaaGreatDoorChH
import Derived.Test.YtiigknimfibdpaaGreatDoorZ33
import Derived.Test.YtiigknimfibdpaaGreatDoorZ27
import Derived.Test.YtiigknimfibdpaaGreatDoorZ40
import Derived.Test.YtiigknimfibdpaaGreatDoorZ15
import Derived.Test.YtiigknimfibdpaaGreatDoorZ19
import Derived.ProofKit
import Derived.Lib.LaidU8
import Derived.Deep.DeepHandedRow
import Derived.Test.YtiigknimfibdpaaGreatDoorZ30
import Derived.Test.YtiigknimfibdpaaGreatDoorZ31
import Derived.Test.YtiigknimfibdpaaGreatDoorZ29
import Derived.Test.YtiigknimfibdpaaGreatDoorZ38
namespace Go.Proofs.YtiigknimfibdpaaGreatDoor.chl
open Go.RowKit
set_option linter.unusedVariables false
structure Tabs (w : World) : Prop where
  k : ch.K9 w
  n : ch.NM w
def doubleCells : List Value := [.int .i64 34914, .int .i32 202, .int .i32 772, .int .i64 34916, .int .i32 202, .int .i32 780, .int .i64 34979, .int .i32 234, .int .i32 772, .int .i64 34981, .int .i32 234, .int .i32 780]
def kindCells : List Value := [.string jo.K0, .int .i64 (-1), .int .i64 10, .string jo.K1, .int .i64 (-1), .int .i64 5, .string jo.K2, .int .i64 0, .int .i64 0]
def nameCells : List Value := [.string ⟨#[108, 97, 116, 105, 110, 49]⟩, .int .i64 0, .string ⟨#[105, 115, 111, 45, 56, 56, 53, 57, 45, 49]⟩, .int .i64 0, .string ⟨#[108, 97, 116, 105, 110, 45, 49]⟩, .int .i64 0, .string ⟨#[107, 111, 105, 56, 45, 114]⟩, .int .i64 1, .string ⟨#[107, 111, 105, 56, 114]⟩, .int .i64 1, .string ⟨#[107, 111, 105, 56, 45, 117]⟩, .int .i64 2, .string ⟨#[107, 111, 105, 56, 117]⟩, .int .i64 2, .string ⟨#[99, 112, 56, 54, 54]⟩, .int .i64 3, .string ⟨#[105, 98, 109, 56, 54, 54]⟩, .int .i64 3, .string ⟨#[99, 112, 57, 52, 57]⟩, .int .i64 4, .string ⟨#[101, 117, 99, 45, 107, 114]⟩, .int .i64 4, .string ⟨#[117, 104, 99]⟩, .int .i64 4, .string ⟨#[106, 111, 104, 97, 98]⟩, .int .i64 5, .string ⟨#[99, 112, 49, 51, 54, 49]⟩, .int .i64 5, .string ⟨#[98, 105, 103, 53, 45, 104, 107, 115, 99, 115]⟩, .int .i64 6, .string ⟨#[98, 105, 103, 53]⟩, .int .i64 6, .string ⟨#[117, 116, 102, 45, 56]⟩, .int .i64 7, .string ⟨#[117, 116, 102, 56]⟩, .int .i64 7, .string ⟨#[117, 116, 102, 45, 49, 54, 108, 101]⟩, .int .i64 8, .string ⟨#[117, 116, 102, 49, 54, 108, 101]⟩, .int .i64 8, .string ⟨#[117, 116, 102, 45, 49, 54, 98, 101]⟩, .int .i64 9, .string ⟨#[117, 116, 102, 49, 54, 98, 101]⟩, .int .i64 9]
theorem first_eq : (Rows.laid_unicode_utf8_first : DataW Unit) = Lib.firstData := by kernel_rfl
theorem accept_eq : (Rows.laid_unicode_utf8_acceptRanges : DataW Unit) = Lib.acceptData := by kernel_rfl
theorem doubles_flat : flat.flat Tryz.prog 5 201 Rows.laid_diacritic_big5_doubles = some doubleCells := by kernel_rfl
theorem kinds_flat : flat.flat Tryz.prog 4 192 Rows.laid_diacritic_johab_kinds = some kindCells := by kernel_rfl
theorem names_flat : flat.flat Tryz.prog 4 87 Rows.laid_diacritic_charset_names = some nameCells := by kernel_rfl
theorem tabs_of {W : World} (h : laidMetH Tryz.prog [("unicode/utf8.acceptRanges", Rows.laid_unicode_utf8_acceptRanges), ("diacritic/big5.doubles", Rows.laid_diacritic_big5_doubles), ("diacritic/johab.kinds", Rows.laid_diacritic_johab_kinds), ("diacritic/charset.names", Rows.laid_diacritic_charset_names), ("unicode/utf8.first", Rows.laid_unicode_utf8_first)] W) : Tabs W := by
  have h' : laidMet Tryz.prog [("unicode/utf8.acceptRanges", Rows.laid_unicode_utf8_acceptRanges), ("diacritic/big5.doubles", Rows.laid_diacritic_big5_doubles), ("diacritic/johab.kinds", Rows.laid_diacritic_johab_kinds), ("diacritic/charset.names", Rows.laid_diacritic_charset_names), ("unicode/utf8.first", Rows.laid_unicode_utf8_first)] W := h
  have hd := flat.cells_of (g := 4) (t := 201) 5 h' (.tail _ (.head _)) (by kernel_rfl) (by kernel_rfl) doubles_flat
  have hk := flat.cells_of (g := 3) (t := 192) 4 h' (.tail _ (.tail _ (.head _))) (by kernel_rfl) (by kernel_rfl) kinds_flat
  have hn := flat.cells_of (g := 0) (t := 87) 4 h' (.tail _ (.tail _ (.tail _ (.head _)))) (by kernel_rfl) (by kernel_rfl) names_flat
  rw [first_eq, accept_eq] at h'
  refine ⟨⟨utf8Tabs_of_reads Tryz.lays260 ⟨by kernel_rfl, by kernel_rfl, by kernel_rfl, by kernel_rfl, by kernel_rfl, by kernel_rfl, by kernel_rfl⟩ (Lib.laidMet.reads h' (.tail _ (.tail _ (.tail _ (.tail _ (.head _)))))) (Lib.laidMet.reads h' (.head _)), ?_, ?_⟩, ?_⟩
  · exact ⟨hk 0 _ rfl, hk 1 _ rfl, hk 2 _ rfl, hk 3 _ rfl, hk 4 _ rfl, hk 5 _ rfl, hk 6 _ rfl, hk 7 _ rfl, hk 8 _ rfl⟩
  · exact ⟨hd 0 _ rfl, hd 1 _ rfl, hd 2 _ rfl, hd 3 _ rfl, hd 4 _ rfl, hd 5 _ rfl, hd 6 _ rfl, hd 7 _ rfl, hd 8 _ rfl, hd 9 _ rfl, hd 10 _ rfl, hd 11 _ rfl⟩
  · exact ⟨hn 0 _ rfl, hn 1 _ rfl, hn 2 _ rfl, hn 3 _ rfl, hn 4 _ rfl, hn 5 _ rfl, hn 6 _ rfl, hn 7 _ rfl, hn 8 _ rfl, hn 9 _ rfl, hn 10 _ rfl, hn 11 _ rfl, hn 12 _ rfl, hn 13 _ rfl, hn 14 _ rfl, hn 15 _ rfl, hn 16 _ rfl, hn 17 _ rfl, hn 18 _ rfl, hn 19 _ rfl, hn 20 _ rfl, hn 21 _ rfl, hn 22 _ rfl, hn 23 _ rfl, hn 24 _ rfl, hn 25 _ rfl, hn 26 _ rfl, hn 27 _ rfl, hn 28 _ rfl, hn 29 _ rfl, hn 30 _ rfl, hn 31 _ rfl, hn 32 _ rfl, hn 33 _ rfl, hn 34 _ rfl, hn 35 _ rfl, hn 36 _ rfl, hn 37 _ rfl, hn 38 _ rfl, hn 39 _ rfl, hn 40 _ rfl, hn 41 _ rfl, hn 42 _ rfl, hn 43 _ rfl⟩
/-- A world for the witness: the settled one, the tables holding what the texts lay. -/
noncomputable def laidWorld (os : Os) : World :=
  let w0 := World.holding Tryz.prog os ⟨#[], #[], []⟩
  let put (h : Array Obj) (g : Nat) (cs : Array Value) : Array Obj := h.modify g fun
    | .cells _ t frozen => .cells cs t frozen
    | o => o
  { w0 with heap := put (put (put (put (put w0.heap 1 (Lib.firstTab.map fun z => Value.int .u8 z).toArray) 2 ((List.range 16).flatMap fun i => [Value.int .u8 (Lib.accLo i), Value.int .u8 (Lib.accHi i)]).toArray) 4 doubleCells.toArray) 3 kindCells.toArray) 0 nameCells.toArray }
theorem Tabs.below {w w' : World} (h : Tabs w) (hb : Below w.heap.size w w') : Tabs w' := ⟨h.k.below hb, h.n.stay hb⟩
theorem utf8_row : ch.fdC (ch.low ⟨#[85, 84, 70, 56]⟩) = 7 ∧ (ch.fd (ch.low ⟨#[85, 84, 70, 56]⟩)).isSome = true := by decide +kernel
theorem chK : ch.Ch Tabs where
  stay _ _ h hb := h.below hb
  a2 w h := pt.Awake_any w h.k.t
  a5 w h := sg.awake_walk w h.k.t
  a6 w h := jo.Awake_any w h.k.j
  a7 w h := wa.Awake_any wa.aw_land w h.k.t
  a8 w h := bg.Awake_any bp.awk8 w ⟨h.k.t, h.k.d⟩
  dec c s w h _ _ hs := ch.Decode_any c s w h.k hs
  utf w h := by
    have := ch.Named_row ⟨#[85, 84, 70, 56]⟩ w h.n (by decide)
    rwa [utf8_row.1, utf8_row.2] at this
end Go.Proofs.YtiigknimfibdpaaGreatDoor.chl
namespace Go.Proofs.YtiigknimfibdpaaGreatDoor.chl
open Go.RowKit Go.Lib
set_option linter.unusedVariables false
theorem Legacy_any (c : Int) (w : World) : Calls Tryz.prog 22 #[.int .i64 c] w fun e w' => e = .returned (.bool (decide (0 ≤ c ∧ c ≤ 6))) ∧ Below w.heap.size w w' := by
  by_cases h0 : 0 ≤ c
  · by_cases h1 : c ≤ 6
    · rw [decide_eq_true ⟨h0, h1⟩]
      go_enter Tryz.func22, Tryz.ntmps22
      go_wp2
      go_ret
      exact ⟨rfl, Below.refl _ _⟩
    · rw [decide_eq_false (fun h => h1 h.2)]
      go_enter Tryz.func22, Tryz.ntmps22
      go_wp2
      go_ret
      exact ⟨rfl, Below.refl _ _⟩
  · rw [decide_eq_false (fun h => h0 h.1)]
    go_enter Tryz.func22, Tryz.ntmps22
    go_wp2
    go_ret
    exact ⟨rfl, Below.refl _ _⟩
end Go.Proofs.YtiigknimfibdpaaGreatDoor.chl
namespace Go.Proofs.YtiigknimfibdpaaGreatDoor.df
open Go.RowKit Go.Lib
set_option linter.unusedVariables false
open Go.Proofs.YtiigknimfibdpaaGreatDoor.ch
open Go.Proofs.YtiigknimfibdpaaGreatDoor.de
set_option maxRecDepth 100000 in
set_option maxHeartbeats 4000000 in
theorem score_txt (c : Int) (zs : List Int) (w : World) (c0 : 0 ≤ c) (c6 : c ≤ 6) (hs : (pt.txt zs).size ≤ 4000) (hv : zs.all validRune = true) (hT : pt.Tabs w) :
    Calls Tryz.prog 25 #[.int .i64 c, .string (pt.txt zs)] w fun e w' => e = .returned (.int .i64 (scL c zs)) ∧ Below w.heap.size w w' := by
  obtain ⟨R, hR⟩ : ∃ R, R = scL c zs := ⟨_, rfl⟩
  rw [← hR]
  obtain ⟨s, hS⟩ : ∃ s, s = pt.txt zs := ⟨_, rfl⟩
  have hah : pt.Ahead s 0 zs [] := by
    unfold pt.Ahead
    rw [hS, List.drop_zero, List.append_nil]; rfl
  rw [← hS] at hs ⊢
  have HT := Lib.hid hT; have HR := Lib.hid hR; have HAH := Lib.hid hah; have HV := Lib.hid hv
  clear hT hR hah hv hS
  go_enter Tryz.func25, Tryz.ntmps25
  go_wp2_with fail
  go_loopw [5, 6] (fun v u wr => ∃ (pos : Nat) (q S : Int) (zr : List Int), wr.heap[w.heap.size]? = some (.stringIter s pos) ∧ pos ≤ s.size ∧ pt.Ahead s pos zr [] ∧ zr.all validRune = true ∧ v = .int .i64 S ∧ u = .bool (smallZ q) ∧ R = S + scB c q zr ∧ -11 * (pos : Int) ≤ S ∧ S ≤ 6 * (pos : Int) ∧ Below w.heap.size w wr) (fun _ _ wr => s.size - wr.iterPos w.heap.size)
  case atStart => exact ⟨0, 0, 0, zs, World.iter_heap w s 0, Nat.zero_le _, HAH.out, HV.out, rfl, rfl, by rw [HR.out]; unfold scL; omega, by omega, by omega, (Below.refl _ _).alloc (Nat.le_refl _) _⟩
  case round =>
    obtain ⟨pos, q, S, zr, hi, hpos, ha, hvz, rfl, rfl, hq, hS0, hS1, hB⟩ := hrel
    have HIT := Lib.hid hi; have HB := Lib.hid hB; have HQ := Lib.hid hq
    have hal := pt.ahead_len ha hpos
    cases zr with
    | nil =>
      have hp : ¬ pos < s.size := by simp [pt.nums] at hal; omega
      have hnx : ∀ ty, (Instr.next (.pointer (some ⟨w.heap.size, 0, none⟩)) true ty).run Tryz.prog wr = _ := fun ty => run_next_end_at wr w.heap.size s pos ty HIT.out hp
      have hr : R = S := by rw [HQ.out]; simp [scB]
      have HRR := Lib.hid hr
      clear hi hB hq ha hvz hr hal
      go_wp2_with fail
      go_ret
      exact ⟨by rw [HRR.out]; rfl, HB.out⟩
    | cons x zr =>
      have hvx : validRune x = true := List.all_eq_true.1 hvz x (List.mem_cons_self ..)
      have hvr : zr.all validRune = true := by rw [List.all_cons, Bool.and_eq_true] at hvz; exact hvz.2
      have hdec := pt.decode_ahead ha hpos hvx
      have han := pt.ahead_next ha
      have hl1 := (encodeRuneZ_length x).1
      have hxr := pt.valid_range hvx
      have hp : pos < s.size := by simp [pt.nums] at hal; omega
      have hpe : pos + (encodeRuneZ x).length ≤ s.size := by simp [pt.nums] at hal; omega
      have hnx : ∀ ty, (Instr.next (.pointer (some ⟨w.heap.size, 0, none⟩)) true ty).run Tryz.prog wr = _ := fun ty => run_next_any_at wr w.heap.size s pos ty HIT.out hp
      rw [hdec] at hnx
      simp only at hnx
      rw [show ((x.toNat : Nat) : Int) = x by omega] at hnx
      have H1 := Lib.hid (iterAt_heap wr w.heap.size s pos (pos + (encodeRuneZ x).length) HIT.out)
      have B1 := Lib.hid (below_iterAt HB.out (Nat.le_refl _) s (pos + (encodeRuneZ x).length))
      have HIB : Hid (w.heap.size < wr.heap.size) := Lib.hid (Array.getElem?_eq_some_iff.1 HIT.out).1
      have HWT := Lib.hid (fun W h => weight_any c x W c0 c6 hxr.2 h)
      unfold WgP at HWT
      have HSM := Lib.hid (fun W => isSmall_any x W)
      have HCP := Lib.hid (fun W => isCap_any x W)
      have HAN := Lib.hid han; have HVR := Lib.hid hvr
      have hW := wt_range c x
      have hq2 : R = S + (wtZ c x - cost q x + scB c x zr) := HQ.out
      rw [cost_two'] at hq2
      clear hi hB hq ha hvz hvr hal hdec han hvx
      generalize hL : (encodeRuneZ x).length = L at *
      generalize wtZ c x = V at *
      have w1 : IntKind.i64.wrap (S + V) = S + V := by simp [IntKind.wrap, IntKind.bits, IntKind.signed]; omega
      have w2' : IntKind.i64.wrap (S + V - 3) = S + V - 3 := by simp [IntKind.wrap, IntKind.bits, IntKind.signed]; omega
      cases hqs : smallZ q with
      | false =>
        rw [hqs, if_neg (by simp)] at hq2
        have HQ2 := Lib.hid hq2
        clear hq2 hL
        go_wp2_with (first
          | (go_at_call 44; refine (HWT.out _ (HT.out.below B1.out)).mono ?_; rintro e3 w3 ⟨rfl, hb3⟩; have HB3 := Lib.hid hb3; have B3 := Lib.hid (B1.out.trans (hb3.mono B1.out.size)); clear hb3)
          | (go_at_call 46; refine (HSM.out _).mono ?_; rintro e4 w4 ⟨rfl, rfl⟩))
        have i3 : w3.heap[w.heap.size]? = some (.stringIter s (pos + L)) := (HB3.out.block _ (by rw [iterAt_size]; exact HIB.out)).trans H1.out
        go_roundw
        case rel => exact ⟨pos + L, x, S + V, zr, i3, hpe, HAN.out, HVR.out, rfl, rfl, by rw [HQ2.out]; omega, by omega, by omega, B3.out⟩
        case measure => rw [iterPos_of i3, iterPos_of HIT.out]; omega
      | true =>
        cases hx : capZ x with
        | false =>
          rw [hqs, hx, if_neg (by simp)] at hq2
          rw [hx] at HCP
          have HQ2 := Lib.hid hq2
          clear hq2 hL hx
          go_wp2_with (first
            | (go_at_call 44; refine (HWT.out _ (HT.out.below B1.out)).mono ?_; rintro e3 w3 ⟨rfl, hb3⟩; have HB3 := Lib.hid hb3; have B3 := Lib.hid (B1.out.trans (hb3.mono B1.out.size)); clear hb3)
            | (go_at_call 45; refine (HCP.out _).mono ?_; rintro e4 w4 ⟨rfl, rfl⟩)
            | (go_at_call 46; refine (HSM.out _).mono ?_; rintro e4 w4 ⟨rfl, rfl⟩))
          have i3 : w3.heap[w.heap.size]? = some (.stringIter s (pos + L)) := (HB3.out.block _ (by rw [iterAt_size]; exact HIB.out)).trans H1.out
          go_roundw
          case rel => exact ⟨pos + L, x, S + V, zr, i3, hpe, HAN.out, HVR.out, rfl, rfl, by rw [HQ2.out]; omega, by omega, by omega, B3.out⟩
          case measure => rw [iterPos_of i3, iterPos_of HIT.out]; omega
        | true =>
          rw [hqs, hx, if_pos ⟨rfl, rfl⟩] at hq2
          rw [hx] at HCP
          have HQ2 := Lib.hid hq2
          clear hq2 hL hx
          go_wp2_with (first
            | (go_at_call 44; refine (HWT.out _ (HT.out.below B1.out)).mono ?_; rintro e3 w3 ⟨rfl, hb3⟩; have HB3 := Lib.hid hb3; have B3 := Lib.hid (B1.out.trans (hb3.mono B1.out.size)); clear hb3)
            | (go_at_call 45; refine (HCP.out _).mono ?_; rintro e4 w4 ⟨rfl, rfl⟩)
            | (go_at_call 46; refine (HSM.out _).mono ?_; rintro e4 w4 ⟨rfl, rfl⟩))
          have i3 : w3.heap[w.heap.size]? = some (.stringIter s (pos + L)) := (HB3.out.block _ (by rw [iterAt_size]; exact HIB.out)).trans H1.out
          go_roundw
          case rel => exact ⟨pos + L, x, S + V - 3, zr, i3, hpe, HAN.out, HVR.out, rfl, rfl, by rw [HQ2.out]; omega, by omega, by omega, B3.out⟩
          case measure => rw [iterPos_of i3, iterPos_of HIT.out]; omega
set_option maxRecDepth 100000 in
set_option maxHeartbeats 2000000 in
theorem Score_any (c : Int) (s : ByteArray) (w : World) (hK : K9 w) (hs : s.size ≤ 900) : Calls Tryz.prog 10 #[.int .i64 c, .string s] w (ScP c s w) := by
  obtain ⟨PP, hPP⟩ : ∃ PP, PP = ScP c s w := ⟨_, rfl⟩
  rw [← hPP]
  have HLG := Lib.hid (fun W => chl.Legacy_any c W)
  by_cases hc : 0 ≤ c ∧ c ≤ 6
  · obtain ⟨h0, h6⟩ := hc
    rw [decide_eq_true ⟨h0, h6⟩] at HLG
    have hin := in07 h0 (show c ≤ 7 by omega)
    cases hd : (dz c s).2 with
    | some p =>
      obtain ⟨e1, e2⟩ := sc_none (c := c) (s := s) (by rw [hd]; simp)
      have HP : Hid (∀ W', Below w.heap.size w W' → PP (.returned (.tuple #[.int .i64 0, .bool false])) W') := Lib.hid (fun W' hb => by rw [hPP]; exact scP e1 e2 hb)
      obtain ⟨d1, d2, d3⟩ := dc_bad hin hd
      have HD := Lib.hid (fun W h => Decode_any c s W h (by omega))
      rw [d1, d2, d3] at HD
      have HBD : Hid (∀ W, Calls Tryz.prog 24 #[.agg #[.int .i64 2, .int .i64 (p : Int)]] W fun e w' => e = .returned (.bool true) ∧ Below W.heap.size W w') := Lib.hid (fun W => pt.bad_any W 2 p)
      have HK := Lib.hid hK
      generalize (p : Int) = PI at *
      clear hPP e1 e2 d1 d2 d3 hd hK hin
      go_enter Tryz.func10, Tryz.ntmps10
      go_wp2_with (first
        | (go_at_call 22; refine (HLG.out _).mono ?_; rintro e1 w1 ⟨rfl, hb1⟩; have K1 := Lib.hid (HK.out.below hb1); have B1 := Lib.hid hb1; clear hb1)
        | (go_at_call 23; refine (HD.out _ K1.out).mono ?_; rintro e2 w2 ⟨rfl, hb2⟩; have B2 := Lib.hid (B1.out.trans (hb2.mono B1.out.size)); obtain ⟨_, z0, z1, z2, z3⟩ := pt.f2_new w2 2 PI 54; clear hb2)
        | (go_at_call 24; refine (HBD.out _).mono ?_; rintro e3 w3 ⟨rfl, hb3⟩; have B3 := Lib.hid ((B2.out.alloc B2.out.size (.cells #[.int .i64 2, .int .i64 PI] 54)).trans (hb3.mono (by have := B2.out.size; simp; omega))); clear hb3))
      first | exact HP.out _ B3.out | (go_ret2; exact HP.out _ B3.out)
    | none =>
      obtain ⟨e1, e2⟩ := sc_some (c := c) (s := s) ⟨h0, h6, hd⟩
      have HP : Hid (∀ W', Below w.heap.size w W' → PP (.returned (.tuple #[.int .i64 (scL c (dz c s).1), .bool true])) W') := Lib.hid (fun W' hb => by rw [hPP]; exact scP e1 e2 hb)
      obtain ⟨d1, d2, d3⟩ := dc_ok hin hd
      have HD := Lib.hid (fun W h => Decode_any c s W h (by omega))
      rw [d1, d2, d3] at HD
      have hmost := dz_most (s := s) (show c ≤ 7 by omega) hd
      have HSC := Lib.hid (fun W h => score_txt c (dz c s).1 W h0 h6 (by omega) (dz_valid s hin) h)
      have HBD : Hid (∀ W, Calls Tryz.prog 24 #[.agg #[.int .i64 0, .int .i64 0]] W fun e w' => e = .returned (.bool false) ∧ Below W.heap.size W w') := Lib.hid (fun W => pt.bad_any W 0 0)
      have HK := Lib.hid hK
      generalize pt.txt (dz c s).1 = T at *
      generalize scL c (dz c s).1 = V at *
      clear hPP e1 e2 d1 d2 d3 hd hK hin
      go_enter Tryz.func10, Tryz.ntmps10
      go_wp2_with (first
        | (go_at_call 22; refine (HLG.out _).mono ?_; rintro e1 w1 ⟨rfl, hb1⟩; have K1 := Lib.hid (HK.out.below hb1); have B1 := Lib.hid hb1; clear hb1)
        | (go_at_call 23; refine (HD.out _ K1.out).mono ?_; rintro e2 w2 ⟨rfl, hb2⟩; have K2 := Lib.hid (K1.out.below hb2); have B2 := Lib.hid (B1.out.trans (hb2.mono B1.out.size)); obtain ⟨_, z0, z1, z2, z3⟩ := pt.f2_new w2 0 0 54; clear hb2)
        | (go_at_call 24; refine (HBD.out _).mono ?_; rintro e3 w3 ⟨rfl, hb3⟩; have K3 := Lib.hid ((K2.out.below ((Below.refl _ _).alloc (Nat.le_refl _) (.cells #[.int .i64 0, .int .i64 0] 54))).below hb3); have B3 := Lib.hid ((B2.out.alloc B2.out.size (.cells #[.int .i64 0, .int .i64 0] 54)).trans (hb3.mono (by have := B2.out.size; simp; omega))); clear hb3)
        | (go_at_call 25; refine (HSC.out _ K3.out.t).mono ?_; rintro e4 w4 ⟨rfl, hb4⟩; have B4 := Lib.hid (B3.out.trans (hb4.mono B3.out.size)); clear hb4))
      first | exact HP.out _ B4.out | (go_ret2; exact HP.out _ B4.out)
  · obtain ⟨e1, e2⟩ := sc_none (c := c) (s := s) (fun h => hc ⟨h.1, h.2.1⟩)
    have HP : Hid (∀ W', Below w.heap.size w W' → PP (.returned (.tuple #[.int .i64 0, .bool false])) W') := Lib.hid (fun W' hb => by rw [hPP]; exact scP e1 e2 hb)
    rw [decide_eq_false hc] at HLG
    clear hPP e1 e2 hc hK
    go_enter Tryz.func10, Tryz.ntmps10
    go_wp2_with (go_at_call 22; refine (HLG.out _).mono ?_; rintro e1 w1 ⟨rfl, hb1⟩; have B1 := Lib.hid hb1; clear hb1)
    first | exact HP.out _ B1.out | (go_ret2; exact HP.out _ B1.out)
end Go.Proofs.YtiigknimfibdpaaGreatDoor.df
namespace Go.Proofs.YtiigknimfibdpaaGreatDoor.df
open Go.RowKit Go.Lib
set_option linter.unusedVariables false
theorem Score_tabs (c : Int) (s : ByteArray) (w : World) (hK : chl.Tabs w) (hs : s.size ≤ 900) : Calls Tryz.prog 10 #[.int .i64 c, .string s] w fun e w' => e = .returned (.tuple #[.int .i64 (de.scV c s), .bool (de.scO c s)]) ∧ Below w.heap.size w w' := Score_any c s w hK.k hs
theorem deK : de.De chl.Tabs where
  stay _ _ h hb := h.below hb
  a9 w h := ch.Awake_any chl.chK w h
  score c s w h _ _ hs := Score_tabs c s w h hs
  order w _ := Order_any w
  guess s zs A n k w h hs hn hr _ := Guess_any (fun _ _ h hb => h.below hb) Score_tabs s zs A n k w h hs (by omega) hr
end Go.Proofs.YtiigknimfibdpaaGreatDoor.df
namespace Go.Proofs.YtiigknimfibdpaaGreatDoor.df
open Go.RowKit Go.Lib
set_option linter.unusedVariables false
open Go.Proofs.YtiigknimfibdpaaGreatDoor.ch
open Go.Proofs.YtiigknimfibdpaaGreatDoor.de
/-- What stands while a charset is resolved: the options in their block. -/
structure Ro (w : World) (p : Nat) (k f b : Int) (g : Bool) (W : World) : Prop where
  lt : p < W.heap.size
  c0 : W.cell? ⟨p, 0, none⟩ = some (.int .i64 k)
  c1 : W.cell? ⟨p, 1, none⟩ = some (.int .i64 f)
  c2 : W.cell? ⟨p, 2, none⟩ = some (.bool g)
  c3 : W.cell? ⟨p, 3, none⟩ = some (.int .i64 b)
  k' : chl.Tabs W
  b' : Below w.heap.size w W
theorem Ro.below {w W W' : World} {p : Nat} {k f b : Int} {g : Bool} (h : Ro w p k f b g W) (hb : Below W.heap.size W W') : Ro w p k f b g W' :=
  ⟨Nat.lt_of_lt_of_le h.lt hb.size, (hb.cell (p := ⟨p, 0, none⟩) h.lt).trans h.c0, (hb.cell (p := ⟨p, 1, none⟩) h.lt).trans h.c1, (hb.cell (p := ⟨p, 2, none⟩) h.lt).trans h.c2, (hb.cell (p := ⟨p, 3, none⟩) h.lt).trans h.c3, h.k'.below hb, h.b'.trans (hb.mono h.b'.size)⟩
theorem ro_new (w : World) (t : TypeId) (k f b : Int) (g : Bool) (hK : chl.Tabs w) : Ro w w.heap.size k f b g (w.alloc (.cells #[.int .i64 k, .int .i64 f, .bool g, .int .i64 b] t)) := by
  have hb : Below w.heap.size w (w.alloc (.cells #[.int .i64 k, .int .i64 f, .bool g, .int .i64 b] t)) := (Below.refl _ _).alloc (Nat.le_refl _) _
  refine ⟨by simp, ?_, ?_, ?_, ?_, hK.below hb, hb⟩ <;> (rw [World.cell?_alloc_mark]; rfl)
set_option maxRecDepth 100000 in
set_option maxHeartbeats 4000000 in
theorem Resolve_any (s d : ByteArray) (k f b : Int) (g : Bool) (w : World) (hK : chl.Tabs w) (hs : s.size ≤ 900) (hd : d.size ≤ 100) :
    Calls Tryz.prog 18 #[.string s, .string d, .agg #[.int .i64 k, .int .i64 f, .bool g, .int .i64 b]] w (RzP s d f g w) := by
  obtain ⟨PP, hPP⟩ : ∃ PP, PP = RzP s d f g w := ⟨_, rfl⟩
  rw [← hPP]
  have HP : Hid (∀ v W', rzZ s d f g = v → Below w.heap.size w W' → PP (.returned (.int .i64 v)) W') := Lib.hid (fun v W' h hb => by rw [hPP]; exact rzP h hb)
  clear hPP
  have HVA := Lib.hid (fun W (h : chl.Tabs W) => pt.valid_any s W (by omega) h.k.t)
  have HN := Lib.hid (fun W (h : chl.Tabs W) => by have := Named_row d W h.n (by omega); rwa [(agree_v d).1, (agree_v d).2] at this)
  have HO := Lib.hid (fun W => Order_any W)
  have HG := Lib.hid (fun A n W h hr => Guess_any (K := chl.Tabs) (fun _ _ h hb => h.below hb) Score_tabs s ordL A 7 n W h hs (by omega) hr)
  have K0 := Lib.hid (ro_new w 44 k f b g hK)
  clear hK
  by_cases hsc : (pt.scan s).2 = none
  · have HV : Hid (rzZ s d f g = 7) := Lib.hid (by unfold rzZ; rw [if_pos hsc])
    rw [hsc] at HVA
    clear hsc
    go_enter Tryz.func18, Tryz.ntmps18
    go_wp2_with (go_at_call 31; refine (HVA.out _ K0.out.k').mono ?_; rintro e1 w1 ⟨rfl, hb1⟩; have K1 := Lib.hid (K0.out.below hb1); obtain ⟨_, y0, y1, y2, y3, _, _⟩ := K1.out; clear hb1)
    exact HP.out _ _ HV.out K1.out.b'
  have hso : (pt.scan s).2.isNone = false := by cases h : (pt.scan s).2 with | none => exact absurd h hsc | some a => rfl
  rw [hso] at HVA
  by_cases hn : 0 ≤ nmd d
  · have HV : Hid (rzZ s d f g = nmd d) := Lib.hid (by unfold rzZ; rw [if_neg hsc, if_pos hn])
    rw [if_neg (by omega), decide_eq_true hn] at HN
    generalize nmd d = D at *
    clear hsc hso
    go_enter Tryz.func18, Tryz.ntmps18
    go_wp2_with (first
      | (go_at_call 31; refine (HVA.out _ K0.out.k').mono ?_; rintro e1 w1 ⟨rfl, hb1⟩; have K1 := Lib.hid (K0.out.below hb1); obtain ⟨_, y0, y1, y2, y3, _, _⟩ := K1.out; clear hb1)
      | (go_at_call 32; refine (HN.out _ K1.out.k').mono ?_; rintro e2 w2 ⟨rfl, hb2⟩; have K2 := Lib.hid (K1.out.below hb2); obtain ⟨_, y0, y1, y2, y3, _, _⟩ := K2.out; clear hb2))
    exact HP.out _ _ HV.out K2.out.b'
  rw [decide_eq_false hn] at HN
  generalize hX : (if nmd d < 0 then (0 : Int) else nmd d) = X at *
  clear hX
  cases g with
  | false =>
    have HV : Hid (rzZ s d f false = f) := Lib.hid (by unfold rzZ; rw [if_neg hsc, if_neg hn, if_neg (by simp)])
    clear hsc hso hn
    go_enter Tryz.func18, Tryz.ntmps18
    go_wp2_with (first
      | (go_at_call 31; refine (HVA.out _ K0.out.k').mono ?_; rintro e1 w1 ⟨rfl, hb1⟩; have K1 := Lib.hid (K0.out.below hb1); obtain ⟨_, y0, y1, y2, y3, _, _⟩ := K1.out; clear hb1)
      | (go_at_call 32; refine (HN.out _ K1.out.k').mono ?_; rintro e2 w2 ⟨rfl, hb2⟩; have K2 := Lib.hid (K1.out.below hb2); obtain ⟨_, y0, y1, y2, y3, _, _⟩ := K2.out; clear hb2))
    exact HP.out _ _ HV.out K2.out.b'
  | true =>
    have HV : Hid (rzZ s d f true = (gz s ordL).getD f) := Lib.hid (by unfold rzZ; rw [if_neg hsc, if_neg hn, if_pos rfl])
    cases hgz : gz s ordL with
    | none =>
      rw [hgz] at HV HG
      clear hsc hso hn hgz
      go_enter Tryz.func18, Tryz.ntmps18
      go_wp2_with (first
        | (go_at_call 31; refine (HVA.out _ K0.out.k').mono ?_; rintro e1 w1 ⟨rfl, hb1⟩; have K1 := Lib.hid (K0.out.below hb1); obtain ⟨_, y0, y1, y2, y3, _, _⟩ := K1.out; clear hb1)
        | (go_at_call 32; refine (HN.out _ K1.out.k').mono ?_; rintro e2 w2 ⟨rfl, hb2⟩; have K2 := Lib.hid (K1.out.below hb2); obtain ⟨_, y0, y1, y2, y3, _, _⟩ := K2.out; clear hb2)
        | (go_at_call 14; refine (HO.out _).mono ?_; rintro e3 w3 ⟨A, n, rfl, hr, hb3⟩; have K3 := Lib.hid (K2.out.below hb3); obtain ⟨_, y0, y1, y2, y3, _, _⟩ := K3.out; have RR := Lib.hid hr; clear hb3 hr)
        | (go_at_call 12; refine (HG.out _ _ _ K3.out.k' RR.out).mono ?_; rintro e4 w4 ⟨rfl, hb4⟩; have K4 := Lib.hid (K3.out.below hb4); obtain ⟨_, y0, y1, y2, y3, _, _⟩ := K4.out; clear hb4))
      exact HP.out _ _ HV.out K4.out.b'
    | some c =>
      rw [hgz] at HV HG
      clear hsc hso hn hgz
      go_enter Tryz.func18, Tryz.ntmps18
      go_wp2_with (first
        | (go_at_call 31; refine (HVA.out _ K0.out.k').mono ?_; rintro e1 w1 ⟨rfl, hb1⟩; have K1 := Lib.hid (K0.out.below hb1); obtain ⟨_, y0, y1, y2, y3, _, _⟩ := K1.out; clear hb1)
        | (go_at_call 32; refine (HN.out _ K1.out.k').mono ?_; rintro e2 w2 ⟨rfl, hb2⟩; have K2 := Lib.hid (K1.out.below hb2); obtain ⟨_, y0, y1, y2, y3, _, _⟩ := K2.out; clear hb2)
        | (go_at_call 14; refine (HO.out _).mono ?_; rintro e3 w3 ⟨A, n, rfl, hr, hb3⟩; have K3 := Lib.hid (K2.out.below hb3); obtain ⟨_, y0, y1, y2, y3, _, _⟩ := K3.out; have RR := Lib.hid hr; clear hb3 hr)
        | (go_at_call 12; refine (HG.out _ _ _ K3.out.k' RR.out).mono ?_; rintro e4 w4 ⟨rfl, hb4⟩; have K4 := Lib.hid (K3.out.below hb4); obtain ⟨_, y0, y1, y2, y3, _, _⟩ := K4.out; clear hb4))
      exact HP.out _ _ HV.out K4.out.b'
theorem deR : de.DeR chl.Tabs := ⟨fun s d k f b g w h hs hd _ _ => Resolve_any s d k f b g w h hs hd⟩
end Go.Proofs.YtiigknimfibdpaaGreatDoor.df
