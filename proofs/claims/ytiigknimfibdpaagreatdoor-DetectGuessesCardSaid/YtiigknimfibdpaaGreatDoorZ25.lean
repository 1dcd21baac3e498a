/- Several texts in one. -/
import Derived.Test.YtiigknimfibdpaaGreatDoorZ24
import Derived.Test.YtiigknimfibdpaaGreatDoorZ19
import Derived.Test.YtiigknimfibdpaaGreatDoorOctA
import Derived.Laws.BitsLemmas
import Derived.Lib.OthersKept
namespace Go.Proofs.YtiigknimfibdpaaGreatDoor.bp
open Go.RowKit Go.Lib
open Go.Proofs.YtiigknimfibdpaaGreatDoor.tb
open Go.Proofs.YtiigknimfibdpaaGreatDoor.bg (cell one sgC wrap64 wrap32 rInt)
set_option linter.unusedVariables false
theorem wrapU8 {x : Int} (h0 : 0 ≤ x) (h1 : x < 256) : IntKind.u8.wrap x = x := by simp [IntKind.wrap, IntKind.bits, IntKind.signed]; omega
theorem or_int (x y : Int) (i : Nat) (hx : 0 ≤ x) (hm : x % 2 ^ i = 0) (hx1 : x < 2147483648) (hy : 0 ≤ y) (hy1 : y < 2 ^ i) (hy2 : y < 2147483648) : bits .or .i64 x y = x + y :=
  bits_join .i64 31 (by decide) (fun n a b => wrap64 (by omega) (by omega)) i x y hx hm (by omega) hy hy1 (by omega)
def ceV (b : Nat) : Value := match cell b with
  | some c => .tuple #[.int .i64 (c : Int), .bool true]
  | none => .tuple #[.int .i64 0, .bool false]
theorem ce_lo {b : Nat} (h : 64 ≤ b ∧ b ≤ 126) : ceV b = .tuple #[.int .i64 ((b : Int) - 64), .bool true] := by unfold ceV bg.cell; rw [if_pos h]; show Value.tuple #[.int .i64 ((b - 64 : Nat) : Int), .bool true] = _; rw [show ((b - 64 : Nat) : Int) = (b : Int) - 64 by omega]
theorem ce_hi {b : Nat} (h : 161 ≤ b ∧ b ≤ 254) : ceV b = .tuple #[.int .i64 (63 + ((b : Int) - 161)), .bool true] := by unfold ceV bg.cell; rw [if_neg (by omega), if_pos h]; show Value.tuple #[.int .i64 ((b - 98 : Nat) : Int), .bool true] = _; rw [show ((b - 98 : Nat) : Int) = 63 + ((b : Int) - 161) by omega]
theorem ce_no {b : Nat} (h1 : ¬ (64 ≤ b ∧ b ≤ 126)) (h2 : ¬ (161 ≤ b ∧ b ≤ 254)) : ceV b = .tuple #[.int .i64 0, .bool false] := by unfold ceV bg.cell; rw [if_neg h1, if_neg h2]
set_option maxRecDepth 100000 in
set_option maxHeartbeats 1000000 in
theorem cellOf_any (b : Nat) (w : World) (hb : b < 256) : Calls Tryz.prog 185 #[.int .u8 b] w fun e w' => e = .returned (ceV b) ∧ w = w' := by
  have hh : b < 64 ∨ (64 ≤ b ∧ b ≤ 126) ∨ (127 ≤ b ∧ b < 161) ∨ (161 ≤ b ∧ b ≤ 254) ∨ b = 255 := by omega
  obtain ⟨V, hV⟩ : ∃ V, V = ceV b := ⟨_, rfl⟩
  rw [← hV]
  generalize hB : (b : Int) = B
  rcases hh with h | h | h | h | h
  · rw [ce_no (by omega) (by omega)] at hV
    subst hV
    have g0 : ¬ 64 ≤ B := by omega
    have g1 : ¬ 161 ≤ B := by omega
    clear hB h
    go_enter Tryz.func185, Tryz.ntmps185
    go_wp2
    go_ret2
    exact ⟨rfl, rfl⟩
  · rw [ce_lo h, hB] at hV
    subst hV
    have g0 : 64 ≤ B := by omega
    have g1 : B ≤ 126 := by omega
    have e1 : IntKind.u8.wrap (B - 64) = B - 64 := wrapU8 (by omega) (by omega)
    have e2 : IntKind.i64.wrap (B - 64) = B - 64 := wrap64 (by omega) (by omega)
    clear hB h
    go_enter Tryz.func185, Tryz.ntmps185
    go_wp2
    go_ret2
    exact ⟨rfl, rfl⟩
  · rw [ce_no (by omega) (by omega)] at hV
    subst hV
    have g0 : 64 ≤ B := by omega
    have g3 : ¬ B ≤ 126 := by omega
    have g1 : ¬ 161 ≤ B := by omega
    clear hB h
    go_enter Tryz.func185, Tryz.ntmps185
    go_wp2
    go_ret2
    exact ⟨rfl, rfl⟩
  · rw [ce_hi h, hB] at hV
    subst hV
    have g0 : 64 ≤ B := by omega
    have g3 : ¬ B ≤ 126 := by omega
    have g1 : 161 ≤ B := by omega
    have g2 : B ≤ 254 := by omega
    have e1 : IntKind.u8.wrap (B - 161) = B - 161 := wrapU8 (by omega) (by omega)
    have e2 : IntKind.i64.wrap (B - 161) = B - 161 := wrap64 (by omega) (by omega)
    have e3 : IntKind.i64.wrap (63 + (B - 161)) = 63 + (B - 161) := wrap64 (by omega) (by omega)
    clear hB h
    go_enter Tryz.func185, Tryz.ntmps185
    go_wp2
    go_ret2
    exact ⟨rfl, rfl⟩
  · rw [ce_no (by omega) (by omega)] at hV
    subst hV
    obtain rfl : B = 255 := by omega
    clear hB h
    go_enter Tryz.func185, Tryz.ntmps185
    go_wp2
    go_ret2
    exact ⟨rfl, rfl⟩
set_option maxRecDepth 100000 in
theorem codeB_any (l b : Nat) (w : World) (hl : l < 256) (hb : b < 256) : Calls Tryz.prog 184 #[.int .u8 l, .int .u8 b] w fun e w' => e = .returned (.int .i64 ((l : Int) * 256 + (b : Int))) ∧ w = w' := by
  generalize hL : (l : Int) = L
  generalize hB : (b : Int) = B
  have o := or_int (L * 256) B 8 (by omega) (by omega) (by omega) (by omega) (by omega) (by omega)
  have e0 : IntKind.i64.wrap (L * 256) = L * 256 := wrap64 (by omega) (by omega)
  have e8 : IntKind.i64.wrap L = L := wrap64 (by omega) (by omega)
  have e9 : IntKind.i64.wrap B = B := wrap64 (by omega) (by omega)
  clear hL hB hl hb
  go_enter Tryz.func184, Tryz.ntmps184
  go_wp2
  go_ret
  exact ⟨rfl, rfl⟩
theorem cells4 {w w2 : World} {x y z u : Value} {t : TypeId} (h : Below (w.alloc (.cells #[x, y, z, u] t)).heap.size (w.alloc (.cells #[x, y, z, u] t)) w2) :
    w2.cell? ⟨w.heap.size, 0, none⟩ = some x ∧ w2.cell? ⟨w.heap.size, 1, none⟩ = some y ∧ w2.cell? ⟨w.heap.size, 2, none⟩ = some z ∧ w2.cell? ⟨w.heap.size, 3, none⟩ = some u ∧ ∀ i, w2.frozen? ⟨w.heap.size, i, none⟩ = false := by
  have q := fun i => h.cell (p := ⟨w.heap.size, i, none⟩) (by simp)
  exact ⟨(q 0).trans (by rw [World.cell?_alloc_mark]; rfl), (q 1).trans (by rw [World.cell?_alloc_mark]; rfl), (q 2).trans (by rw [World.cell?_alloc_mark]; rfl), (q 3).trans (by rw [World.cell?_alloc_mark]; rfl), fun i => (h.frozen (p := ⟨w.heap.size, i, none⟩) (by simp)).trans (by simp)⟩
set_option maxRecDepth 100000 in
theorem from_any (b c : Nat) (s : ByteArray) (w : World) (hb : b < 256) (hc : cell b = some c) : Calls Tryz.prog 211 #[.int .u8 b, .string s] w fun e w' => e = .returned (.agg #[.int .i64 (c : Int), .int .i32 0, .int .i64 0, .string s]) ∧ Below w.heap.size w w' := by
  have HC := Lib.hid (fun W => cellOf_any b W hb)
  have hv : ceV b = .tuple #[.int .i64 (c : Int), .bool true] := by unfold ceV; rw [hc]
  rw [hv] at HC
  have HL := Lib.hid (fun W => list_any (c : Int) s W)
  generalize (b : Int) = B at *
  generalize (c : Int) = C at *
  clear hc hb hv
  go_enter Tryz.func211, Tryz.ntmps211
  go_wp2_with (first
    | (go_at_call 185; refine (HC.out _).mono ?_; rintro e1 w1 ⟨rfl, rfl⟩)
    | (go_at_call 128; refine (HL.out _).mono ?_; rintro e2 w2 ⟨rfl, hb2⟩; have B2 := Lib.hid (((Below.refl w.heap.size w).alloc (Nat.le_refl _) (.cells #[.int .i64 0, .int .i32 0, .int .i64 0, .string ⟨#[]⟩] 139)).trans (hb2.mono (by simp))); obtain ⟨k0, k1, k2, k3, k4⟩ := cells4 hb2; clear hb2))
  refine bodyPost_ret (v := .agg #[.int .i64 C, .int .i32 0, .int .i64 0, .string s]) (by simp [results, Tryz.results211, go_sem, k0, k1, k2, k3]) rfl ⟨rfl, ?_⟩
  exact (((B2.out.setCell (p := ⟨w.heap.size, 0, none⟩) (Nat.le_refl _) _).setCell (p := ⟨w.heap.size, 1, none⟩) (Nat.le_refl _) _).setCell (p := ⟨w.heap.size, 2, none⟩) (Nat.le_refl _) _).setCell (p := ⟨w.heap.size, 3, none⟩) (Nat.le_refl _) _
def opV (o : Option Nat) : Value := match o with
  | some z => .tuple #[.int .i32 (z : Int), .bool true]
  | none => .tuple #[.int .i32 0, .bool false]
set_option maxRecDepth 100000 in
set_option maxHeartbeats 2000000 in
theorem signAt_any (s : ByteArray) (zs : List Nat) (A : Int) (w : World) (hs : s.size ≤ 4000000) (hsc : pt.scan s = (zs, none)) (a0 : -1000000 ≤ A) (a1 : A ≤ 1000000) :
    Calls Tryz.prog 187 #[.string s, .int .i64 A] w fun e w' => e = .returned (opV (saO zs A)) ∧ Below w.heap.size w w' := by
  obtain ⟨PP, hPP⟩ : ∃ PP, PP = opV (saO zs A) := ⟨_, rfl⟩
  rw [← hPP]
  have HPP := Lib.hid hPP
  have HZ := Lib.hid hsc
  clear hPP hsc
  go_enter Tryz.func187, Tryz.ntmps187
  go_wp2_with fail
  go_loopw [1] (fun a wr => ∃ (pos f k : Nat), wr.heap[w.heap.size]? = some (.stringIter s pos) ∧ s.size ≤ pos + f ∧ pt.sc s f pos = (zs.drop k, none) ∧ k ≤ pos ∧ pos ≤ s.size ∧ a = .int .i64 (A - (k : Int)) ∧ ¬ (0 ≤ A ∧ A < (k : Int)) ∧ Below w.heap.size w wr) (fun _ wr => s.size - wr.iterPos w.heap.size)
  case atStart =>
    exact ⟨0, s.size, 0, World.iter_heap w s 0, by omega, by rw [List.drop_zero]; exact HZ.out, Nat.le_refl _, Nat.zero_le _, by simp, by omega, (Below.refl _ _).alloc (Nat.le_refl _) _⟩
  case round =>
    obtain ⟨pos, f, k, hit, hf, hsc, hk, hps, rfl, hne, hB⟩ := hrel
    have HIT := Lib.hid hit; have HSC := Lib.hid hsc; have HB := Lib.hid hB; have HNE := Lib.hid hne
    clear hit hsc hB hne
    by_cases hp : pos < s.size
    · have hnx : ∀ ty, (Instr.next (.pointer (some ⟨w.heap.size, 0, none⟩)) true ty).run Tryz.prog wr = _ := fun ty => run_next_any_at wr w.heap.size s pos ty HIT.out hp
      have hB1 : Below w.heap.size w (wr.iterAt w.heap.size s (pos + (Utf8.decode s pos).2)) := below_iterAt HB.out (by omega) s _
      have hI1 := iterAt_heap wr w.heap.size s pos (pos + (Utf8.decode s pos).2) HIT.out
      have hw1 : 1 ≤ (Utf8.decode s pos).2 := width_pos s pos
      have hr32 : (Utf8.decode s pos).1 ≤ 1114111 := rune_le s pos
      obtain ⟨f1, rfl⟩ : ∃ f1, f = f1 + 1 := ⟨f - 1, by omega⟩
      have hsc1 := HSC.out
      have hfit := pt.width_fits s pos hp
      cases hb : pt.bad s pos with
      | true => rw [pt.sc_bad s (f1 + 1) pos hp hf hb] at hsc1; simp at hsc1
      | false =>
        rw [pt.sc_good s f1 pos hp hb] at hsc1
        simp only [Prod.mk.injEq] at hsc1
        obtain ⟨h1, h2⟩ := hsc1
        have hkl : k < zs.length := by
          rcases Nat.lt_or_ge k zs.length with h | h
          · exact h
          · rw [List.drop_eq_nil_of_le h] at h1; cases h1
        rw [List.drop_eq_getElem_cons hkl] at h1
        injection h1 with h3 h4
        have HG : Hid (zs[k]? = some (Utf8.decode s pos).1) := Lib.hid (by rw [List.getElem?_eq_getElem hkl, h3])
        have HS2 : Hid (pt.sc s f1 (pos + (Utf8.decode s pos).2) = (zs.drop (k + 1), none)) := Lib.hid (Prod.ext h4 h2)
        have H1 := Lib.hid hB1; have H5 := Lib.hid hI1
        have hpm : s.size - (pos + (Utf8.decode s pos).2) < s.size - pos := by omega
        have hpf : s.size ≤ pos + (Utf8.decode s pos).2 + f1 := by omega
        clear hB1 hI1 hb h2 h3 h4 hkl
        generalize Utf8.decode s pos = d at *
        by_cases hz : A - (k : Int) = 0
        · have HV : Hid (PP = .tuple #[.int .i32 (d.1 : Int), .bool true]) := Lib.hid (by
            rw [HPP.out]
            unfold saO
            rw [if_pos (by omega), show A.toNat = k by omega, HG.out]
            rfl)
          go_wp2_with fail
          go_ret2
          exact ⟨by rw [HV.out]; rfl, H1.out⟩
        · have e1 : IntKind.i64.wrap (A - (k : Int) - 1) = A - (k : Int) - 1 := by simp [IntKind.wrap, IntKind.bits, IntKind.signed]; omega
          go_wp2_with fail
          go_roundw
          case rel => exact ⟨pos + d.2, f1, k + 1, H5.out, hpf, HS2.out, by omega, hfit, by go_num, by have := HNE.out; omega, H1.out⟩
          case measure => rw [iterPos_of H5.out, iterPos_of HIT.out]; exact hpm
    · have hnx : ∀ ty, (Instr.next (.pointer (some ⟨w.heap.size, 0, none⟩)) true ty).run Tryz.prog wr = _ := fun ty => run_next_end_at wr w.heap.size s pos ty HIT.out hp
      have HV : Hid (PP = .tuple #[.int .i32 0, .bool false]) := Lib.hid (by
        have h := HSC.out
        rw [pt.sc_end s f pos hp] at h
        simp only [Prod.mk.injEq] at h
        have hl : zs.length ≤ k := List.drop_eq_nil_iff.1 h.1.symm
        rw [HPP.out, saO_past hl HNE.out]
        rfl)
      go_wp2_with fail
      go_ret2
      exact ⟨by rw [HV.out]; rfl, HB.out⟩
theorem piece_at (l j : Nat) (h : j < (rowP l).length) : ((rowP l).getD j p0) ∈ rowP l := by simp [List.getD, List.getElem?_eq_getElem h]
/-- The one sign of two bytes. -/
def onV (l b : Nat) : Value := opV (if one l b = 0 then none else some (one l b))
/-- What row answers. -/
def RowsOf (l : Nat) (w : World) (e : Ending) (w' : World) : Prop := ∃ A, e = .returned (.slice A (rowP l).length (rowP l).length) ∧ RowC w' A (rowP l).length (rowP l).length (rowP l) ∧ Below w.heap.size w w'
theorem rows_new (l : Nat) (w W : World) (h : Below w.heap.size w W) : RowsOf l w (.returned (.slice (some ⟨W.heap.size, 0, none⟩) (rowP l).length (rowP l).length)) (W.alloc (.cells ((rowP l).flatMap pcell).toArray 139)) :=
  ⟨_, rfl, rowC_new W (rowP l) (row_pok l) (by have := row_len l; omega) 139, h.alloc h.size _⟩
set_option maxRecDepth 1000000 in
set_option maxHeartbeats 4000000 in
theorem row_88 (w : World) : Calls Tryz.prog 186 #[.int .u8 136] w (RowsOf 136 w) := by
  have HB := Lib.hid (Below.refl w.heap.size w)
  have F1 : Hid (∀ W, Calls Tryz.prog 211 #[.int .u8 86, .string r1] W fun e w' => e = .returned (.agg #[.int .i64 22, .int .i32 0, .int .i64 0, .string r1]) ∧ Below W.heap.size W w') := Lib.hid (fun W => from_any 86 22 r1 W (by decide) (by decide))
  have F2 : Hid (∀ W, Calls Tryz.prog 211 #[.int .u8 99, .string r2] W fun e w' => e = .returned (.agg #[.int .i64 35, .int .i32 0, .int .i64 0, .string r2]) ∧ Below W.heap.size W w') := Lib.hid (fun W => from_any 99 35 r2 W (by decide) (by decide))
  have F3 : Hid (∀ W, Calls Tryz.prog 211 #[.int .u8 101, .string r3] W fun e w' => e = .returned (.agg #[.int .i64 37, .int .i32 0, .int .i64 0, .string r3]) ∧ Below W.heap.size W w') := Lib.hid (fun W => from_any 101 37 r3 W (by decide) (by decide))
  have F4 : Hid (∀ W, Calls Tryz.prog 211 #[.int .u8 117, .string r4] W fun e w' => e = .returned (.agg #[.int .i64 53, .int .i32 0, .int .i64 0, .string r4]) ∧ Below W.heap.size W w') := Lib.hid (fun W => from_any 117 53 r4 W (by decide) (by decide))
  have F5 : Hid (∀ W, Calls Tryz.prog 211 #[.int .u8 161, .string r5] W fun e w' => e = .returned (.agg #[.int .i64 63, .int .i32 0, .int .i64 0, .string r5]) ∧ Below W.heap.size W w') := Lib.hid (fun W => from_any 161 63 r5 W (by decide) (by decide))
  have F6 : Hid (∀ W, Calls Tryz.prog 211 #[.int .u8 164, .string r6] W fun e w' => e = .returned (.agg #[.int .i64 66, .int .i32 0, .int .i64 0, .string r6]) ∧ Below W.heap.size W w') := Lib.hid (fun W => from_any 164 66 r6 W (by decide) (by decide))
  have F7 : Hid (∀ W, Calls Tryz.prog 211 #[.int .u8 166, .string r7] W fun e w' => e = .returned (.agg #[.int .i64 68, .int .i32 0, .int .i64 0, .string r7]) ∧ Below W.heap.size W w') := Lib.hid (fun W => from_any 166 68 r7 W (by decide) (by decide))
  have HR : Hid (∀ W, Below w.heap.size w W → RowsOf 136 w (.returned (.slice (some ⟨W.heap.size, 0, none⟩) 7 7)) (W.alloc (.cells (p88.flatMap pcell).toArray 139))) := Lib.hid (fun W hb => rows_new 136 w W hb)
  unfold r1 at F1
  unfold r2 at F2
  unfold r3 at F3
  unfold r4 at F4
  unfold r5 at F5
  unfold r6 at F6
  unfold r7 at F7
  go_enter Tryz.func186, Tryz.ntmps186
  go_wp2_with (first
    | (go_at_call 211; (with_reducible refine (F7.out _).mono ?_); rintro e1 w1 ⟨rfl, hb1⟩; have HB := Lib.hid (HB.out.trans (hb1.mono HB.out.size)); clear hb1)
    | (go_at_call 211; (with_reducible refine (F6.out _).mono ?_); rintro e1 w1 ⟨rfl, hb1⟩; have HB := Lib.hid (HB.out.trans (hb1.mono HB.out.size)); clear hb1)
    | (go_at_call 211; (with_reducible refine (F5.out _).mono ?_); rintro e1 w1 ⟨rfl, hb1⟩; have HB := Lib.hid (HB.out.trans (hb1.mono HB.out.size)); clear hb1)
    | (go_at_call 211; (with_reducible refine (F4.out _).mono ?_); rintro e1 w1 ⟨rfl, hb1⟩; have HB := Lib.hid (HB.out.trans (hb1.mono HB.out.size)); clear hb1)
    | (go_at_call 211; (with_reducible refine (F3.out _).mono ?_); rintro e1 w1 ⟨rfl, hb1⟩; have HB := Lib.hid (HB.out.trans (hb1.mono HB.out.size)); clear hb1)
    | (go_at_call 211; (with_reducible refine (F2.out _).mono ?_); rintro e1 w1 ⟨rfl, hb1⟩; have HB := Lib.hid (HB.out.trans (hb1.mono HB.out.size)); clear hb1)
    | (go_at_call 211; (with_reducible refine (F1.out _).mono ?_); rintro e1 w1 ⟨rfl, hb1⟩; have HB := Lib.hid (HB.out.trans (hb1.mono HB.out.size)); clear hb1))
  go_ret
  exact HR.out _ HB.out
set_option maxRecDepth 1000000 in
set_option maxHeartbeats 4000000 in
theorem row_161 (w : World) : Calls Tryz.prog 186 #[.int .u8 161] w (RowsOf 161 w) := by
  have HB := Lib.hid (Below.refl w.heap.size w)
  have F1 : Hid (∀ W, Calls Tryz.prog 211 #[.int .u8 64, .string m1] W fun e w' => e = .returned (.agg #[.int .i64 0, .int .i32 0, .int .i64 0, .string m1]) ∧ Below W.heap.size W w') := Lib.hid (fun W => from_any 64 0 m1 W (by decide) (by decide))
  have HR : Hid (∀ W, Below w.heap.size w W → RowsOf 161 w (.returned (.slice (some ⟨W.heap.size, 0, none⟩) 1 1)) (W.alloc (.cells (pA1.flatMap pcell).toArray 139))) := Lib.hid (fun W hb => rows_new 161 w W hb)
  go_enter Tryz.func186, Tryz.ntmps186
  go_wp2_with (go_at_call 211; refine (F1.out _).mono ?_; rintro e1 w1 ⟨rfl, hb1⟩; have HB := Lib.hid (HB.out.trans (hb1.mono HB.out.size)); clear hb1)
  go_ret
  exact HR.out _ HB.out
set_option maxRecDepth 1000000 in
set_option maxHeartbeats 4000000 in
theorem row_163 (w : World) : Calls Tryz.prog 186 #[.int .u8 163] w (RowsOf 163 w) := by
  have HB := Lib.hid (Below.refl w.heap.size w)
  have F1 : Hid (∀ W, Calls Tryz.prog 211 #[.int .u8 64, .string m3] W fun e w' => e = .returned (.agg #[.int .i64 0, .int .i32 0, .int .i64 0, .string m3]) ∧ Below W.heap.size W w') := Lib.hid (fun W => from_any 64 0 m3 W (by decide) (by decide))
  have HR : Hid (∀ W, Below w.heap.size w W → RowsOf 163 w (.returned (.slice (some ⟨W.heap.size, 0, none⟩) 1 1)) (W.alloc (.cells (pA3.flatMap pcell).toArray 139))) := Lib.hid (fun W hb => rows_new 163 w W hb)
  go_enter Tryz.func186, Tryz.ntmps186
  go_wp2_with (go_at_call 211; refine (F1.out _).mono ?_; rintro e1 w1 ⟨rfl, hb1⟩; have HB := Lib.hid (HB.out.trans (hb1.mono HB.out.size)); clear hb1)
  go_ret
  exact HR.out _ HB.out
set_option maxRecDepth 1000000 in
set_option maxHeartbeats 4000000 in
theorem row_164 (w : World) : Calls Tryz.prog 186 #[.int .u8 164] w (RowsOf 164 w) := by
  have HB := Lib.hid (Below.refl w.heap.size w)
  have F1 : Hid (∀ W, Calls Tryz.prog 211 #[.int .u8 64, .string m4] W fun e w' => e = .returned (.agg #[.int .i64 0, .int .i32 0, .int .i64 0, .string m4]) ∧ Below W.heap.size W w') := Lib.hid (fun W => from_any 64 0 m4 W (by decide) (by decide))
  have HR : Hid (∀ W, Below w.heap.size w W → RowsOf 164 w (.returned (.slice (some ⟨W.heap.size, 0, none⟩) 1 1)) (W.alloc (.cells (pA4.flatMap pcell).toArray 139))) := Lib.hid (fun W hb => rows_new 164 w W hb)
  go_enter Tryz.func186, Tryz.ntmps186
  go_wp2_with (go_at_call 211; refine (F1.out _).mono ?_; rintro e1 w1 ⟨rfl, hb1⟩; have HB := Lib.hid (HB.out.trans (hb1.mono HB.out.size)); clear hb1)
  go_ret
  exact HR.out _ HB.out
set_option maxRecDepth 1000000 in
set_option maxHeartbeats 4000000 in
theorem row_165 (w : World) : Calls Tryz.prog 186 #[.int .u8 165] w (RowsOf 165 w) := by
  have HB := Lib.hid (Below.refl w.heap.size w)
  have F1 : Hid (∀ W, Calls Tryz.prog 211 #[.int .u8 64, .string m5] W fun e w' => e = .returned (.agg #[.int .i64 0, .int .i32 0, .int .i64 0, .string m5]) ∧ Below W.heap.size W w') := Lib.hid (fun W => from_any 64 0 m5 W (by decide) (by decide))
  have HR : Hid (∀ W, Below w.heap.size w W → RowsOf 165 w (.returned (.slice (some ⟨W.heap.size, 0, none⟩) 1 1)) (W.alloc (.cells (pA5.flatMap pcell).toArray 139))) := Lib.hid (fun W hb => rows_new 165 w W hb)
  go_enter Tryz.func186, Tryz.ntmps186
  go_wp2_with (go_at_call 211; refine (F1.out _).mono ?_; rintro e1 w1 ⟨rfl, hb1⟩; have HB := Lib.hid (HB.out.trans (hb1.mono HB.out.size)); clear hb1)
  go_ret
  exact HR.out _ HB.out
set_option maxRecDepth 1000000 in
set_option maxHeartbeats 4000000 in
theorem row_no (l : Nat) (w : World) (hl : l < 256) (h : ¬ (l = 136 ∨ l = 161 ∨ l = 163 ∨ l = 164 ∨ l = 165)) : Calls Tryz.prog 186 #[.int .u8 l] w (RowsOf l w) := by
  have HR : Hid (RowsOf l w (.returned (.slice none 0 0)) w) := Lib.hid (by
    unfold RowsOf; rw [row_far h]
    exact ⟨none, rfl, ⟨rfl, by simp, .inl ⟨rfl, rfl, rfl⟩⟩, Below.refl _ _⟩)
  generalize hL : (l : Int) = L
  have n0 : (L == 136) = false := beq_eq_false_iff_ne.2 (by omega)
  have n1 : (L == 161) = false := beq_eq_false_iff_ne.2 (by omega)
  have n2 : (L == 163) = false := beq_eq_false_iff_ne.2 (by omega)
  have n3 : (L == 164) = false := beq_eq_false_iff_ne.2 (by omega)
  have n4 : (L == 165) = false := beq_eq_false_iff_ne.2 (by omega)
  clear hL hl h
  go_enter Tryz.func186, Tryz.ntmps186
  go_wp2_with fail
  go_ret
  exact HR.out
theorem row_any (l : Nat) (w : World) (hl : l < 256) : Calls Tryz.prog 186 #[.int .u8 l] w (RowsOf l w) := by
  by_cases h : l = 136 ∨ l = 161 ∨ l = 163 ∨ l = 164 ∨ l = 165
  · rcases h with rfl | rfl | rfl | rfl | rfl
    · exact row_88 w
    · exact row_161 w
    · exact row_163 w
    · exact row_164 w
    · exact row_165 w
  · exact row_no l w hl h
theorem lsS_one {l c : Nat} (hc : c < 157) {b : Nat} (hb : cell b = some c) : opV (lsS (c : Int) (zOf (rowP l))) = onV l b := by
  rw [row_at l c hc]
  unfold onV bg.one
  rw [hb]
set_option maxRecDepth 100000 in
set_option maxHeartbeats 4000000 in
theorem signOf_any (l b : Nat) (w : World) (hl : l < 256) (hb : b < 256) : Calls Tryz.prog 142 #[.int .u8 l, .int .u8 b] w fun e w' => e = .returned (onV l b) ∧ Below w.heap.size w w' := by
  have HC := Lib.hid (fun W => cellOf_any b W hb)
  unfold ceV at HC
  cases hcb : cell b with
  | none =>
    rw [hcb] at HC
    have hv : onV l b = .tuple #[.int .i32 0, .bool false] := by unfold onV bg.one; rw [hcb]; rfl
    rw [hv]
    clear hcb hv hl hb
    go_enter Tryz.func142, Tryz.ntmps142
    go_wp2_with (go_at_call 185; refine (HC.out _).mono ?_; rintro e1 w1 ⟨rfl, rfl⟩)
    go_ret2
    exact ⟨rfl, Below.refl _ _⟩
  | some c =>
    rw [hcb] at HC
    have hc7 := (bg.cell_back hcb).2
    obtain ⟨PP, hPP⟩ : ∃ PP, PP = onV l b := ⟨_, rfl⟩
    rw [← hPP]
    have HPP : Hid (PP = opV (lsS (c : Int) (zOf (rowP l)))) := Lib.hid (by rw [hPP, lsS_one hc7 hcb])
    have HR := Lib.hid (fun W => row_any l W hl)
    unfold RowsOf at HR
    have HPC : Hid (∀ j, j < (rowP l).length → 0 ≤ ((rowP l).getD j p0).f ∧ ((rowP l).getD j p0).f ≤ 156 ∧ ((rowP l).getD j p0).s.size ≤ 4000000 ∧ pt.scan ((rowP l).getD j p0).s = ((pt.scan ((rowP l).getD j p0).s).1, none)) := Lib.hid (fun j hj => by
      obtain ⟨h1, h2, _, _, h5, h6⟩ := row_fine l (piece_at l j hj)
      exact ⟨h1, h2, by omega, Prod.ext rfl h6⟩)
    have hn7 := row_len l
    clear hPP hcb
    generalize hP : rowP l = P at *
    clear hP
    obtain ⟨n, hn⟩ : ∃ n, n = P.length := ⟨_, rfl⟩
    rw [← hn] at HR HPC hn7
    have HN := Lib.hid hn
    clear hn hl hb
    go_enter Tryz.func142, Tryz.ntmps142
    go_wp2_with (first
      | (go_at_call 185; refine (HC.out _).mono ?_; rintro e1 w1 ⟨rfl, rfl⟩)
      | (go_at_call 186; refine (HR.out _).mono ?_; rintro e1 w1 ⟨A, rfl, hr1, hb1⟩; have R1 := Lib.hid hr1; have B1 := Lib.hid hb1; clear hr1 hb1))
    go_loopw [22] (fun i wr => ∃ j : Nat, j ≤ n ∧ i = .int .i64 j ∧ lsS (c : Int) (zOf P) = lsS (c : Int) ((zOf P).drop j) ∧ RowC wr A n n P ∧ Below w.heap.size w wr) (fun i _ => n - (RowKit.intOf i).toNat)
    case atStart => exact ⟨0, by omega, rfl, rfl, R1.out, B1.out⟩
    case round =>
      obtain ⟨j, hj, rfl, hls, hrc, hB⟩ := hrel
      have HLS := Lib.hid hls; have HR2 := Lib.hid hrc; have HB := Lib.hid hB
      clear hls hrc hB
      by_cases hlt : j < n
      · obtain ⟨a, rfl, _, _, hcc, _, _, _⟩ := HR2.out.at j hlt
        obtain ⟨k0, k1, k2, k3⟩ := hcc
        obtain ⟨f4, f5, f3, f2⟩ := HPC.out j hlt
        have HSA := Lib.hid (fun W => signAt_any (P.getD j p0).s (pt.scan (P.getD j p0).s).1 ((c : Int) - (P.getD j p0).f) W f3 f2 (by omega) (by omega))
        have HLN : Hid (lsS (c : Int) ((zOf P).drop j) = match saO (pt.scan (P.getD j p0).s).1 ((c : Int) - (P.getD j p0).f) with | some z => some z | none => lsS (c : Int) ((zOf P).drop (j + 1))) := Lib.hid (by
          rw [zOf_drop P j (by have := HN.out; omega)]
          show (match saO _ ((c : Int) - (((P.getD j p0).f.toNat : Nat) : Int)) with | some z => some z | none => _) = _
          rw [show (((P.getD j p0).f.toNat : Nat) : Int) = (P.getD j p0).f by omega])
        have e1 : IntKind.i64.wrap ((c : Int) - (P.getD j p0).f) = (c : Int) - (P.getD j p0).f := wrap64 (by omega) (by omega)
        have HB1 := Lib.hid (HB.out.alloc HB.out.size (.cells #[.int .i64 (P.getD j p0).f, .int .i32 (P.getD j p0).t, .int .i64 (P.getD j p0).c, .string (P.getD j p0).s] 139))
        have HR1 := Lib.hid (HR2.out.below ((Below.refl wr.heap.size wr).alloc (Nat.le_refl _) (.cells #[.int .i64 (P.getD j p0).f, .int .i32 (P.getD j p0).t, .int .i64 (P.getD j p0).c, .string (P.getD j p0).s] 139)))
        clear f2 f3
        generalize (pt.scan (P.getD j p0).s).1 = Z at *
        generalize P.getD j p0 = p at *
        cases hs : saO Z ((c : Int) - p.f) with
        | some z =>
          rw [hs] at HSA HLN
          have HV : Hid (PP = .tuple #[.int .i32 (z : Int), .bool true]) := Lib.hid (by rw [HPP.out, HLS.out, HLN.out]; rfl)
          unfold opV at HSA
          generalize p.f = F at *
          generalize p.t = T at *
          generalize p.c = D at *
          generalize p.s = S at *
          clear hs
          go_wp2_with (go_at_call 187; refine (HSA.out _).mono ?_; rintro e2 w2 ⟨rfl, hb2⟩; have B2 := Lib.hid (HB1.out.trans (hb2.mono HB1.out.size)); clear hb2)
          go_ret2
          exact ⟨by rw [HV.out]; rfl, B2.out⟩
        | none =>
          rw [hs] at HSA HLN
          unfold opV at HSA
          generalize p.f = F at *
          generalize p.t = T at *
          generalize p.c = D at *
          generalize p.s = S at *
          clear hs
          go_wp2_with (go_at_call 187; refine (HSA.out _).mono ?_; rintro e2 w2 ⟨rfl, hb2⟩; have B2 := Lib.hid (HB1.out.trans (hb2.mono HB1.out.size)); have R2 := Lib.hid (HR1.out.below hb2); clear hb2)
          go_roundw
          case rel => exact ⟨j + 1, by omega, by go_num, by rw [HLS.out, HLN.out], R2.out, B2.out⟩
          case measure => simp [RowKit.intOf]; omega
      · obtain rfl : j = n := by omega
        have HV : Hid (PP = .tuple #[.int .i32 0, .bool false]) := Lib.hid (by
          rw [HPP.out, HLS.out, List.drop_eq_nil_of_le (by unfold zOf; rw [List.length_map, HN.out]; exact Nat.le_refl _)]; rfl)
        go_wp2_with fail
        go_ret2
        exact ⟨by rw [HV.out]; rfl, HB.out⟩
end Go.Proofs.YtiigknimfibdpaaGreatDoor.bp
namespace Go.Proofs.YtiigknimfibdpaaGreatDoor.bp
open Go.RowKit Go.Lib
open Go.Proofs.YtiigknimfibdpaaGreatDoor.tb
open Go.Proofs.YtiigknimfibdpaaGreatDoor.bg (cell sgC rInt tw tw_cases sgV sgL sgT sgT_two sgT_one sgT_none one_valid rowI_new2)
set_option linter.unusedVariables false
/-- The table of two signs at once holds what the text lays. -/
structure DD (w : World) : Prop where
  c0 : w.cell? ⟨4, 0, none⟩ = some (.int .i64 34914)
  c1 : w.cell? ⟨4, 1, none⟩ = some (.int .i32 202)
  c2 : w.cell? ⟨4, 2, none⟩ = some (.int .i32 772)
  c3 : w.cell? ⟨4, 3, none⟩ = some (.int .i64 34916)
  c4 : w.cell? ⟨4, 4, none⟩ = some (.int .i32 202)
  c5 : w.cell? ⟨4, 5, none⟩ = some (.int .i32 780)
  c6 : w.cell? ⟨4, 6, none⟩ = some (.int .i64 34979)
  c7 : w.cell? ⟨4, 7, none⟩ = some (.int .i32 234)
  c8 : w.cell? ⟨4, 8, none⟩ = some (.int .i32 772)
  c9 : w.cell? ⟨4, 9, none⟩ = some (.int .i64 34981)
  c10 : w.cell? ⟨4, 10, none⟩ = some (.int .i32 234)
  c11 : w.cell? ⟨4, 11, none⟩ = some (.int .i32 780)
theorem DD.lt {w : World} (h : DD w) : 4 < w.heap.size := World.block_lt_of_cell? w _ h.c0
theorem DD.below {w w' : World} (h : DD w) {B : Nat} (hb : Below B w w') (hB : 4 < B) : DD w' :=
  ⟨(hb.cell (p := ⟨4, 0, none⟩) hB).trans h.c0, (hb.cell (p := ⟨4, 1, none⟩) hB).trans h.c1, (hb.cell (p := ⟨4, 2, none⟩) hB).trans h.c2, (hb.cell (p := ⟨4, 3, none⟩) hB).trans h.c3, (hb.cell (p := ⟨4, 4, none⟩) hB).trans h.c4, (hb.cell (p := ⟨4, 5, none⟩) hB).trans h.c5, (hb.cell (p := ⟨4, 6, none⟩) hB).trans h.c6, (hb.cell (p := ⟨4, 7, none⟩) hB).trans h.c7, (hb.cell (p := ⟨4, 8, none⟩) hB).trans h.c8, (hb.cell (p := ⟨4, 9, none⟩) hB).trans h.c9, (hb.cell (p := ⟨4, 10, none⟩) hB).trans h.c10, (hb.cell (p := ⟨4, 11, none⟩) hB).trans h.c11⟩
theorem DD.stay {w w' : World} (h : DD w) (hb : Below w.heap.size w w') : DD w' := h.below hb h.lt
def twoV (k : Nat) : Value := if (tw k).1 ≠ 0 then .tuple #[.agg #[.int .i32 ((tw k).1 : Nat), .int .i32 ((tw k).2 : Nat)], .bool true] else .tuple #[.agg #[.int .i32 0, .int .i32 0], .bool false]
/-- A block of two cells. -/
structure Q2 (w : World) (b : Nat) (x y : Value) : Prop where
  lt : b < w.heap.size
  c0 : w.cell? ⟨b, 0, none⟩ = some x
  c1 : w.cell? ⟨b, 1, none⟩ = some y
  fr : ∀ i, w.frozen? ⟨b, i, none⟩ = false
theorem Q2.below {w w' : World} {b B : Nat} {x y : Value} (h : Q2 w b x y) (hb : Below B w w') (hB : b < B) : Q2 w' b x y :=
  ⟨Nat.lt_of_lt_of_le h.lt hb.size, (hb.cell (p := ⟨b, 0, none⟩) hB).trans h.c0, (hb.cell (p := ⟨b, 1, none⟩) hB).trans h.c1, fun i => (hb.frozen (p := ⟨b, i, none⟩) hB).trans (h.fr i)⟩
theorem q2_new (w : World) (x y : Value) (t : Nat) : Q2 (w.alloc (.cells #[x, y] t)) w.heap.size x y := by
  refine ⟨by simp, ?_, ?_, fun i => by simp⟩ <;> (rw [World.cell?_alloc_mark]; rfl)
theorem dd_at0 (wx : World) : (Instr.index 201 (.agg #[.int .i64 34914, .int .i32 202, .int .i32 772, .int .i64 34916, .int .i32 202, .int .i32 780, .int .i64 34979, .int .i32 234, .int .i32 772, .int .i64 34981, .int .i32 234, .int .i32 780]) (.int .i64 0)).run Tryz.prog wx = .ok (.agg #[.int .i64 34914, .int .i32 202, .int .i32 772]) wx := by kernel_rfl
theorem dd_at1 (wx : World) : (Instr.index 201 (.agg #[.int .i64 34914, .int .i32 202, .int .i32 772, .int .i64 34916, .int .i32 202, .int .i32 780, .int .i64 34979, .int .i32 234, .int .i32 772, .int .i64 34981, .int .i32 234, .int .i32 780]) (.int .i64 1)).run Tryz.prog wx = .ok (.agg #[.int .i64 34916, .int .i32 202, .int .i32 780]) wx := by kernel_rfl
theorem dd_at2 (wx : World) : (Instr.index 201 (.agg #[.int .i64 34914, .int .i32 202, .int .i32 772, .int .i64 34916, .int .i32 202, .int .i32 780, .int .i64 34979, .int .i32 234, .int .i32 772, .int .i64 34981, .int .i32 234, .int .i32 780]) (.int .i64 2)).run Tryz.prog wx = .ok (.agg #[.int .i64 34979, .int .i32 234, .int .i32 772]) wx := by kernel_rfl
theorem dd_at3 (wx : World) : (Instr.index 201 (.agg #[.int .i64 34914, .int .i32 202, .int .i32 772, .int .i64 34916, .int .i32 202, .int .i32 780, .int .i64 34979, .int .i32 234, .int .i32 772, .int .i64 34981, .int .i32 234, .int .i32 780]) (.int .i64 3)).run Tryz.prog wx = .ok (.agg #[.int .i64 34981, .int .i32 234, .int .i32 780]) wx := by kernel_rfl
set_option maxRecDepth 100000 in
set_option maxHeartbeats 4000000 in
theorem twoOf_any (l b : Nat) (w : World) (hl : l < 256) (hb : b < 256) (hD : DD w) : Calls Tryz.prog 141 #[.int .u8 l, .int .u8 b] w fun e w' => e = .returned (twoV (l * 256 + b)) ∧ Below w.heap.size w w' := by
  have HC := Lib.hid (fun W => codeB_any l b W hl hb)
  rw [show (l : Int) * 256 + (b : Int) = ((l * 256 + b : Nat) : Int) by omega] at HC
  obtain ⟨PP, hPP⟩ : ∃ PP, PP = twoV (l * 256 + b) := ⟨_, rfl⟩
  rw [← hPP]
  have HPP := Lib.hid hPP
  have hlt0 := hD.lt
  obtain ⟨d0, d1, d2, d3, d4, d5, d6, d7, d8, d9, d10, d11⟩ := hD
  generalize (l : Int) = L at *
  generalize (b : Int) = B at *
  generalize hK : l * 256 + b = K at *
  have n0 : ¬ w.heap.size = 4 := by omega
  have n1 : ¬ 4 = w.heap.size := by omega
  have x0 := dd_at0; have x1 := dd_at1; have x2 := dd_at2; have x3 := dd_at3
  clear hPP hK hl hb
  go_enter Tryz.func141, Tryz.ntmps141
  go_wp2_with fail
  go_loopw [9] (fun i wr => ∃ j : Nat, j ≤ 4 ∧ i = .int .i64 j ∧ Hid ((0 < j → K ≠ 34914) ∧ (1 < j → K ≠ 34916) ∧ (2 < j → K ≠ 34979) ∧ (3 < j → K ≠ 34981)) ∧ Below (w.heap.size + 1) (w.alloc (.cells #[.int .i32 0, .int .i32 0] 165)) wr) (fun i _ => 4 - (RowKit.intOf i).toNat)
  case atStart => exact ⟨0, by omega, rfl, Lib.hid ⟨by omega, by omega, by omega, by omega⟩, Below.refl _ _⟩
  case round =>
    obtain ⟨j, hj, rfl, hne, hB⟩ := hrel
    have HB := Lib.hid hB
    have Q := Lib.hid ((q2_new w (.int .i32 0) (.int .i32 0) 165).below hB (by simp))
    have HW : Hid (Below w.heap.size w wr) := Lib.hid (((Below.refl w.heap.size w).alloc (Nat.le_refl _) _).trans (hB.mono (by simp)))
    clear hB
    by_cases hlt : j < 4
    · have hh : j = 0 ∨ j = 1 ∨ j = 2 ∨ j = 3 := by omega
      have hz : w.heap.size + 1 ≤ wr.heap.size := Q.out.lt
      rcases hh with rfl | rfl | rfl | rfl
      · have HBX := Lib.hid (HB.out.alloc hz (.cells #[.int .i64 34914, .int .i32 202, .int .i32 772] 200))
        have HWX := Lib.hid (HW.out.alloc (by omega) (.cells #[.int .i64 34914, .int .i32 202, .int .i32 772] 200))
        have QX := Lib.hid (Q.out.below ((Below.refl wr.heap.size wr).alloc (Nat.le_refl _) (.cells #[.int .i64 34914, .int .i32 202, .int .i32 772] 200)) hz)
        by_cases hk : K = 34914
        · subst hk
          have HV : Hid (PP = .tuple #[.agg #[.int .i32 202, .int .i32 772], .bool true]) := Lib.hid (by rw [HPP.out]; rfl)
          go_wp2_with fail
          go_region_held3 (fun w' => w'.cell? ⟨wr.heap.size, 0, none⟩ = some (.int .i64 34914)) (go_keep) (first | (go_at_call 184; refine (HC.out _).mono ?_; rintro e1 w1 ⟨rfl, rfl⟩))
          all_goals
            obtain ⟨q0, q1, q2, q3⟩ := QX.out
            go_wp2_with fail
            refine bodyPost_ret (v := .tuple #[.agg #[.int .i32 202, .int .i32 772], .bool true]) (by simp [results, Tryz.results141, go_sem, q1, q2]) rfl ⟨by rw [HV.out], ?_⟩
            exact ((HWX.out.drew).setCell (p := ⟨w.heap.size, 0, none⟩) (Nat.le_refl _) _).setCell (p := ⟨w.heap.size, 1, none⟩) (Nat.le_refl _) _
        · have hk2 : ((34914 : Int) == ((K : Nat) : Int)) = false := beq_eq_false_iff_ne.2 (by omega)
          go_wp2_with fail
          go_region_held3 (fun w' => w'.cell? ⟨wr.heap.size, 0, none⟩ = some (.int .i64 34914)) (go_keep) (first | (go_at_call 184; refine (HC.out _).mono ?_; rintro e1 w1 ⟨rfl, rfl⟩))
          go_wp2_with fail
          go_roundw
          case rel => exact ⟨1, by omega, by go_num, Lib.hid ⟨by have := hne.out; omega, by have := hne.out; omega, by have := hne.out; omega, by have := hne.out; omega⟩, HBX.out.drew⟩
          case measure => simp [RowKit.intOf]
      · have HBX := Lib.hid (HB.out.alloc hz (.cells #[.int .i64 34916, .int .i32 202, .int .i32 780] 200))
        have HWX := Lib.hid (HW.out.alloc (by omega) (.cells #[.int .i64 34916, .int .i32 202, .int .i32 780] 200))
        have QX := Lib.hid (Q.out.below ((Below.refl wr.heap.size wr).alloc (Nat.le_refl _) (.cells #[.int .i64 34916, .int .i32 202, .int .i32 780] 200)) hz)
        by_cases hk : K = 34916
        · subst hk
          have HV : Hid (PP = .tuple #[.agg #[.int .i32 202, .int .i32 780], .bool true]) := Lib.hid (by rw [HPP.out]; rfl)
          go_wp2_with fail
          go_region_held3 (fun w' => w'.cell? ⟨wr.heap.size, 0, none⟩ = some (.int .i64 34916)) (go_keep) (first | (go_at_call 184; refine (HC.out _).mono ?_; rintro e1 w1 ⟨rfl, rfl⟩))
          all_goals
            obtain ⟨q0, q1, q2, q3⟩ := QX.out
            go_wp2_with fail
            refine bodyPost_ret (v := .tuple #[.agg #[.int .i32 202, .int .i32 780], .bool true]) (by simp [results, Tryz.results141, go_sem, q1, q2]) rfl ⟨by rw [HV.out], ?_⟩
            exact ((HWX.out.drew).setCell (p := ⟨w.heap.size, 0, none⟩) (Nat.le_refl _) _).setCell (p := ⟨w.heap.size, 1, none⟩) (Nat.le_refl _) _
        · have hk2 : ((34916 : Int) == ((K : Nat) : Int)) = false := beq_eq_false_iff_ne.2 (by omega)
          go_wp2_with fail
          go_region_held3 (fun w' => w'.cell? ⟨wr.heap.size, 0, none⟩ = some (.int .i64 34916)) (go_keep) (first | (go_at_call 184; refine (HC.out _).mono ?_; rintro e1 w1 ⟨rfl, rfl⟩))
          go_wp2_with fail
          go_roundw
          case rel => exact ⟨2, by omega, by go_num, Lib.hid ⟨by have := hne.out; omega, by have := hne.out; omega, by have := hne.out; omega, by have := hne.out; omega⟩, HBX.out.drew⟩
          case measure => simp [RowKit.intOf]
      · have HBX := Lib.hid (HB.out.alloc hz (.cells #[.int .i64 34979, .int .i32 234, .int .i32 772] 200))
        have HWX := Lib.hid (HW.out.alloc (by omega) (.cells #[.int .i64 34979, .int .i32 234, .int .i32 772] 200))
        have QX := Lib.hid (Q.out.below ((Below.refl wr.heap.size wr).alloc (Nat.le_refl _) (.cells #[.int .i64 34979, .int .i32 234, .int .i32 772] 200)) hz)
        by_cases hk : K = 34979
        · subst hk
          have HV : Hid (PP = .tuple #[.agg #[.int .i32 234, .int .i32 772], .bool true]) := Lib.hid (by rw [HPP.out]; rfl)
          go_wp2_with fail
          go_region_held3 (fun w' => w'.cell? ⟨wr.heap.size, 0, none⟩ = some (.int .i64 34979)) (go_keep) (first | (go_at_call 184; refine (HC.out _).mono ?_; rintro e1 w1 ⟨rfl, rfl⟩))
          all_goals
            obtain ⟨q0, q1, q2, q3⟩ := QX.out
            go_wp2_with fail
            refine bodyPost_ret (v := .tuple #[.agg #[.int .i32 234, .int .i32 772], .bool true]) (by simp [results, Tryz.results141, go_sem, q1, q2]) rfl ⟨by rw [HV.out], ?_⟩
            exact ((HWX.out.drew).setCell (p := ⟨w.heap.size, 0, none⟩) (Nat.le_refl _) _).setCell (p := ⟨w.heap.size, 1, none⟩) (Nat.le_refl _) _
        · have hk2 : ((34979 : Int) == ((K : Nat) : Int)) = false := beq_eq_false_iff_ne.2 (by omega)
          go_wp2_with fail
          go_region_held3 (fun w' => w'.cell? ⟨wr.heap.size, 0, none⟩ = some (.int .i64 34979)) (go_keep) (first | (go_at_call 184; refine (HC.out _).mono ?_; rintro e1 w1 ⟨rfl, rfl⟩))
          go_wp2_with fail
          go_roundw
          case rel => exact ⟨3, by omega, by go_num, Lib.hid ⟨by have := hne.out; omega, by have := hne.out; omega, by have := hne.out; omega, by have := hne.out; omega⟩, HBX.out.drew⟩
          case measure => simp [RowKit.intOf]
      · have HBX := Lib.hid (HB.out.alloc hz (.cells #[.int .i64 34981, .int .i32 234, .int .i32 780] 200))
        have HWX := Lib.hid (HW.out.alloc (by omega) (.cells #[.int .i64 34981, .int .i32 234, .int .i32 780] 200))
        have QX := Lib.hid (Q.out.below ((Below.refl wr.heap.size wr).alloc (Nat.le_refl _) (.cells #[.int .i64 34981, .int .i32 234, .int .i32 780] 200)) hz)
        by_cases hk : K = 34981
        · subst hk
          have HV : Hid (PP = .tuple #[.agg #[.int .i32 234, .int .i32 780], .bool true]) := Lib.hid (by rw [HPP.out]; rfl)
          go_wp2_with fail
          go_region_held3 (fun w' => w'.cell? ⟨wr.heap.size, 0, none⟩ = some (.int .i64 34981)) (go_keep) (first | (go_at_call 184; refine (HC.out _).mono ?_; rintro e1 w1 ⟨rfl, rfl⟩))
          all_goals
            obtain ⟨q0, q1, q2, q3⟩ := QX.out
            go_wp2_with fail
            refine bodyPost_ret (v := .tuple #[.agg #[.int .i32 234, .int .i32 780], .bool true]) (by simp [results, Tryz.results141, go_sem, q1, q2]) rfl ⟨by rw [HV.out], ?_⟩
            exact ((HWX.out.drew).setCell (p := ⟨w.heap.size, 0, none⟩) (Nat.le_refl _) _).setCell (p := ⟨w.heap.size, 1, none⟩) (Nat.le_refl _) _
        · have hk2 : ((34981 : Int) == ((K : Nat) : Int)) = false := beq_eq_false_iff_ne.2 (by omega)
          go_wp2_with fail
          go_region_held3 (fun w' => w'.cell? ⟨wr.heap.size, 0, none⟩ = some (.int .i64 34981)) (go_keep) (first | (go_at_call 184; refine (HC.out _).mono ?_; rintro e1 w1 ⟨rfl, rfl⟩))
          go_wp2_with fail
          go_roundw
          case rel => exact ⟨4, by omega, by go_num, Lib.hid ⟨by have := hne.out; omega, by have := hne.out; omega, by have := hne.out; omega, by have := hne.out; omega⟩, HBX.out.drew⟩
          case measure => simp [RowKit.intOf]
    · obtain rfl : j = 4 := by omega
      have HV : Hid (PP = .tuple #[.agg #[.int .i32 0, .int .i32 0], .bool false]) := Lib.hid (by
        rw [HPP.out]; unfold twoV
        rcases tw_cases K with ⟨e, _⟩ | ⟨e, _⟩ | ⟨e, _⟩ | ⟨e, _⟩ | ⟨ht, _⟩
        · have := hne.out; omega
        · have := hne.out; omega
        · have := hne.out; omega
        · have := hne.out; omega
        · rw [ht]; rfl)
      obtain ⟨q0, q1, q2, q3⟩ := Q.out
      go_wp2_with fail
      refine bodyPost_ret (v := .tuple #[.agg #[.int .i32 0, .int .i32 0], .bool false]) (by simp [results, Tryz.results141, go_sem, q1, q2]) rfl ⟨by rw [HV.out], ?_⟩
      exact (HW.out.setCell (p := ⟨w.heap.size, 0, none⟩) (Nat.le_refl _) _).setCell (p := ⟨w.heap.size, 1, none⟩) (Nat.le_refl _) _
theorem txt_two {p q : Int} (h : ([p, q] : List Int).all validRune = true) (W : World) : Calls Tryz.prog 73 #[.slice (some ⟨W.heap.size, 0, none⟩) 2 2] (W.alloc (.cells #[.int .i32 p, .int .i32 q] 21)) fun e w' => e = .returned (.tuple #[.string (pt.txt [p, q]), .bool true]) ∧ Below W.heap.size W w' := by
  have h2 := pt.text_row _ 2 2 [p, q] _ (rowI_new2 W p q 21) (by omega)
  rw [h, if_pos rfl] at h2
  exact h2.mono fun e w' h3 => ⟨h3.1, ((Below.refl _ _).alloc (Nat.le_refl _) _).trans (h3.2.mono (by simp))⟩
theorem txt_one {p : Int} (h : validRune p = true) (W : World) : Calls Tryz.prog 73 #[.slice (some ⟨W.heap.size, 0, none⟩) 1 1] (W.alloc (.cells #[.int .i32 p] 21)) fun e w' => e = .returned (.tuple #[.string (pt.txt [p]), .bool true]) ∧ Below W.heap.size W w' := by
  have h2 := pt.text_one p true (W.alloc (.cells #[.int .i32 p] 21)) W.heap.size (by simp) (by rw [World.cell?_alloc_mark]; rfl) h.symm
  rw [if_pos rfl] at h2
  exact h2.mono fun e w' h3 => ⟨h3.1, ((Below.refl _ _).alloc (Nat.le_refl _) _).trans (h3.2.mono (by simp))⟩
set_option maxRecDepth 100000 in
set_option maxHeartbeats 2000000 in
theorem signs_two (l b p q : Nat) (w : World) (hl : l < 256) (hb : b < 256) (hD : DD w) (ht : tw (l * 256 + b) = (p, q)) (h0 : p ≠ 0) (hv : ([(p : Int), (q : Int)]).all validRune = true) :
    Calls Tryz.prog 100 #[.int .u8 l, .int .u8 b] w fun e w' => e = .returned (.tuple #[.string (pt.txt [(p : Int), (q : Int)]), .bool true]) ∧ Below w.heap.size w w' := by
  have HT := Lib.hid (twoOf_any l b w hl hb hD)
  have e : twoV (l * 256 + b) = .tuple #[.agg #[.int .i32 p, .int .i32 q], .bool true] := by unfold twoV; rw [ht, if_pos h0]
  rw [e] at HT
  have HX : Hid (∀ W : World, Calls Tryz.prog 73 #[.slice (some ⟨W.heap.size + 1, 0, none⟩) 2 2] ((W.alloc (.cells #[.int .i32 p, .int .i32 q] 165)).alloc (.cells #[.int .i32 p, .int .i32 q] 21)) fun e w' => e = .returned (.tuple #[.string (pt.txt [(p : Int), (q : Int)]), .bool true]) ∧ Below W.heap.size W w') := Lib.hid (fun W => by
    have h := txt_two hv (W.alloc (.cells #[.int .i32 p, .int .i32 q] 165))
    rw [World.size_alloc] at h
    exact h.mono fun e w' h3 => ⟨h3.1, ((Below.refl _ _).alloc (Nat.le_refl _) _).trans (h3.2.mono (Nat.le_succ _))⟩)
  generalize (p : Int) = P at *
  generalize (q : Int) = Q at *
  generalize (l : Int) = L at *
  generalize (b : Int) = B at *
  generalize pt.txt [P, Q] = T at *
  clear ht h0 hv e hD hl hb
  go_enter Tryz.func100, Tryz.ntmps100
  go_wp2_with (first
    | (go_at_call 141; refine (HT.out).mono ?_; rintro e1 w1 ⟨rfl, hb1⟩; have B1 := Lib.hid hb1; clear hb1)
    | (go_at_call 73; refine (HX.out _).mono ?_; rintro e2 w2 ⟨rfl, hb2⟩; have B2 := Lib.hid (B1.out.trans (hb2.mono B1.out.size)); clear hb2))
  go_ret2
  exact ⟨rfl, B2.out⟩
theorem one_nil {l b : Nat} (ht : tw (l * 256 + b) = (0, 0)) : twoV (l * 256 + b) = .tuple #[.agg #[.int .i32 0, .int .i32 0], .bool false] := by unfold twoV; rw [ht, if_neg (by simp)]
set_option maxRecDepth 100000 in
set_option maxHeartbeats 2000000 in
theorem signs_one (l b : Nat) (w : World) (hl : l < 256) (hb : b < 256) (hD : DD w) (ht : tw (l * 256 + b) = (0, 0)) (h0 : bg.one l b ≠ 0) :
    Calls Tryz.prog 100 #[.int .u8 l, .int .u8 b] w fun e w' => e = .returned (.tuple #[.string (pt.txt [((bg.one l b : Nat) : Int)]), .bool true]) ∧ Below w.heap.size w w' := by
  have HT := Lib.hid (twoOf_any l b w hl hb hD)
  rw [one_nil ht] at HT
  have HO := Lib.hid (fun W => signOf_any l b W hl hb)
  unfold onV at HO
  rw [if_neg h0] at HO
  replace HO : Hid (∀ W, Calls Tryz.prog 142 #[.int .u8 l, .int .u8 b] W fun e w' => e = .returned (.tuple #[.int .i32 ((bg.one l b : Nat) : Int), .bool true]) ∧ Below W.heap.size W w') := HO
  have HX := Lib.hid (fun W => txt_one (one_valid h0) W)
  generalize ((bg.one l b : Nat) : Int) = P at *
  generalize (l : Int) = L at *
  generalize (b : Int) = B at *
  generalize pt.txt [P] = T at *
  clear ht h0 hD hl hb
  go_enter Tryz.func100, Tryz.ntmps100
  go_wp2_with (first
    | (go_at_call 141; refine (HT.out).mono ?_; rintro e1 w1 ⟨rfl, hb1⟩; have B1 := Lib.hid (hb1.alloc hb1.size (.cells #[.int .i32 0, .int .i32 0] 165)); clear hb1)
    | (go_at_call 142; refine (HO.out _).mono ?_; rintro e3 w3 ⟨rfl, hb3⟩; have B3 := Lib.hid (B1.out.trans (hb3.mono B1.out.size)); clear hb3)
    | (go_at_call 73; refine (HX.out _).mono ?_; rintro e2 w2 ⟨rfl, hb2⟩; have B2 := Lib.hid (B3.out.trans (hb2.mono B3.out.size)); clear hb2))
  go_ret2
  exact ⟨rfl, B2.out⟩
set_option maxRecDepth 100000 in
set_option maxHeartbeats 2000000 in
theorem signs_none (l b : Nat) (w : World) (hl : l < 256) (hb : b < 256) (hD : DD w) (ht : tw (l * 256 + b) = (0, 0)) (h0 : bg.one l b = 0) :
    Calls Tryz.prog 100 #[.int .u8 l, .int .u8 b] w fun e w' => e = .returned (.tuple #[.string ⟨#[]⟩, .bool false]) ∧ Below w.heap.size w w' := by
  have HT := Lib.hid (twoOf_any l b w hl hb hD)
  rw [one_nil ht] at HT
  have HO := Lib.hid (fun W => signOf_any l b W hl hb)
  unfold onV at HO
  rw [if_pos h0] at HO
  unfold opV at HO
  generalize (l : Int) = L at *
  generalize (b : Int) = B at *
  clear ht h0 hD hl hb
  go_enter Tryz.func100, Tryz.ntmps100
  go_wp2_with (first
    | (go_at_call 141; refine (HT.out).mono ?_; rintro e1 w1 ⟨rfl, hb1⟩; have B1 := Lib.hid (hb1.alloc hb1.size (.cells #[.int .i32 0, .int .i32 0] 165)); clear hb1)
    | (go_at_call 142; refine (HO.out _).mono ?_; rintro e3 w3 ⟨rfl, hb3⟩; have B3 := Lib.hid (B1.out.trans (hb3.mono B1.out.size)); clear hb3))
  go_ret2
  exact ⟨rfl, B3.out⟩
/-- Signs, whatever the bytes. -/
theorem signsL_any (l b : Nat) (w : World) (hD : DD w) (hl : l < 256) (hb : b < 256) : Calls Tryz.prog 100 #[.int .u8 l, .int .u8 b] w fun e w' => e = .returned (sgV l b) ∧ Below w.heap.size w w' := by
  have two : ∀ p q : Nat, tw (l * 256 + b) = (p, q) → p ≠ 0 → ([(p : Int), (q : Int)]).all validRune = true → Calls Tryz.prog 100 #[.int .u8 l, .int .u8 b] w fun e w' => e = .returned (sgV l b) ∧ Below w.heap.size w w' := fun p q ht h0 hv => by
    have h := signs_two l b p q w hl hb hD ht h0 hv
    have e : sgV l b = .tuple #[.string (pt.txt [(p : Int), (q : Int)]), .bool true] := by
      unfold bg.sgV; rw [sgT_two ht h0]; unfold bg.sgL; rw [ht, if_pos h0]; rfl
    rw [e]; exact h
  rcases tw_cases (l * 256 + b) with ⟨_, ht⟩ | ⟨_, ht⟩ | ⟨_, ht⟩ | ⟨_, ht⟩ | ⟨ht, _⟩
  · exact two _ _ ht (by omega) (by decide)
  · exact two _ _ ht (by omega) (by decide)
  · exact two _ _ ht (by omega) (by decide)
  · exact two _ _ ht (by omega) (by decide)
  · by_cases h0 : bg.one l b = 0
    · have h := signs_none l b w hl hb hD ht h0
      have e : sgV l b = .tuple #[.string ⟨#[]⟩, .bool false] := by
        unfold bg.sgV; rw [sgT_none ht h0]; unfold bg.sgL; rw [ht, if_neg (by simp), if_neg (by simp [h0])]; rfl
      rw [e]; exact h
    · have h := signs_one l b w hl hb hD ht h0
      have e : sgV l b = .tuple #[.string (pt.txt [((bg.one l b : Nat) : Int)]), .bool true] := by
        unfold bg.sgV; rw [sgT_one ht h0]; unfold bg.sgL; rw [ht, if_neg (by simp), if_pos h0]; rfl
      rw [e]; exact h
end Go.Proofs.YtiigknimfibdpaaGreatDoor.bp
