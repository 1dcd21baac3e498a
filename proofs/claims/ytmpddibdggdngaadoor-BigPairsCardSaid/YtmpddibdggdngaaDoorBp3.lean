/- The landed big5: its table of doubles; twoOf, Signs: contracts. -/
import Derived.Test.YtmpddibdggdngaaDoorBp1
import Derived.Test.YtmpddibdggdngaaDoorBg4
namespace Go.Proofs.YtmpddibdggdngaaDoor.bp
open Go.RowKit Go.Lib
open Go.Proofs.YtmpddibdggdngaaDoor.tb
open Go.Proofs.YtmpddibdggdngaaDoor.bg (cell sgC rInt tw tw_cases sgV sgL sgT sgT_two sgT_one sgT_none one_valid rowI_new2)
set_option linter.unusedVariables false
/-- The table of two signs at once holds what the text lays. -/
structure DD (w : World) : Prop where
  c0 : w.cell? ⟨0, 0, none⟩ = some (.int .i64 34914)
  c1 : w.cell? ⟨0, 1, none⟩ = some (.int .i32 202)
  c2 : w.cell? ⟨0, 2, none⟩ = some (.int .i32 772)
  c3 : w.cell? ⟨0, 3, none⟩ = some (.int .i64 34916)
  c4 : w.cell? ⟨0, 4, none⟩ = some (.int .i32 202)
  c5 : w.cell? ⟨0, 5, none⟩ = some (.int .i32 780)
  c6 : w.cell? ⟨0, 6, none⟩ = some (.int .i64 34979)
  c7 : w.cell? ⟨0, 7, none⟩ = some (.int .i32 234)
  c8 : w.cell? ⟨0, 8, none⟩ = some (.int .i32 772)
  c9 : w.cell? ⟨0, 9, none⟩ = some (.int .i64 34981)
  c10 : w.cell? ⟨0, 10, none⟩ = some (.int .i32 234)
  c11 : w.cell? ⟨0, 11, none⟩ = some (.int .i32 780)
theorem DD.lt {w : World} (h : DD w) : 0 < w.heap.size := World.block_lt_of_cell? w _ h.c0
theorem DD.below {w w' : World} (h : DD w) {B : Nat} (hb : Below B w w') (hB : 0 < B) : DD w' :=
  ⟨(hb.cell (p := ⟨0, 0, none⟩) hB).trans h.c0, (hb.cell (p := ⟨0, 1, none⟩) hB).trans h.c1, (hb.cell (p := ⟨0, 2, none⟩) hB).trans h.c2, (hb.cell (p := ⟨0, 3, none⟩) hB).trans h.c3, (hb.cell (p := ⟨0, 4, none⟩) hB).trans h.c4, (hb.cell (p := ⟨0, 5, none⟩) hB).trans h.c5, (hb.cell (p := ⟨0, 6, none⟩) hB).trans h.c6, (hb.cell (p := ⟨0, 7, none⟩) hB).trans h.c7, (hb.cell (p := ⟨0, 8, none⟩) hB).trans h.c8, (hb.cell (p := ⟨0, 9, none⟩) hB).trans h.c9, (hb.cell (p := ⟨0, 10, none⟩) hB).trans h.c10, (hb.cell (p := ⟨0, 11, none⟩) hB).trans h.c11⟩
theorem DD.stay {w w' : World} (h : DD w) (hb : Below w.heap.size w w') : DD w' := h.below hb h.lt
def twoV (k : Nat) : Value := if (tw k).1 ≠ 0 then .tuple #[.agg #[.int .i32 ((tw k).1 : Nat), .int .i32 ((tw k).2 : Nat)], .bool true] else .tuple #[.agg #[.int .i32 0, .int .i32 0], .bool false]
/-- A block of two cells. -/
structure Q2 (w : World) (b : Nat) (x y : Value) : Prop where
  lt : b < w.heap.size
  c0 : w.cell? ⟨b, 0, none⟩ = some x
  c1 : w.cell? ⟨b, 1, none⟩ = some y
  fr : ∀ i, w.frozen? ⟨b, i, none⟩ = false
theorem Q2.below {w w' : World} {b B : Nat} {x y : Value} (h : Q2 w b x y) (hb : Below B w w') (hB : b < B) : Q2 w' b x y :=
  ⟨Nat.lt_of_lt_of_le h.lt hb.size, (hb.cell (p := ⟨b, 0, none⟩) hB).trans h.c0, (hb.cell (p := ⟨b, 1, none⟩) hB).trans h.c1, fun i => (hb.frozen (p := ⟨b, i, none⟩) hB).trans (h.fr i)⟩
theorem q2_new (w : World) (x y : Value) (t : Nat) : Q2 (w.alloc (.cells #[x, y] t)) w.heap.size x y := by
  refine ⟨by simp, ?_, ?_, fun i => by simp⟩ <;> (rw [World.cell?_alloc_mark]; rfl)
def ddV : Array Value := #[.int .i64 34914, .int .i32 202, .int .i32 772, .int .i64 34916, .int .i32 202, .int .i32 780, .int .i64 34979, .int .i32 234, .int .i32 772, .int .i64 34981, .int .i32 234, .int .i32 780]
theorem dd_at0 (wx : World) : (Instr.index 67 (.agg #[.int .i64 34914, .int .i32 202, .int .i32 772, .int .i64 34916, .int .i32 202, .int .i32 780, .int .i64 34979, .int .i32 234, .int .i32 772, .int .i64 34981, .int .i32 234, .int .i32 780]) (.int .i64 0)).run Tryd.prog wx = .ok (.agg #[.int .i64 34914, .int .i32 202, .int .i32 772]) wx := by kernel_rfl
theorem dd_at1 (wx : World) : (Instr.index 67 (.agg #[.int .i64 34914, .int .i32 202, .int .i32 772, .int .i64 34916, .int .i32 202, .int .i32 780, .int .i64 34979, .int .i32 234, .int .i32 772, .int .i64 34981, .int .i32 234, .int .i32 780]) (.int .i64 1)).run Tryd.prog wx = .ok (.agg #[.int .i64 34916, .int .i32 202, .int .i32 780]) wx := by kernel_rfl
theorem dd_at2 (wx : World) : (Instr.index 67 (.agg #[.int .i64 34914, .int .i32 202, .int .i32 772, .int .i64 34916, .int .i32 202, .int .i32 780, .int .i64 34979, .int .i32 234, .int .i32 772, .int .i64 34981, .int .i32 234, .int .i32 780]) (.int .i64 2)).run Tryd.prog wx = .ok (.agg #[.int .i64 34979, .int .i32 234, .int .i32 772]) wx := by kernel_rfl
theorem dd_at3 (wx : World) : (Instr.index 67 (.agg #[.int .i64 34914, .int .i32 202, .int .i32 772, .int .i64 34916, .int .i32 202, .int .i32 780, .int .i64 34979, .int .i32 234, .int .i32 772, .int .i64 34981, .int .i32 234, .int .i32 780]) (.int .i64 3)).run Tryd.prog wx = .ok (.agg #[.int .i64 34981, .int .i32 234, .int .i32 780]) wx := by kernel_rfl
set_option maxRecDepth 100000 in
set_option maxHeartbeats 4000000 in
theorem twoOf_any (l b : Nat) (w : World) (hl : l < 256) (hb : b < 256) (hD : DD w) : Calls Tryd.prog 15 #[.int .u8 l, .int .u8 b] w fun e w' => e = .returned (twoV (l * 256 + b)) ∧ Below w.heap.size w w' := by
  have HC := Lib.hid (fun W => codeB_any l b W hl hb)
  rw [show (l : Int) * 256 + (b : Int) = ((l * 256 + b : Nat) : Int) by omega] at HC
  obtain ⟨PP, hPP⟩ : ∃ PP, PP = twoV (l * 256 + b) := ⟨_, rfl⟩
  rw [← hPP]
  have HPP := Lib.hid hPP
  have hlt0 := hD.lt
  obtain ⟨d0, d1, d2, d3, d4, d5, d6, d7, d8, d9, d10, d11⟩ := hD
  generalize (l : Int) = L at *
  generalize (b : Int) = B at *
  generalize hK : l * 256 + b = K at *
  have n0 : ¬ w.heap.size = 0 := by omega
  have n1 : ¬ 0 = w.heap.size := by omega
  have x0 := dd_at0; have x1 := dd_at1; have x2 := dd_at2; have x3 := dd_at3
  clear hPP hK hl hb
  go_enter Tryd.func15, Tryd.ntmps15
  go_wp2_with fail
  go_loopw [9] (fun i wr => ∃ j : Nat, j ≤ 4 ∧ i = .int .i64 j ∧ Hid ((0 < j → K ≠ 34914) ∧ (1 < j → K ≠ 34916) ∧ (2 < j → K ≠ 34979) ∧ (3 < j → K ≠ 34981)) ∧ Below (w.heap.size + 1) (w.alloc (.cells #[.int .i32 0, .int .i32 0] 43)) wr) (fun i _ => 4 - (RowKit.intOf i).toNat)
  case atStart => exact ⟨0, by omega, rfl, Lib.hid ⟨by omega, by omega, by omega, by omega⟩, Below.refl _ _⟩
  case round =>
    obtain ⟨j, hj, rfl, hne, hB⟩ := hrel
    have HB := Lib.hid hB
    have Q := Lib.hid ((q2_new w (.int .i32 0) (.int .i32 0) 43).below hB (by simp))
    have HW : Hid (Below w.heap.size w wr) := Lib.hid (((Below.refl w.heap.size w).alloc (Nat.le_refl _) _).trans (hB.mono (by simp)))
    clear hB
    by_cases hlt : j < 4
    · have hh : j = 0 ∨ j = 1 ∨ j = 2 ∨ j = 3 := by omega
      have hz : w.heap.size + 1 ≤ wr.heap.size := Q.out.lt
      rcases hh with rfl | rfl | rfl | rfl
      · have HBX := Lib.hid (HB.out.alloc hz (.cells #[.int .i64 34914, .int .i32 202, .int .i32 772] 66))
        have HWX := Lib.hid (HW.out.alloc (by omega) (.cells #[.int .i64 34914, .int .i32 202, .int .i32 772] 66))
        have QX := Lib.hid (Q.out.below ((Below.refl wr.heap.size wr).alloc (Nat.le_refl _) (.cells #[.int .i64 34914, .int .i32 202, .int .i32 772] 66)) hz)
        by_cases hk : K = 34914
        · subst hk
          have HV : Hid (PP = .tuple #[.agg #[.int .i32 202, .int .i32 772], .bool true]) := Lib.hid (by rw [HPP.out]; rfl)
          go_wp2_with fail
          go_region_held3 (fun w' => w'.cell? ⟨wr.heap.size, 0, none⟩ = some (.int .i64 34914)) (go_keep) (first | (go_at_call 31; refine (HC.out _).mono ?_; rintro e1 w1 ⟨rfl, rfl⟩))
          all_goals
            obtain ⟨q0, q1, q2, q3⟩ := QX.out
            go_wp2_with fail
            refine bodyPost_ret (v := .tuple #[.agg #[.int .i32 202, .int .i32 772], .bool true]) (by simp [results, Tryd.results15, go_sem, q1, q2]) rfl ⟨by rw [HV.out], ?_⟩
            exact ((HWX.out.drew).setCell (p := ⟨w.heap.size, 0, none⟩) (Nat.le_refl _) _).setCell (p := ⟨w.heap.size, 1, none⟩) (Nat.le_refl _) _
        · have hk2 : ((34914 : Int) == ((K : Nat) : Int)) = false := beq_eq_false_iff_ne.2 (by omega)
          go_wp2_with fail
          go_region_held3 (fun w' => w'.cell? ⟨wr.heap.size, 0, none⟩ = some (.int .i64 34914)) (go_keep) (first | (go_at_call 31; refine (HC.out _).mono ?_; rintro e1 w1 ⟨rfl, rfl⟩))
          go_wp2_with fail
          go_roundw
          case rel => exact ⟨1, by omega, by go_num, Lib.hid ⟨by have := hne.out; omega, by have := hne.out; omega, by have := hne.out; omega, by have := hne.out; omega⟩, HBX.out.drew⟩
          case measure => simp [RowKit.intOf]
      · have HBX := Lib.hid (HB.out.alloc hz (.cells #[.int .i64 34916, .int .i32 202, .int .i32 780] 66))
        have HWX := Lib.hid (HW.out.alloc (by omega) (.cells #[.int .i64 34916, .int .i32 202, .int .i32 780] 66))
        have QX := Lib.hid (Q.out.below ((Below.refl wr.heap.size wr).alloc (Nat.le_refl _) (.cells #[.int .i64 34916, .int .i32 202, .int .i32 780] 66)) hz)
        by_cases hk : K = 34916
        · subst hk
          have HV : Hid (PP = .tuple #[.agg #[.int .i32 202, .int .i32 780], .bool true]) := Lib.hid (by rw [HPP.out]; rfl)
          go_wp2_with fail
          go_region_held3 (fun w' => w'.cell? ⟨wr.heap.size, 0, none⟩ = some (.int .i64 34916)) (go_keep) (first | (go_at_call 31; refine (HC.out _).mono ?_; rintro e1 w1 ⟨rfl, rfl⟩))
          all_goals
            obtain ⟨q0, q1, q2, q3⟩ := QX.out
            go_wp2_with fail
            refine bodyPost_ret (v := .tuple #[.agg #[.int .i32 202, .int .i32 780], .bool true]) (by simp [results, Tryd.results15, go_sem, q1, q2]) rfl ⟨by rw [HV.out], ?_⟩
            exact ((HWX.out.drew).setCell (p := ⟨w.heap.size, 0, none⟩) (Nat.le_refl _) _).setCell (p := ⟨w.heap.size, 1, none⟩) (Nat.le_refl _) _
        · have hk2 : ((34916 : Int) == ((K : Nat) : Int)) = false := beq_eq_false_iff_ne.2 (by omega)
          go_wp2_with fail
          go_region_held3 (fun w' => w'.cell? ⟨wr.heap.size, 0, none⟩ = some (.int .i64 34916)) (go_keep) (first | (go_at_call 31; refine (HC.out _).mono ?_; rintro e1 w1 ⟨rfl, rfl⟩))
          go_wp2_with fail
          go_roundw
          case rel => exact ⟨2, by omega, by go_num, Lib.hid ⟨by have := hne.out; omega, by have := hne.out; omega, by have := hne.out; omega, by have := hne.out; omega⟩, HBX.out.drew⟩
          case measure => simp [RowKit.intOf]
      · have HBX := Lib.hid (HB.out.alloc hz (.cells #[.int .i64 34979, .int .i32 234, .int .i32 772] 66))
        have HWX := Lib.hid (HW.out.alloc (by omega) (.cells #[.int .i64 34979, .int .i32 234, .int .i32 772] 66))
        have QX := Lib.hid (Q.out.below ((Below.refl wr.heap.size wr).alloc (Nat.le_refl _) (.cells #[.int .i64 34979, .int .i32 234, .int .i32 772] 66)) hz)
        by_cases hk : K = 34979
        · subst hk
          have HV : Hid (PP = .tuple #[.agg #[.int .i32 234, .int .i32 772], .bool true]) := Lib.hid (by rw [HPP.out]; rfl)
          go_wp2_with fail
          go_region_held3 (fun w' => w'.cell? ⟨wr.heap.size, 0, none⟩ = some (.int .i64 34979)) (go_keep) (first | (go_at_call 31; refine (HC.out _).mono ?_; rintro e1 w1 ⟨rfl, rfl⟩))
          all_goals
            obtain ⟨q0, q1, q2, q3⟩ := QX.out
            go_wp2_with fail
            refine bodyPost_ret (v := .tuple #[.agg #[.int .i32 234, .int .i32 772], .bool true]) (by simp [results, Tryd.results15, go_sem, q1, q2]) rfl ⟨by rw [HV.out], ?_⟩
            exact ((HWX.out.drew).setCell (p := ⟨w.heap.size, 0, none⟩) (Nat.le_refl _) _).setCell (p := ⟨w.heap.size, 1, none⟩) (Nat.le_refl _) _
        · have hk2 : ((34979 : Int) == ((K : Nat) : Int)) = false := beq_eq_false_iff_ne.2 (by omega)
          go_wp2_with fail
          go_region_held3 (fun w' => w'.cell? ⟨wr.heap.size, 0, none⟩ = some (.int .i64 34979)) (go_keep) (first | (go_at_call 31; refine (HC.out _).mono ?_; rintro e1 w1 ⟨rfl, rfl⟩))
          go_wp2_with fail
          go_roundw
          case rel => exact ⟨3, by omega, by go_num, Lib.hid ⟨by have := hne.out; omega, by have := hne.out; omega, by have := hne.out; omega, by have := hne.out; omega⟩, HBX.out.drew⟩
          case measure => simp [RowKit.intOf]
      · have HBX := Lib.hid (HB.out.alloc hz (.cells #[.int .i64 34981, .int .i32 234, .int .i32 780] 66))
        have HWX := Lib.hid (HW.out.alloc (by omega) (.cells #[.int .i64 34981, .int .i32 234, .int .i32 780] 66))
        have QX := Lib.hid (Q.out.below ((Below.refl wr.heap.size wr).alloc (Nat.le_refl _) (.cells #[.int .i64 34981, .int .i32 234, .int .i32 780] 66)) hz)
        by_cases hk : K = 34981
        · subst hk
          have HV : Hid (PP = .tuple #[.agg #[.int .i32 234, .int .i32 780], .bool true]) := Lib.hid (by rw [HPP.out]; rfl)
          go_wp2_with fail
          go_region_held3 (fun w' => w'.cell? ⟨wr.heap.size, 0, none⟩ = some (.int .i64 34981)) (go_keep) (first | (go_at_call 31; refine (HC.out _).mono ?_; rintro e1 w1 ⟨rfl, rfl⟩))
          all_goals
            obtain ⟨q0, q1, q2, q3⟩ := QX.out
            go_wp2_with fail
            refine bodyPost_ret (v := .tuple #[.agg #[.int .i32 234, .int .i32 780], .bool true]) (by simp [results, Tryd.results15, go_sem, q1, q2]) rfl ⟨by rw [HV.out], ?_⟩
            exact ((HWX.out.drew).setCell (p := ⟨w.heap.size, 0, none⟩) (Nat.le_refl _) _).setCell (p := ⟨w.heap.size, 1, none⟩) (Nat.le_refl _) _
        · have hk2 : ((34981 : Int) == ((K : Nat) : Int)) = false := beq_eq_false_iff_ne.2 (by omega)
          go_wp2_with fail
          go_region_held3 (fun w' => w'.cell? ⟨wr.heap.size, 0, none⟩ = some (.int .i64 34981)) (go_keep) (first | (go_at_call 31; refine (HC.out _).mono ?_; rintro e1 w1 ⟨rfl, rfl⟩))
          go_wp2_with fail
          go_roundw
          case rel => exact ⟨4, by omega, by go_num, Lib.hid ⟨by have := hne.out; omega, by have := hne.out; omega, by have := hne.out; omega, by have := hne.out; omega⟩, HBX.out.drew⟩
          case measure => simp [RowKit.intOf]
    · obtain rfl : j = 4 := by omega
      have HV : Hid (PP = .tuple #[.agg #[.int .i32 0, .int .i32 0], .bool false]) := Lib.hid (by
        rw [HPP.out]; unfold twoV
        rcases tw_cases K with ⟨e, _⟩ | ⟨e, _⟩ | ⟨e, _⟩ | ⟨e, _⟩ | ⟨ht, _⟩
        · have := hne.out; omega
        · have := hne.out; omega
        · have := hne.out; omega
        · have := hne.out; omega
        · rw [ht]; rfl)
      obtain ⟨q0, q1, q2, q3⟩ := Q.out
      go_wp2_with fail
      refine bodyPost_ret (v := .tuple #[.agg #[.int .i32 0, .int .i32 0], .bool false]) (by simp [results, Tryd.results15, go_sem, q1, q2]) rfl ⟨by rw [HV.out], ?_⟩
      exact (HW.out.setCell (p := ⟨w.heap.size, 0, none⟩) (Nat.le_refl _) _).setCell (p := ⟨w.heap.size, 1, none⟩) (Nat.le_refl _) _
theorem txt_two {p q : Int} (h : ([p, q] : List Int).all validRune = true) (W : World) : Calls Tryd.prog 16 #[.slice (some ⟨W.heap.size, 0, none⟩) 2 2] (W.alloc (.cells #[.int .i32 p, .int .i32 q] 21)) fun e w' => e = .returned (.tuple #[.string (pt.txt [p, q]), .bool true]) ∧ Below W.heap.size W w' := by
  have h2 := pt.text_row _ 2 2 [p, q] _ (rowI_new2 W p q 21) (by omega)
  rw [h, if_pos rfl] at h2
  exact h2.mono fun e w' h3 => ⟨h3.1, ((Below.refl _ _).alloc (Nat.le_refl _) _).trans (h3.2.mono (by simp))⟩
theorem txt_one {p : Int} (h : validRune p = true) (W : World) : Calls Tryd.prog 16 #[.slice (some ⟨W.heap.size, 0, none⟩) 1 1] (W.alloc (.cells #[.int .i32 p] 21)) fun e w' => e = .returned (.tuple #[.string (pt.txt [p]), .bool true]) ∧ Below W.heap.size W w' := by
  have h2 := pt.text_one p true (W.alloc (.cells #[.int .i32 p] 21)) W.heap.size (by simp) (by rw [World.cell?_alloc_mark]; rfl) h.symm
  rw [if_pos rfl] at h2
  exact h2.mono fun e w' h3 => ⟨h3.1, ((Below.refl _ _).alloc (Nat.le_refl _) _).trans (h3.2.mono (by simp))⟩
set_option maxRecDepth 100000 in
set_option maxHeartbeats 2000000 in
theorem signs_two (l b p q : Nat) (w : World) (hl : l < 256) (hb : b < 256) (hD : DD w) (ht : tw (l * 256 + b) = (p, q)) (h0 : p ≠ 0) (hv : ([(p : Int), (q : Int)]).all validRune = true) :
    Calls Tryd.prog 7 #[.int .u8 l, .int .u8 b] w fun e w' => e = .returned (.tuple #[.string (pt.txt [(p : Int), (q : Int)]), .bool true]) ∧ Below w.heap.size w w' := by
  have HT := Lib.hid (twoOf_any l b w hl hb hD)
  have e : twoV (l * 256 + b) = .tuple #[.agg #[.int .i32 p, .int .i32 q], .bool true] := by unfold twoV; rw [ht, if_pos h0]
  rw [e] at HT
  have HX : Hid (∀ W : World, Calls Tryd.prog 16 #[.slice (some ⟨W.heap.size + 1, 0, none⟩) 2 2] ((W.alloc (.cells #[.int .i32 p, .int .i32 q] 43)).alloc (.cells #[.int .i32 p, .int .i32 q] 21)) fun e w' => e = .returned (.tuple #[.string (pt.txt [(p : Int), (q : Int)]), .bool true]) ∧ Below W.heap.size W w') := Lib.hid (fun W => by
    have h := txt_two hv (W.alloc (.cells #[.int .i32 p, .int .i32 q] 43))
    rw [World.size_alloc] at h
    exact h.mono fun e w' h3 => ⟨h3.1, ((Below.refl _ _).alloc (Nat.le_refl _) _).trans (h3.2.mono (Nat.le_succ _))⟩)
  generalize (p : Int) = P at *
  generalize (q : Int) = Q at *
  generalize (l : Int) = L at *
  generalize (b : Int) = B at *
  generalize pt.txt [P, Q] = T at *
  clear ht h0 hv e hD hl hb
  go_enter Tryd.func7, Tryd.ntmps7
  go_wp2_with (first
    | (go_at_call 15; refine (HT.out).mono ?_; rintro e1 w1 ⟨rfl, hb1⟩; have B1 := Lib.hid hb1; clear hb1)
    | (go_at_call 16; refine (HX.out _).mono ?_; rintro e2 w2 ⟨rfl, hb2⟩; have B2 := Lib.hid (B1.out.trans (hb2.mono B1.out.size)); clear hb2))
  go_ret2
  exact ⟨rfl, B2.out⟩
theorem one_nil {l b : Nat} (ht : tw (l * 256 + b) = (0, 0)) : twoV (l * 256 + b) = .tuple #[.agg #[.int .i32 0, .int .i32 0], .bool false] := by unfold twoV; rw [ht, if_neg (by simp)]
set_option maxRecDepth 100000 in
set_option maxHeartbeats 2000000 in
theorem signs_one (l b : Nat) (w : World) (hl : l < 256) (hb : b < 256) (hD : DD w) (ht : tw (l * 256 + b) = (0, 0)) (h0 : bg.one l b ≠ 0) :
    Calls Tryd.prog 7 #[.int .u8 l, .int .u8 b] w fun e w' => e = .returned (.tuple #[.string (pt.txt [((bg.one l b : Nat) : Int)]), .bool true]) ∧ Below w.heap.size w w' := by
  have HT := Lib.hid (twoOf_any l b w hl hb hD)
  rw [one_nil ht] at HT
  have HO := Lib.hid (fun W => signOf_any l b W hl hb)
  unfold onV at HO
  rw [if_neg h0] at HO
  replace HO : Hid (∀ W, Calls Tryd.prog 17 #[.int .u8 l, .int .u8 b] W fun e w' => e = .returned (.tuple #[.int .i32 ((bg.one l b : Nat) : Int), .bool true]) ∧ Below W.heap.size W w') := HO
  have HX := Lib.hid (fun W => txt_one (one_valid h0) W)
  generalize ((bg.one l b : Nat) : Int) = P at *
  generalize (l : Int) = L at *
  generalize (b : Int) = B at *
  generalize pt.txt [P] = T at *
  clear ht h0 hD hl hb
  go_enter Tryd.func7, Tryd.ntmps7
  go_wp2_with (first
    | (go_at_call 15; refine (HT.out).mono ?_; rintro e1 w1 ⟨rfl, hb1⟩; have B1 := Lib.hid (hb1.alloc hb1.size (.cells #[.int .i32 0, .int .i32 0] 43)); clear hb1)
    | (go_at_call 17; refine (HO.out _).mono ?_; rintro e3 w3 ⟨rfl, hb3⟩; have B3 := Lib.hid (B1.out.trans (hb3.mono B1.out.size)); clear hb3)
    | (go_at_call 16; refine (HX.out _).mono ?_; rintro e2 w2 ⟨rfl, hb2⟩; have B2 := Lib.hid (B3.out.trans (hb2.mono B3.out.size)); clear hb2))
  go_ret2
  exact ⟨rfl, B2.out⟩
set_option maxRecDepth 100000 in
set_option maxHeartbeats 2000000 in
theorem signs_none (l b : Nat) (w : World) (hl : l < 256) (hb : b < 256) (hD : DD w) (ht : tw (l * 256 + b) = (0, 0)) (h0 : bg.one l b = 0) :
    Calls Tryd.prog 7 #[.int .u8 l, .int .u8 b] w fun e w' => e = .returned (.tuple #[.string ⟨#[]⟩, .bool false]) ∧ Below w.heap.size w w' := by
  have HT := Lib.hid (twoOf_any l b w hl hb hD)
  rw [one_nil ht] at HT
  have HO := Lib.hid (fun W => signOf_any l b W hl hb)
  unfold onV at HO
  rw [if_pos h0] at HO
  unfold opV at HO
  generalize (l : Int) = L at *
  generalize (b : Int) = B at *
  clear ht h0 hD hl hb
  go_enter Tryd.func7, Tryd.ntmps7
  go_wp2_with (first
    | (go_at_call 15; refine (HT.out).mono ?_; rintro e1 w1 ⟨rfl, hb1⟩; have B1 := Lib.hid (hb1.alloc hb1.size (.cells #[.int .i32 0, .int .i32 0] 43)); clear hb1)
    | (go_at_call 17; refine (HO.out _).mono ?_; rintro e3 w3 ⟨rfl, hb3⟩; have B3 := Lib.hid (B1.out.trans (hb3.mono B1.out.size)); clear hb3))
  go_ret2
  exact ⟨rfl, B3.out⟩
/-- Signs, whatever the bytes. -/
theorem signsL_any (l b : Nat) (w : World) (hD : DD w) (hl : l < 256) (hb : b < 256) : Calls Tryd.prog 7 #[.int .u8 l, .int .u8 b] w fun e w' => e = .returned (sgV l b) ∧ Below w.heap.size w w' := by
  have two : ∀ p q : Nat, tw (l * 256 + b) = (p, q) → p ≠ 0 → ([(p : Int), (q : Int)]).all validRune = true → Calls Tryd.prog 7 #[.int .u8 l, .int .u8 b] w fun e w' => e = .returned (sgV l b) ∧ Below w.heap.size w w' := fun p q ht h0 hv => by
    have h := signs_two l b p q w hl hb hD ht h0 hv
    have e : sgV l b = .tuple #[.string (pt.txt [(p : Int), (q : Int)]), .bool true] := by
      unfold bg.sgV; rw [sgT_two ht h0]; unfold bg.sgL; rw [ht, if_pos h0]; rfl
    rw [e]; exact h
  rcases tw_cases (l * 256 + b) with ⟨_, ht⟩ | ⟨_, ht⟩ | ⟨_, ht⟩ | ⟨_, ht⟩ | ⟨ht, _⟩
  · exact two _ _ ht (by omega) (by decide)
  · exact two _ _ ht (by omega) (by decide)
  · exact two _ _ ht (by omega) (by decide)
  · exact two _ _ ht (by omega) (by decide)
  · by_cases h0 : bg.one l b = 0
    · have h := signs_none l b w hl hb hD ht h0
      have e : sgV l b = .tuple #[.string ⟨#[]⟩, .bool false] := by
        unfold bg.sgV; rw [sgT_none ht h0]; unfold bg.sgL; rw [ht, if_neg (by simp), if_neg (by simp [h0])]; rfl
      rw [e]; exact h
    · have h := signs_one l b w hl hb hD ht h0
      have e : sgV l b = .tuple #[.string (pt.txt [((bg.one l b : Nat) : Int)]), .bool true] := by
        unfold bg.sgV; rw [sgT_one ht h0]; unfold bg.sgL; rw [ht, if_neg (by simp), if_pos h0]; rfl
      rw [e]; exact h
end Go.Proofs.YtmpddibdggdngaaDoor.bp
