/- Layer 12: the document's Check, Print and Parse. -/
import Derived.Test.YtidlkkhmmgkicaaTa0
import Derived.WalkSmall
import Derived.BigQuiet
import Derived.Deep.QuietTactic
namespace Go.Proofs.Ytidlkkhmmgkicaa.ta
open Go.RowKit Go.Lib
open Go.Proofs.Ytidlkkhmmgkicaa.un (bs bs_list bs_size bs_app bs_back size_list bt bt_lt bt_get index_bt wrap64 data_app drop_at drop_end u0)
set_option linter.unusedVariables false
/-- What is wrong with a tail, from a text on. -/
def chk (tr : Nat) : Nat → List ByteArray → Nat × Nat
  | _, [] => (0, 0)
  | i, s :: l => if bs (cutL s.data.toList) ≠ s then (5, i) else if wd i tr < s.size then (4, i) else chk tr (i + 1) l
theorem ne_list {x y : ByteArray} (h : ¬ x = y) : (x.toList == y.toList) = false := by
  rw [beq_eq_false_iff_ne]
  intro e
  apply h
  rw [ByteArray.toList_eq, ByteArray.toList_eq] at e
  rw [← bs_back x, ← bs_back y, e]
/-- A callee that draws nothing, in a region of a world that has drawn. -/
theorem quiet2 {P : Program} {f : FuncId} {args : Array Value} {w : World} {n m : Nat} {v : Value} (h : Calls P f args (w.drewN (n + m)) fun e w' => e = .returned v ∧ w.drewN (n + m) = w') : Calls P f args (w.drewN (n + m)) fun e w'' => e = .returned v ∧ ∃ k, w'' = w.drewN (n + k) :=
  h.mono fun _ _ ⟨he, hm⟩ => ⟨he, m, hm.symm⟩
set_option maxRecDepth 100000 in
set_option maxHeartbeats 4000000 in
theorem Check_any (a b c d e : ByteArray) (tr g : Nat) (w : World) (ht : tr < 256) (ha : a.size ≤ 4000) (hb : b.size ≤ 4000) (hc : c.size ≤ 4000) (hd : d.size ≤ 4000) (he : e.size ≤ 4000) : Calls Try.prog 23 #[.agg #[.string a, .string b, .string c, .string d, .string e, .int .i64 (tr : Int), .int .i64 (g : Int)]] w fun r w' => r = .returned (.tuple #[.int .i64 ((chk tr 0 [a, b, c, d, e]).1 : Int), .int .i64 ((chk tr 0 [a, b, c, d, e]).2 : Int)]) ∧ Below w.heap.size w w' := by
  have HC := Lib.hid (fun x (h : x.size ≤ 4000) => fun W => Cut_any x W h)
  obtain ⟨R, hR0⟩ : ∃ R, R = chk tr 0 [a, b, c, d, e] := ⟨_, rfl⟩
  rw [← hR0]
  have HR := Lib.hid hR0
  clear hR0
  have HB : ∀ n, Hid (Below w.heap.size w ((w.alloc (.cells #[.string a, .string b, .string c, .string d, .string e, .int .i64 (tr : Int), .int .i64 (g : Int)] 36)).drewN n)) := fun n => Lib.hid (below_drewN ((Below.refl _ _).alloc (Nat.le_refl _) _) n)
  go_enter Try.func23, Try.ntmps23
  go_wp2_with fail
  go_loopw [4] (fun i wr => ∃ (j : Nat), j ≤ 5 ∧ i = .int .i64 j ∧ Hid (chk tr j ([a, b, c, d, e].drop j) = R) ∧ ∃ n, wr = (w.alloc (.cells #[.string a, .string b, .string c, .string d, .string e, .int .i64 (tr : Int), .int .i64 (g : Int)] 36)).drewN n) (fun i _ => 5 - (RowKit.intOf i).toNat)
  case atStart => exact ⟨0, by omega, rfl, Lib.hid HR.out.symm, 0, rfl⟩
  case round =>
    obtain ⟨j, hj, rfl, ho, n, rfl⟩ := hrel
    have hcase : j = 0 ∨ j = 1 ∨ j = 2 ∨ j = 3 ∨ j = 4 ∨ j = 5 := by omega
    rcases hcase with rfl | rfl | rfl | rfl | rfl | rfl
    · have hcl := HC.out a ha
      have hco := ho.out
      have W9 := Lib.hid (fun W => Width_any 0 tr W (by omega) ht)
      have hs0 : (a.size : Int) ≤ 4000 := by omega
      have hch : chk tr 0 [a, b, c, d, e] = if bs (cutL a.data.toList) ≠ a then (5, 0) else if wd 0 tr < a.size then (4, 0) else chk tr 1 [b, c, d, e] := rfl
      change chk tr 0 [a, b, c, d, e] = R at hco
      rw [hch] at hco
      clear hch ho HC
      by_cases he1 : bs (cutL a.data.toList) = a
      · rw [he1] at hcl
        have HCL := Lib.hid hcl
        rw [if_neg (by simpa using he1)] at hco
        have hwl := wd_le 0 tr
        by_cases he2 : wd 0 tr < a.size
        · rw [if_pos he2] at hco
          have gt : ((wd 0 tr : Nat) : Int) < (a.size : Int) := by omega
          generalize ((wd 0 tr : Nat) : Int) = B at *
          subst hco
          clear hcl he1 he2 hwl
          go_wp2_with fail
          go_quiet (first
              | (go_at_call 38; exact quiet2 (HCL.out _))
              | (go_at_call 37; exact quiet2 (W9.out _)))
          go_wp2_with fail
          go_quiet (first
              | (go_at_call 38; exact quiet2 (HCL.out _))
              | (go_at_call 37; exact quiet2 (W9.out _)))
          go_wp2_with fail
          go_ret2
          exact ⟨rfl, (HB _).out⟩
        · rw [if_neg he2] at hco
          have gt : ¬ ((wd 0 tr : Nat) : Int) < (a.size : Int) := by omega
          generalize ((wd 0 tr : Nat) : Int) = B at *
          have HO := Lib.hid hco
          clear hcl he1 he2 hwl hco
          go_wp2_with fail
          go_quiet (first
              | (go_at_call 38; exact quiet2 (HCL.out _))
              | (go_at_call 37; exact quiet2 (W9.out _)))
          go_wp2_with fail
          go_quiet (first
              | (go_at_call 38; exact quiet2 (HCL.out _))
              | (go_at_call 37; exact quiet2 (W9.out _)))
          go_wp2_with fail
          go_roundw
          case rel => exact ⟨1, by omega, by go_num, HO, _, rfl⟩
          case measure => simp [RowKit.intOf]
      · rw [if_pos he1] at hco
        have HCL := Lib.hid hcl
        have hne := ne_list he1
        generalize bs (cutL a.data.toList) = Y at *
        subst hco
        clear hcl he1 W9
        go_wp2_with fail
        go_quiet (first | (go_at_call 38; exact quiet2 (HCL.out _)))
        go_wp2_with fail
        go_ret2
        exact ⟨rfl, (HB _).out⟩
    · have hcl := HC.out b hb
      have hco := ho.out
      have W9 := Lib.hid (fun W => Width_any 1 tr W (by omega) ht)
      have hs0 : (b.size : Int) ≤ 4000 := by omega
      have hch : chk tr 1 [b, c, d, e] = if bs (cutL b.data.toList) ≠ b then (5, 1) else if wd 1 tr < b.size then (4, 1) else chk tr 2 [c, d, e] := rfl
      change chk tr 1 [b, c, d, e] = R at hco
      rw [hch] at hco
      clear hch ho HC
      by_cases he1 : bs (cutL b.data.toList) = b
      · rw [he1] at hcl
        have HCL := Lib.hid hcl
        rw [if_neg (by simpa using he1)] at hco
        have hwl := wd_le 1 tr
        by_cases he2 : wd 1 tr < b.size
        · rw [if_pos he2] at hco
          have gt : ((wd 1 tr : Nat) : Int) < (b.size : Int) := by omega
          generalize ((wd 1 tr : Nat) : Int) = B at *
          subst hco
          clear hcl he1 he2 hwl
          go_wp2_with fail
          go_quiet (first
              | (go_at_call 38; exact quiet2 (HCL.out _))
              | (go_at_call 37; exact quiet2 (W9.out _)))
          go_wp2_with fail
          go_quiet (first
              | (go_at_call 38; exact quiet2 (HCL.out _))
              | (go_at_call 37; exact quiet2 (W9.out _)))
          go_wp2_with fail
          go_ret2
          exact ⟨rfl, (HB _).out⟩
        · rw [if_neg he2] at hco
          have gt : ¬ ((wd 1 tr : Nat) : Int) < (b.size : Int) := by omega
          generalize ((wd 1 tr : Nat) : Int) = B at *
          have HO := Lib.hid hco
          clear hcl he1 he2 hwl hco
          go_wp2_with fail
          go_quiet (first
              | (go_at_call 38; exact quiet2 (HCL.out _))
              | (go_at_call 37; exact quiet2 (W9.out _)))
          go_wp2_with fail
          go_quiet (first
              | (go_at_call 38; exact quiet2 (HCL.out _))
              | (go_at_call 37; exact quiet2 (W9.out _)))
          go_wp2_with fail
          go_roundw
          case rel => exact ⟨2, by omega, by go_num, HO, _, rfl⟩
          case measure => simp [RowKit.intOf]
      · rw [if_pos he1] at hco
        have HCL := Lib.hid hcl
        have hne := ne_list he1
        generalize bs (cutL b.data.toList) = Y at *
        subst hco
        clear hcl he1 W9
        go_wp2_with fail
        go_quiet (first | (go_at_call 38; exact quiet2 (HCL.out _)))
        go_wp2_with fail
        go_ret2
        exact ⟨rfl, (HB _).out⟩
    · have hcl := HC.out c hc
      have hco := ho.out
      have W9 := Lib.hid (fun W => Width_any 2 tr W (by omega) ht)
      have hs0 : (c.size : Int) ≤ 4000 := by omega
      have hch : chk tr 2 [c, d, e] = if bs (cutL c.data.toList) ≠ c then (5, 2) else if wd 2 tr < c.size then (4, 2) else chk tr 3 [d, e] := rfl
      change chk tr 2 [c, d, e] = R at hco
      rw [hch] at hco
      clear hch ho HC
      by_cases he1 : bs (cutL c.data.toList) = c
      · rw [he1] at hcl
        have HCL := Lib.hid hcl
        rw [if_neg (by simpa using he1)] at hco
        have hwl := wd_le 2 tr
        by_cases he2 : wd 2 tr < c.size
        · rw [if_pos he2] at hco
          have gt : ((wd 2 tr : Nat) : Int) < (c.size : Int) := by omega
          generalize ((wd 2 tr : Nat) : Int) = B at *
          subst hco
          clear hcl he1 he2 hwl
          go_wp2_with fail
          go_quiet (first
              | (go_at_call 38; exact quiet2 (HCL.out _))
              | (go_at_call 37; exact quiet2 (W9.out _)))
          go_wp2_with fail
          go_quiet (first
              | (go_at_call 38; exact quiet2 (HCL.out _))
              | (go_at_call 37; exact quiet2 (W9.out _)))
          go_wp2_with fail
          go_ret2
          exact ⟨rfl, (HB _).out⟩
        · rw [if_neg he2] at hco
          have gt : ¬ ((wd 2 tr : Nat) : Int) < (c.size : Int) := by omega
          generalize ((wd 2 tr : Nat) : Int) = B at *
          have HO := Lib.hid hco
          clear hcl he1 he2 hwl hco
          go_wp2_with fail
          go_quiet (first
              | (go_at_call 38; exact quiet2 (HCL.out _))
              | (go_at_call 37; exact quiet2 (W9.out _)))
          go_wp2_with fail
          go_quiet (first
              | (go_at_call 38; exact quiet2 (HCL.out _))
              | (go_at_call 37; exact quiet2 (W9.out _)))
          go_wp2_with fail
          go_roundw
          case rel => exact ⟨3, by omega, by go_num, HO, _, rfl⟩
          case measure => simp [RowKit.intOf]
      · rw [if_pos he1] at hco
        have HCL := Lib.hid hcl
        have hne := ne_list he1
        generalize bs (cutL c.data.toList) = Y at *
        subst hco
        clear hcl he1 W9
        go_wp2_with fail
        go_quiet (first | (go_at_call 38; exact quiet2 (HCL.out _)))
        go_wp2_with fail
        go_ret2
        exact ⟨rfl, (HB _).out⟩
    · have hcl := HC.out d hd
      have hco := ho.out
      have W9 := Lib.hid (fun W => Width_any 3 tr W (by omega) ht)
      have hs0 : (d.size : Int) ≤ 4000 := by omega
      have hch : chk tr 3 [d, e] = if bs (cutL d.data.toList) ≠ d then (5, 3) else if wd 3 tr < d.size then (4, 3) else chk tr 4 [e] := rfl
      change chk tr 3 [d, e] = R at hco
      rw [hch] at hco
      clear hch ho HC
      by_cases he1 : bs (cutL d.data.toList) = d
      · rw [he1] at hcl
        have HCL := Lib.hid hcl
        rw [if_neg (by simpa using he1)] at hco
        have hwl := wd_le 3 tr
        by_cases he2 : wd 3 tr < d.size
        · rw [if_pos he2] at hco
          have gt : ((wd 3 tr : Nat) : Int) < (d.size : Int) := by omega
          generalize ((wd 3 tr : Nat) : Int) = B at *
          subst hco
          clear hcl he1 he2 hwl
          go_wp2_with fail
          go_quiet (first
              | (go_at_call 38; exact quiet2 (HCL.out _))
              | (go_at_call 37; exact quiet2 (W9.out _)))
          go_wp2_with fail
          go_quiet (first
              | (go_at_call 38; exact quiet2 (HCL.out _))
              | (go_at_call 37; exact quiet2 (W9.out _)))
          go_wp2_with fail
          go_ret2
          exact ⟨rfl, (HB _).out⟩
        · rw [if_neg he2] at hco
          have gt : ¬ ((wd 3 tr : Nat) : Int) < (d.size : Int) := by omega
          generalize ((wd 3 tr : Nat) : Int) = B at *
          have HO := Lib.hid hco
          clear hcl he1 he2 hwl hco
          go_wp2_with fail
          go_quiet (first
              | (go_at_call 38; exact quiet2 (HCL.out _))
              | (go_at_call 37; exact quiet2 (W9.out _)))
          go_wp2_with fail
          go_quiet (first
              | (go_at_call 38; exact quiet2 (HCL.out _))
              | (go_at_call 37; exact quiet2 (W9.out _)))
          go_wp2_with fail
          go_roundw
          case rel => exact ⟨4, by omega, by go_num, HO, _, rfl⟩
          case measure => simp [RowKit.intOf]
      · rw [if_pos he1] at hco
        have HCL := Lib.hid hcl
        have hne := ne_list he1
        generalize bs (cutL d.data.toList) = Y at *
        subst hco
        clear hcl he1 W9
        go_wp2_with fail
        go_quiet (first | (go_at_call 38; exact quiet2 (HCL.out _)))
        go_wp2_with fail
        go_ret2
        exact ⟨rfl, (HB _).out⟩
    · have hcl := HC.out e he
      have hco := ho.out
      have W9 := Lib.hid (fun W => Width_any 4 tr W (by omega) ht)
      have hs0 : (e.size : Int) ≤ 4000 := by omega
      have hch : chk tr 4 [e] = if bs (cutL e.data.toList) ≠ e then (5, 4) else if wd 4 tr < e.size then (4, 4) else chk tr 5 [] := rfl
      change chk tr 4 [e] = R at hco
      rw [hch] at hco
      clear hch ho HC
      by_cases he1 : bs (cutL e.data.toList) = e
      · rw [he1] at hcl
        have HCL := Lib.hid hcl
        rw [if_neg (by simpa using he1)] at hco
        have hwl := wd_le 4 tr
        by_cases he2 : wd 4 tr < e.size
        · rw [if_pos he2] at hco
          have gt : ((wd 4 tr : Nat) : Int) < (e.size : Int) := by omega
          generalize ((wd 4 tr : Nat) : Int) = B at *
          subst hco
          clear hcl he1 he2 hwl
          go_wp2_with fail
          go_quiet (first
              | (go_at_call 38; exact quiet2 (HCL.out _))
              | (go_at_call 37; exact quiet2 (W9.out _)))
          go_wp2_with fail
          go_quiet (first
              | (go_at_call 38; exact quiet2 (HCL.out _))
              | (go_at_call 37; exact quiet2 (W9.out _)))
          go_wp2_with fail
          go_ret2
          exact ⟨rfl, (HB _).out⟩
        · rw [if_neg he2] at hco
          have gt : ¬ ((wd 4 tr : Nat) : Int) < (e.size : Int) := by omega
          generalize ((wd 4 tr : Nat) : Int) = B at *
          have HO := Lib.hid hco
          clear hcl he1 he2 hwl hco
          go_wp2_with fail
          go_quiet (first
              | (go_at_call 38; exact quiet2 (HCL.out _))
              | (go_at_call 37; exact quiet2 (W9.out _)))
          go_wp2_with fail
          go_quiet (first
              | (go_at_call 38; exact quiet2 (HCL.out _))
              | (go_at_call 37; exact quiet2 (W9.out _)))
          go_wp2_with fail
          go_roundw
          case rel => exact ⟨5, by omega, by go_num, HO, _, rfl⟩
          case measure => simp [RowKit.intOf]
      · rw [if_pos he1] at hco
        have HCL := Lib.hid hcl
        have hne := ne_list he1
        generalize bs (cutL e.data.toList) = Y at *
        subst hco
        clear hcl he1 W9
        go_wp2_with fail
        go_quiet (first | (go_at_call 38; exact quiet2 (HCL.out _)))
        go_wp2_with fail
        go_ret2
        exact ⟨rfl, (HB _).out⟩
    · have hco : chk tr 5 [] = R := ho.out
      have hco2 : R = ((0, 0) : Nat × Nat) := by rw [← hco]; rfl
      subst hco2
      clear ho HC hco HR
      go_wp2_with fail
      go_ret2
      exact ⟨rfl, (HB _).out⟩
end Go.Proofs.Ytidlkkhmmgkicaa.ta
