/- The landed tail: Check: a contract. -/
import Derived.Test.YtidlkkhmmgkicaaTl1
namespace Go.Proofs.Ytidlkkhmmgkicaa.tl
open Go.RowKit Go.Lib
open Go.Proofs.Ytidlkkhmmgkicaa.un (bs bs_list bs_size bs_app bs_back size_list bt bt_lt bt_get index_bt wrap64 data_app drop_at drop_end u0)
open Go.Proofs.Ytidlkkhmmgkicaa.ta Go.Proofs.Ytidlkkhmmgkicaa.ob Go.Proofs.Ytidlkkhmmgkicaa.bk
set_option linter.unusedVariables false
set_option maxRecDepth 100000 in
set_option maxHeartbeats 4000000 in
theorem check_any (a b c d e : ByteArray) (tr g : Nat) (w : World) (ht : tr < 256) (ha : a.size ≤ maxLen) (hb : b.size ≤ maxLen) (hc : c.size ≤ maxLen) (hd : d.size ≤ maxLen) (he : e.size ≤ maxLen) : Calls Try.prog 24 #[tlV a b c d e tr g] w fun r w' => r = .returned (ftV (chk tr 0 [a, b, c, d, e])) ∧ Below w.heap.size w w' := by
  have HT := Lib.hid (fun W => room_any a b c d e tr g W ht)
  have HS := Lib.hid (fun W => texts_any a b c d e W)
  have HC := Lib.hid (fun x W => contains_any x W)
  unfold tlV at *
  unfold ftV
  unfold maxLen at ha hb hc hd he
  obtain ⟨D, hD⟩ : ∃ D, D = wd 4 tr := ⟨_, rfl⟩
  rw [← hD] at HT
  obtain ⟨R, hR0⟩ : ∃ R, R = chk tr 0 [a, b, c, d, e] := ⟨_, rfl⟩
  rw [← hR0]
  have HR := Lib.hid hR0
  have HD := Lib.hid hD
  clear hR0 hD
  go_enter Try.func24, Try.ntmps24
  go_wp2_with (first
    | (go_at_call 39; refine (HT.out _).mono ?_; rintro e1 w1 ⟨rfl, hb1⟩; have S1 := Lib.hid (((Bk.new w 31 [.string a, .string b, .string c, .string d, .string e, .int .u8 (tr : Int), .int .u8 (g : Int)]).alloc (.cells #[.int .i64 0, .int .i64 0] 43)).below hb1); have R1 : Hid (Bk w1 (w.heap.size + 1) [.int .i64 0, .int .i64 0]) := Lib.hid (by have X := Bk.new (w.alloc (.cells #[.string a, .string b, .string c, .string d, .string e, .int .u8 (tr : Int), .int .u8 (g : Int)] 31)) 43 [.int .i64 0, .int .i64 0]; rw [World.size_alloc] at X; exact X.below hb1); have B1 : Hid (Below w.heap.size w w1) := Lib.hid ((((Below.refl _ _).alloc (Nat.le_refl _) _).alloc (by rw [World.size_alloc]; omega) _).trans (hb1.mono (by rw [World.size_alloc, World.size_alloc]; omega))); have S2 := Lib.hid (S1.out.alloc (.cells #[.int .i64 30, .int .i64 30, .int .i64 30, .int .i64 4, .int .i64 (D : Int)] 55)); have R2 := Lib.hid (R1.out.alloc (.cells #[.int .i64 30, .int .i64 30, .int .i64 30, .int .i64 4, .int .i64 (D : Int)] 55)); have X2 := Lib.hid (Bk.new w1 55 [.int .i64 30, .int .i64 30, .int .i64 30, .int .i64 4, .int .i64 (D : Int)]); have B2 := Lib.hid (B1.out.alloc B1.out.size (.cells #[.int .i64 30, .int .i64 30, .int .i64 30, .int .i64 4, .int .i64 (D : Int)] 55)); have y0 := S2.out.c 0 _ rfl; have y1 := S2.out.c 1 _ rfl; have y2 := S2.out.c 2 _ rfl; have y3 := S2.out.c 3 _ rfl; have y4 := S2.out.c 4 _ rfl; clear hb1 HT)
    | (go_at_call 40; refine (HS.out _).mono ?_; rintro e2 w2 ⟨rfl, hb2⟩; have R3 := Lib.hid (R2.out.below hb2); have X3 := Lib.hid (X2.out.below hb2); have B3 := Lib.hid (B2.out.trans (hb2.mono B2.out.size)); clear y0 y1 y2 y3 y4 S1 R1 B1 S2 R2 X2 B2 hb2 HS))
  go_loopw [11] (fun i wr => (i = .int .i64 0 ∧ Hid (chk tr 0 [a, b, c, d, e] = R) ∧ wr = w2) ∨ (i = .int .i64 1 ∧ Hid (chk tr 1 [b, c, d, e] = R) ∧ wr = w2) ∨ (i = .int .i64 2 ∧ Hid (chk tr 2 [c, d, e] = R) ∧ wr = w2) ∨ (i = .int .i64 3 ∧ Hid (chk tr 3 [d, e] = R) ∧ wr = w2) ∨ (i = .int .i64 4 ∧ Hid (chk tr 4 [e] = R) ∧ wr = w2) ∨ (i = .int .i64 5 ∧ Hid (((0, 0) : Nat × Nat) = R) ∧ wr = w2)) (fun i _ => 5 - (RowKit.intOf i).toNat)
  case atStart => exact .inl ⟨rfl, Lib.hid HR.out.symm, by first | rfl | trivial⟩
  case round =>
    rcases hrel with ⟨rfl, ho, rfl⟩ | ⟨rfl, ho, rfl⟩ | ⟨rfl, ho, rfl⟩ | ⟨rfl, ho, rfl⟩ | ⟨rfl, ho, rfl⟩ | ⟨rfl, ho, rfl⟩
    all_goals
      have r0 := R3.out.c 0 _ rfl
      have r1 := R3.out.c 1 _ rfl
      have rf := R3.out.f
    · have hco := ho.out
      have hch : chk tr 0 [a, b, c, d, e] = if bs (cutL a.data.toList) ≠ a then (5, 0) else if wd 0 tr < a.size then (4, 0) else chk tr 1 [b, c, d, e] := rfl
      change chk tr 0 [a, b, c, d, e] = R at hco
      rw [hch, show wd 0 tr = 30 from by rfl] at hco
      have HCL := Lib.hid (HC.out a)
      have xj := X3.out.c 0 _ rfl
      have xi := fun wx => ix5_0 a b c d e wx
      clear hch ho
      by_cases he1 : bs (cutL a.data.toList) = a
      · rw [if_neg (by simpa using he1)] at hco
        rw [show decide (¬ bs (cutL a.data.toList) = a) = false by simpa using he1] at HCL
        by_cases he2 : 30 < a.size
        · rw [if_pos he2] at hco
          have gt : 30 < (a.size : Int) := by omega
          subst hco
          clear he1 he2
          go_wp2_with (go_at_call 45; refine (HCL.out _).mono ?_; rintro e3 w3 ⟨rfl, rfl⟩)
          refine bodyPost_ret (v := .agg #[.int .i64 4, .int .i64 0]) (by simp [results, Try.results24, go_sem, r0, r1]) rfl ⟨rfl, ?_⟩
          exact (B3.out.setCell (p := ⟨w.heap.size + 1, 0, none⟩) (Nat.le_succ _) _).setCell (p := ⟨w.heap.size + 1, 1, none⟩) (Nat.le_succ _) _
        · rw [if_neg he2] at hco
          have gt : ¬ 30 < (a.size : Int) := by omega
          have HO := Lib.hid hco
          clear he1 he2 hco
          go_wp2_with (go_at_call 45; refine (HCL.out _).mono ?_; rintro e3 w3 ⟨rfl, rfl⟩)
          go_roundw
          case rel => exact .inr (.inl ⟨rfl, HO, by first | rfl | trivial⟩)
          case measure => simp [RowKit.intOf]
      · rw [if_pos he1] at hco
        rw [show decide (¬ bs (cutL a.data.toList) = a) = true by simpa using he1] at HCL
        subst hco
        clear he1
        go_wp2_with (go_at_call 45; refine (HCL.out _).mono ?_; rintro e3 w3 ⟨rfl, rfl⟩)
        refine bodyPost_ret (v := .agg #[.int .i64 5, .int .i64 0]) (by simp [results, Try.results24, go_sem, r0, r1]) rfl ⟨rfl, ?_⟩
        exact (B3.out.setCell (p := ⟨w.heap.size + 1, 0, none⟩) (Nat.le_succ _) _).setCell (p := ⟨w.heap.size + 1, 1, none⟩) (Nat.le_succ _) _
    · have hco := ho.out
      have hch : chk tr 1 [b, c, d, e] = if bs (cutL b.data.toList) ≠ b then (5, 1) else if wd 1 tr < b.size then (4, 1) else chk tr 2 [c, d, e] := rfl
      change chk tr 1 [b, c, d, e] = R at hco
      rw [hch, show wd 1 tr = 30 from by rfl] at hco
      have HCL := Lib.hid (HC.out b)
      have xj := X3.out.c 1 _ rfl
      have xi := fun wx => ix5_1 a b c d e wx
      clear hch ho
      by_cases he1 : bs (cutL b.data.toList) = b
      · rw [if_neg (by simpa using he1)] at hco
        rw [show decide (¬ bs (cutL b.data.toList) = b) = false by simpa using he1] at HCL
        by_cases he2 : 30 < b.size
        · rw [if_pos he2] at hco
          have gt : 30 < (b.size : Int) := by omega
          subst hco
          clear he1 he2
          go_wp2_with (go_at_call 45; refine (HCL.out _).mono ?_; rintro e3 w3 ⟨rfl, rfl⟩)
          refine bodyPost_ret (v := .agg #[.int .i64 4, .int .i64 1]) (by simp [results, Try.results24, go_sem, r0, r1]) rfl ⟨rfl, ?_⟩
          exact (B3.out.setCell (p := ⟨w.heap.size + 1, 0, none⟩) (Nat.le_succ _) _).setCell (p := ⟨w.heap.size + 1, 1, none⟩) (Nat.le_succ _) _
        · rw [if_neg he2] at hco
          have gt : ¬ 30 < (b.size : Int) := by omega
          have HO := Lib.hid hco
          clear he1 he2 hco
          go_wp2_with (go_at_call 45; refine (HCL.out _).mono ?_; rintro e3 w3 ⟨rfl, rfl⟩)
          go_roundw
          case rel => exact .inr (.inr (.inl ⟨rfl, HO, by first | rfl | trivial⟩))
          case measure => simp [RowKit.intOf]
      · rw [if_pos he1] at hco
        rw [show decide (¬ bs (cutL b.data.toList) = b) = true by simpa using he1] at HCL
        subst hco
        clear he1
        go_wp2_with (go_at_call 45; refine (HCL.out _).mono ?_; rintro e3 w3 ⟨rfl, rfl⟩)
        refine bodyPost_ret (v := .agg #[.int .i64 5, .int .i64 1]) (by simp [results, Try.results24, go_sem, r0, r1]) rfl ⟨rfl, ?_⟩
        exact (B3.out.setCell (p := ⟨w.heap.size + 1, 0, none⟩) (Nat.le_succ _) _).setCell (p := ⟨w.heap.size + 1, 1, none⟩) (Nat.le_succ _) _
    · have hco := ho.out
      have hch : chk tr 2 [c, d, e] = if bs (cutL c.data.toList) ≠ c then (5, 2) else if wd 2 tr < c.size then (4, 2) else chk tr 3 [d, e] := rfl
      change chk tr 2 [c, d, e] = R at hco
      rw [hch, show wd 2 tr = 30 from by rfl] at hco
      have HCL := Lib.hid (HC.out c)
      have xj := X3.out.c 2 _ rfl
      have xi := fun wx => ix5_2 a b c d e wx
      clear hch ho
      by_cases he1 : bs (cutL c.data.toList) = c
      · rw [if_neg (by simpa using he1)] at hco
        rw [show decide (¬ bs (cutL c.data.toList) = c) = false by simpa using he1] at HCL
        by_cases he2 : 30 < c.size
        · rw [if_pos he2] at hco
          have gt : 30 < (c.size : Int) := by omega
          subst hco
          clear he1 he2
          go_wp2_with (go_at_call 45; refine (HCL.out _).mono ?_; rintro e3 w3 ⟨rfl, rfl⟩)
          refine bodyPost_ret (v := .agg #[.int .i64 4, .int .i64 2]) (by simp [results, Try.results24, go_sem, r0, r1]) rfl ⟨rfl, ?_⟩
          exact (B3.out.setCell (p := ⟨w.heap.size + 1, 0, none⟩) (Nat.le_succ _) _).setCell (p := ⟨w.heap.size + 1, 1, none⟩) (Nat.le_succ _) _
        · rw [if_neg he2] at hco
          have gt : ¬ 30 < (c.size : Int) := by omega
          have HO := Lib.hid hco
          clear he1 he2 hco
          go_wp2_with (go_at_call 45; refine (HCL.out _).mono ?_; rintro e3 w3 ⟨rfl, rfl⟩)
          go_roundw
          case rel => exact .inr (.inr (.inr (.inl ⟨rfl, HO, by first | rfl | trivial⟩)))
          case measure => simp [RowKit.intOf]
      · rw [if_pos he1] at hco
        rw [show decide (¬ bs (cutL c.data.toList) = c) = true by simpa using he1] at HCL
        subst hco
        clear he1
        go_wp2_with (go_at_call 45; refine (HCL.out _).mono ?_; rintro e3 w3 ⟨rfl, rfl⟩)
        refine bodyPost_ret (v := .agg #[.int .i64 5, .int .i64 2]) (by simp [results, Try.results24, go_sem, r0, r1]) rfl ⟨rfl, ?_⟩
        exact (B3.out.setCell (p := ⟨w.heap.size + 1, 0, none⟩) (Nat.le_succ _) _).setCell (p := ⟨w.heap.size + 1, 1, none⟩) (Nat.le_succ _) _
    · have hco := ho.out
      have hch : chk tr 3 [d, e] = if bs (cutL d.data.toList) ≠ d then (5, 3) else if wd 3 tr < d.size then (4, 3) else chk tr 4 [e] := rfl
      change chk tr 3 [d, e] = R at hco
      rw [hch, show wd 3 tr = 4 from by rfl] at hco
      have HCL := Lib.hid (HC.out d)
      have xj := X3.out.c 3 _ rfl
      have xi := fun wx => ix5_3 a b c d e wx
      clear hch ho
      by_cases he1 : bs (cutL d.data.toList) = d
      · rw [if_neg (by simpa using he1)] at hco
        rw [show decide (¬ bs (cutL d.data.toList) = d) = false by simpa using he1] at HCL
        by_cases he2 : 4 < d.size
        · rw [if_pos he2] at hco
          have gt : 4 < (d.size : Int) := by omega
          subst hco
          clear he1 he2
          go_wp2_with (go_at_call 45; refine (HCL.out _).mono ?_; rintro e3 w3 ⟨rfl, rfl⟩)
          refine bodyPost_ret (v := .agg #[.int .i64 4, .int .i64 3]) (by simp [results, Try.results24, go_sem, r0, r1]) rfl ⟨rfl, ?_⟩
          exact (B3.out.setCell (p := ⟨w.heap.size + 1, 0, none⟩) (Nat.le_succ _) _).setCell (p := ⟨w.heap.size + 1, 1, none⟩) (Nat.le_succ _) _
        · rw [if_neg he2] at hco
          have gt : ¬ 4 < (d.size : Int) := by omega
          have HO := Lib.hid hco
          clear he1 he2 hco
          go_wp2_with (go_at_call 45; refine (HCL.out _).mono ?_; rintro e3 w3 ⟨rfl, rfl⟩)
          go_roundw
          case rel => exact .inr (.inr (.inr (.inr (.inl ⟨rfl, HO, by first | rfl | trivial⟩))))
          case measure => simp [RowKit.intOf]
      · rw [if_pos he1] at hco
        rw [show decide (¬ bs (cutL d.data.toList) = d) = true by simpa using he1] at HCL
        subst hco
        clear he1
        go_wp2_with (go_at_call 45; refine (HCL.out _).mono ?_; rintro e3 w3 ⟨rfl, rfl⟩)
        refine bodyPost_ret (v := .agg #[.int .i64 5, .int .i64 3]) (by simp [results, Try.results24, go_sem, r0, r1]) rfl ⟨rfl, ?_⟩
        exact (B3.out.setCell (p := ⟨w.heap.size + 1, 0, none⟩) (Nat.le_succ _) _).setCell (p := ⟨w.heap.size + 1, 1, none⟩) (Nat.le_succ _) _
    · have hco := ho.out
      have hch : chk tr 4 [e] = if bs (cutL e.data.toList) ≠ e then (5, 4) else if wd 4 tr < e.size then (4, 4) else chk tr 5 [] := rfl
      change chk tr 4 [e] = R at hco
      rw [hch, show wd 4 tr = D from HD.out.symm] at hco
      have HCL := Lib.hid (HC.out e)
      have xj := X3.out.c 4 _ rfl
      have xi := fun wx => ix5_4 a b c d e wx
      clear hch ho
      by_cases he1 : bs (cutL e.data.toList) = e
      · rw [if_neg (by simpa using he1)] at hco
        rw [show decide (¬ bs (cutL e.data.toList) = e) = false by simpa using he1] at HCL
        by_cases he2 : D < e.size
        · rw [if_pos he2] at hco
          have gt : (D : Int) < (e.size : Int) := by omega
          subst hco
          clear he1 he2
          go_wp2_with (go_at_call 45; refine (HCL.out _).mono ?_; rintro e3 w3 ⟨rfl, rfl⟩)
          refine bodyPost_ret (v := .agg #[.int .i64 4, .int .i64 4]) (by simp [results, Try.results24, go_sem, r0, r1]) rfl ⟨rfl, ?_⟩
          exact (B3.out.setCell (p := ⟨w.heap.size + 1, 0, none⟩) (Nat.le_succ _) _).setCell (p := ⟨w.heap.size + 1, 1, none⟩) (Nat.le_succ _) _
        · rw [if_neg he2] at hco
          have gt : ¬ (D : Int) < (e.size : Int) := by omega
          have HO := Lib.hid hco
          clear he1 he2 hco
          go_wp2_with (go_at_call 45; refine (HCL.out _).mono ?_; rintro e3 w3 ⟨rfl, rfl⟩)
          go_roundw
          case rel => exact .inr (.inr (.inr (.inr (.inr (⟨rfl, HO, by first | rfl | trivial⟩)))))
          case measure => simp [RowKit.intOf]
      · rw [if_pos he1] at hco
        rw [show decide (¬ bs (cutL e.data.toList) = e) = true by simpa using he1] at HCL
        subst hco
        clear he1
        go_wp2_with (go_at_call 45; refine (HCL.out _).mono ?_; rintro e3 w3 ⟨rfl, rfl⟩)
        refine bodyPost_ret (v := .agg #[.int .i64 5, .int .i64 4]) (by simp [results, Try.results24, go_sem, r0, r1]) rfl ⟨rfl, ?_⟩
        exact (B3.out.setCell (p := ⟨w.heap.size + 1, 0, none⟩) (Nat.le_succ _) _).setCell (p := ⟨w.heap.size + 1, 1, none⟩) (Nat.le_succ _) _
    · have hco : ((0, 0) : Nat × Nat) = R := ho.out
      subst hco
      go_wp2_with fail
      refine bodyPost_ret (v := .agg #[.int .i64 0, .int .i64 0]) (by simp [results, Try.results24, go_sem, r0, r1]) rfl ⟨rfl, ?_⟩
      exact (B3.out.setCell (p := ⟨w.heap.size + 1, 0, none⟩) (Nat.le_succ _) _).setCell (p := ⟨w.heap.size + 1, 1, none⟩) (Nat.le_succ _) _
end Go.Proofs.Ytidlkkhmmgkicaa.tl
