/- Layer 12: the document's Parse. -/
import Derived.Test.YtidlkkhmmgkicaaTa2
namespace Go.Proofs.Ytidlkkhmmgkicaa.ta
open Go.RowKit Go.Lib
open Go.Proofs.Ytidlkkhmmgkicaa.un (bs bs_list bs_size bs_app bs_back size_list bt bt_lt bt_get index_bt wrap64 data_app drop_at drop_end u0)
set_option linter.unusedVariables false
/-- A tail's track. -/
def trB (b : ByteArray) : Nat := if bt b 125 = 0 then bt b 126 else 0
theorem trB_lt (b : ByteArray) : trB b < 256 := by unfold trB; have := bt_lt b 126; split <;> omega
/-- A text of a tail: so many bytes from a place on, up to the first byte 0. -/
def fld (b : ByteArray) (i n : Nat) : ByteArray := bs (cutL (b.extract i (i + n)).data.toList)
theorem fld_cut (b : ByteArray) (i n : Nat) (W : World) (h : b.size = 128) : Calls Try.prog 38 #[.string (b.extract i (i + n))] W fun e w' => e = .returned (.string (fld b i n)) ∧ W = w' :=
  Cut_any _ W (by rw [ByteArray.size_extract]; omega)
theorem slice_f (b : ByteArray) (i n : Nat) (h : i + n ≤ b.size) (wx : World) : (Instr.slice 9 (.string b) (some (.int .i64 (i : Int))) (some (.int .i64 ((i : Int) + (n : Int)))) none).run Try.prog wx = .ok (.string (b.extract i (i + n))) wx := by
  rw [run_slice_string _ _ _ _ _ _ _ Try.underlying9 (by omega) (by omega) (by omega)]
  rfl
set_option maxRecDepth 100000 in
set_option maxHeartbeats 8000000 in
theorem Parse_any (b : ByteArray) (w : World) (h : b.size = 128) : Calls Try.prog 20 #[.string b] w fun r w' => r = .returned (.agg #[.string (fld b 3 30), .string (fld b 33 30), .string (fld b 63 30), .string (fld b 93 4), .string (fld b 97 (wd 4 (trB b))), .int .i64 (trB b : Int), .int .i64 (bt b 127 : Int)]) ∧ Below w.heap.size w w' := by
  have x1 : ∀ wx, (Instr.index 9 (.string b) (.int .i64 125)).run Try.prog wx = .ok (.int .u8 ((bt b 125 : Nat) : Int)) wx := fun wx => index_bt b 125 (by omega) wx
  have x2 : ∀ wx, (Instr.index 9 (.string b) (.int .i64 126)).run Try.prog wx = .ok (.int .u8 ((bt b 126 : Nat) : Int)) wx := fun wx => index_bt b 126 (by omega) wx
  have x3 : ∀ wx, (Instr.index 9 (.string b) (.int .i64 127)).run Try.prog wx = .ok (.int .u8 ((bt b 127 : Nat) : Int)) wx := fun wx => index_bt b 127 (by omega) wx
  have hl := bt_lt b 126
  have hl1 := bt_lt b 125
  have hl3 := bt_lt b 127
  have k3 : IntKind.i64.wrap ((bt b 127 : Nat) : Int) = ((bt b 127 : Nat) : Int) := wrap64 (by omega) (by omega)
  have C0 := Lib.hid (fun W => fld_cut b 3 30 W h)
  have C1 := Lib.hid (fun W => fld_cut b 33 30 W h)
  have C2 := Lib.hid (fun W => fld_cut b 63 30 W h)
  have C3 := Lib.hid (fun W => fld_cut b 93 4 W h)
  have s0 : ∀ wx, (Instr.slice 9 (.string b) (some (.int .i64 3)) (some (.int .i64 33)) none).run Try.prog wx = .ok (.string (b.extract 3 (3 + 30))) wx := fun wx => slice_f b 3 30 (by omega) wx
  have s1 : ∀ wx, (Instr.slice 9 (.string b) (some (.int .i64 33)) (some (.int .i64 63)) none).run Try.prog wx = .ok (.string (b.extract 33 (33 + 30))) wx := fun wx => slice_f b 33 30 (by omega) wx
  have s2 : ∀ wx, (Instr.slice 9 (.string b) (some (.int .i64 63)) (some (.int .i64 93)) none).run Try.prog wx = .ok (.string (b.extract 63 (63 + 30))) wx := fun wx => slice_f b 63 30 (by omega) wx
  have s3 : ∀ wx, (Instr.slice 9 (.string b) (some (.int .i64 93)) (some (.int .i64 97)) none).run Try.prog wx = .ok (.string (b.extract 93 (93 + 4))) wx := fun wx => slice_f b 93 4 (by omega) wx
  obtain ⟨B, hB⟩ : ∃ B, B = wd 4 (trB b) := ⟨_, rfl⟩
  have hB30 : B ≤ 30 := by rw [hB]; exact wd_le 4 _
  have C4 := Lib.hid (fun W => fld_cut b 97 B W h)
  have s4 : ∀ wx, (Instr.slice 9 (.string b) (some (.int .i64 97)) (some (.int .i64 (97 + (B : Int)))) none).run Try.prog wx = .ok (.string (b.extract 97 (97 + B))) wx := fun wx => slice_f b 97 B (by omega) wx
  have kB : IntKind.i64.wrap (97 + (B : Int)) = 97 + (B : Int) := wrap64 (by omega) (by omega)
  have HB : Hid (∀ x y, Below w.heap.size w ((w.alloc x).alloc y)) := Lib.hid (fun x y => ((Below.refl _ _).alloc (Nat.le_refl _) _).alloc (by rw [alloc_size]; omega) _)
  rw [← hB]
  generalize b.extract 3 (3 + 30) = X0 at *
  generalize b.extract 33 (33 + 30) = X1 at *
  generalize b.extract 63 (63 + 30) = X2 at *
  generalize b.extract 93 (93 + 4) = X3 at *
  generalize b.extract 97 (97 + B) = X4 at *
  generalize ((bt b 127 : Nat) : Int) = G at *
  by_cases h1 : bt b 125 = 0
  · simp only [h1] at x1
    have ht : trB b = bt b 126 := by unfold trB; rw [if_pos h1]
    rw [ht] at hB
    rw [ht]
    by_cases h2 : bt b 126 = 0
    · simp only [h2] at x2 hB ⊢
      have W0 : Hid (∀ W, Calls Try.prog 37 #[.int .i64 0, .int .i64 0] W fun e w' => e = .returned (.int .i64 30) ∧ W = w') := Lib.hid (fun W => Width_any 0 0 W (by omega) (by omega))
      have W1 : Hid (∀ W, Calls Try.prog 37 #[.int .i64 1, .int .i64 0] W fun e w' => e = .returned (.int .i64 30) ∧ W = w') := Lib.hid (fun W => Width_any 1 0 W (by omega) (by omega))
      have W2 : Hid (∀ W, Calls Try.prog 37 #[.int .i64 2, .int .i64 0] W fun e w' => e = .returned (.int .i64 30) ∧ W = w') := Lib.hid (fun W => Width_any 2 0 W (by omega) (by omega))
      have W3 : Hid (∀ W, Calls Try.prog 37 #[.int .i64 3, .int .i64 0] W fun e w' => e = .returned (.int .i64 4) ∧ W = w') := Lib.hid (fun W => Width_any 3 0 W (by omega) (by omega))
      have W4 : Hid (∀ W, Calls Try.prog 37 #[.int .i64 4, .int .i64 0] W fun e w' => e = .returned (.int .i64 (B : Int)) ∧ W = w') := Lib.hid (fun W => by rw [hB]; exact Width_any 4 0 W (by omega) (by omega))
      clear hl hl1 hl3 h1 h2 ht hB hB30 h
      go_enter Try.func20, Try.ntmps20
      go_wp2_with fail
      go_loopw [4, 5] (fun a i wr => (i = .int .i64 0 ∧ a = .int .i64 3 ∧ wr = (w.alloc (.cells #[.string ⟨#[]⟩, .string ⟨#[]⟩, .string ⟨#[]⟩, .string ⟨#[]⟩, .string ⟨#[]⟩, .int .i64 0, .int .i64 0] 36)).alloc (.cells #[.string ⟨#[]⟩, .string ⟨#[]⟩, .string ⟨#[]⟩, .string ⟨#[]⟩, .string ⟨#[]⟩, .int .i64 0, .int .i64 G] 36)) ∨ (i = .int .i64 1 ∧ a = .int .i64 33 ∧ wr = (w.alloc (.cells #[.string ⟨#[]⟩, .string ⟨#[]⟩, .string ⟨#[]⟩, .string ⟨#[]⟩, .string ⟨#[]⟩, .int .i64 0, .int .i64 0] 36)).alloc (.cells #[.string (fld b 3 30), .string ⟨#[]⟩, .string ⟨#[]⟩, .string ⟨#[]⟩, .string ⟨#[]⟩, .int .i64 0, .int .i64 G] 36)) ∨ (i = .int .i64 2 ∧ a = .int .i64 63 ∧ wr = (w.alloc (.cells #[.string ⟨#[]⟩, .string ⟨#[]⟩, .string ⟨#[]⟩, .string ⟨#[]⟩, .string ⟨#[]⟩, .int .i64 0, .int .i64 0] 36)).alloc (.cells #[.string (fld b 3 30), .string (fld b 33 30), .string ⟨#[]⟩, .string ⟨#[]⟩, .string ⟨#[]⟩, .int .i64 0, .int .i64 G] 36)) ∨ (i = .int .i64 3 ∧ a = .int .i64 93 ∧ wr = (w.alloc (.cells #[.string ⟨#[]⟩, .string ⟨#[]⟩, .string ⟨#[]⟩, .string ⟨#[]⟩, .string ⟨#[]⟩, .int .i64 0, .int .i64 0] 36)).alloc (.cells #[.string (fld b 3 30), .string (fld b 33 30), .string (fld b 63 30), .string ⟨#[]⟩, .string ⟨#[]⟩, .int .i64 0, .int .i64 G] 36)) ∨ (i = .int .i64 4 ∧ a = .int .i64 97 ∧ wr = (w.alloc (.cells #[.string ⟨#[]⟩, .string ⟨#[]⟩, .string ⟨#[]⟩, .string ⟨#[]⟩, .string ⟨#[]⟩, .int .i64 0, .int .i64 0] 36)).alloc (.cells #[.string (fld b 3 30), .string (fld b 33 30), .string (fld b 63 30), .string (fld b 93 4), .string ⟨#[]⟩, .int .i64 0, .int .i64 G] 36)) ∨ (i = .int .i64 5 ∧ a = .int .i64 (97 + (B : Int)) ∧ wr = (w.alloc (.cells #[.string ⟨#[]⟩, .string ⟨#[]⟩, .string ⟨#[]⟩, .string ⟨#[]⟩, .string ⟨#[]⟩, .int .i64 0, .int .i64 0] 36)).alloc (.cells #[.string (fld b 3 30), .string (fld b 33 30), .string (fld b 63 30), .string (fld b 93 4), .string (fld b 97 B), .int .i64 0, .int .i64 G] 36))) (fun _ i _ => 5 - (RowKit.intOf i).toNat)
      case atStart => exact .inl ⟨rfl, rfl, rfl⟩
      case round =>
        rcases hrel with ⟨rfl, rfl, rfl⟩ | ⟨rfl, rfl, rfl⟩ | ⟨rfl, rfl, rfl⟩ | ⟨rfl, rfl, rfl⟩ | ⟨rfl, rfl, rfl⟩ | ⟨rfl, rfl, rfl⟩
        · go_wp2_with (first
            | (go_at_call 37; refine (W0.out _).mono ?_; rintro e1 w1 ⟨rfl, rfl⟩)
            | (go_at_call 38; refine (C0.out _).mono ?_; rintro e2 w2 ⟨rfl, rfl⟩))
          go_roundw
          case rel => exact .inr (.inl ⟨rfl, rfl, trivial⟩)
          case measure => simp [RowKit.intOf]
        · go_wp2_with (first
            | (go_at_call 37; refine (W1.out _).mono ?_; rintro e1 w1 ⟨rfl, rfl⟩)
            | (go_at_call 38; refine (C1.out _).mono ?_; rintro e2 w2 ⟨rfl, rfl⟩))
          go_roundw
          case rel => exact .inr (.inr (.inl ⟨rfl, rfl, trivial⟩))
          case measure => simp [RowKit.intOf]
        · go_wp2_with (first
            | (go_at_call 37; refine (W2.out _).mono ?_; rintro e1 w1 ⟨rfl, rfl⟩)
            | (go_at_call 38; refine (C2.out _).mono ?_; rintro e2 w2 ⟨rfl, rfl⟩))
          go_roundw
          case rel => exact .inr (.inr (.inr (.inl ⟨rfl, rfl, trivial⟩)))
          case measure => simp [RowKit.intOf]
        · go_wp2_with (first
            | (go_at_call 37; refine (W3.out _).mono ?_; rintro e1 w1 ⟨rfl, rfl⟩)
            | (go_at_call 38; refine (C3.out _).mono ?_; rintro e2 w2 ⟨rfl, rfl⟩))
          go_roundw
          case rel => exact .inr (.inr (.inr (.inr (.inl ⟨rfl, rfl, trivial⟩))))
          case measure => simp [RowKit.intOf]
        · go_wp2_with (first
            | (go_at_call 37; refine (W4.out _).mono ?_; rintro e1 w1 ⟨rfl, rfl⟩)
            | (go_at_call 38; refine (C4.out _).mono ?_; rintro e2 w2 ⟨rfl, rfl⟩))
          go_roundw
          case rel => exact .inr (.inr (.inr (.inr (.inr (⟨rfl, rfl, trivial⟩)))))
          case measure => simp [RowKit.intOf]
        · go_wp2_with fail
          (try simp only [Exit.inBlock, Exit.then])
          refine bodyPost_ret (v := .agg #[.string (fld b 3 30), .string (fld b 33 30), .string (fld b 63 30), .string (fld b 93 4), .string (fld b 97 B), .int .i64 0, .int .i64 G]) (by simp [results, Try.results20, go_sem]) rfl ⟨rfl, ?_⟩
          exact HB.out _ _
    · have n2 : (((bt b 126 : Nat) : Int) == 0) = false := by simp; omega
      have n3 : (((bt b 126 : Nat) : Int) != 0) = true := by simp; omega
      have k1 : IntKind.i64.wrap ((bt b 126 : Nat) : Int) = ((bt b 126 : Nat) : Int) := wrap64 (by omega) (by omega)
      have W0 : Hid (∀ W, Calls Try.prog 37 #[.int .i64 0, .int .i64 ((bt b 126 : Nat) : Int)] W fun e w' => e = .returned (.int .i64 30) ∧ W = w') := Lib.hid (fun W => Width_any 0 (bt b 126) W (by omega) (by omega))
      have W1 : Hid (∀ W, Calls Try.prog 37 #[.int .i64 1, .int .i64 ((bt b 126 : Nat) : Int)] W fun e w' => e = .returned (.int .i64 30) ∧ W = w') := Lib.hid (fun W => Width_any 1 (bt b 126) W (by omega) (by omega))
      have W2 : Hid (∀ W, Calls Try.prog 37 #[.int .i64 2, .int .i64 ((bt b 126 : Nat) : Int)] W fun e w' => e = .returned (.int .i64 30) ∧ W = w') := Lib.hid (fun W => Width_any 2 (bt b 126) W (by omega) (by omega))
      have W3 : Hid (∀ W, Calls Try.prog 37 #[.int .i64 3, .int .i64 ((bt b 126 : Nat) : Int)] W fun e w' => e = .returned (.int .i64 4) ∧ W = w') := Lib.hid (fun W => Width_any 3 (bt b 126) W (by omega) (by omega))
      have W4 : Hid (∀ W, Calls Try.prog 37 #[.int .i64 4, .int .i64 ((bt b 126 : Nat) : Int)] W fun e w' => e = .returned (.int .i64 (B : Int)) ∧ W = w') := Lib.hid (fun W => by rw [hB]; exact Width_any 4 (bt b 126) W (by omega) (by omega))
      generalize ((bt b 126 : Nat) : Int) = T at *
      clear hl hl1 hl3 h1 h2 ht hB hB30 h
      go_enter Try.func20, Try.ntmps20
      go_wp2_with fail
      try simp only [n2, n3]
      go_loopw [4, 5] (fun a i wr => (i = .int .i64 0 ∧ a = .int .i64 3 ∧ wr = (w.alloc (.cells #[.string ⟨#[]⟩, .string ⟨#[]⟩, .string ⟨#[]⟩, .string ⟨#[]⟩, .string ⟨#[]⟩, .int .i64 0, .int .i64 0] 36)).alloc (.cells #[.string ⟨#[]⟩, .string ⟨#[]⟩, .string ⟨#[]⟩, .string ⟨#[]⟩, .string ⟨#[]⟩, .int .i64 T, .int .i64 G] 36)) ∨ (i = .int .i64 1 ∧ a = .int .i64 33 ∧ wr = (w.alloc (.cells #[.string ⟨#[]⟩, .string ⟨#[]⟩, .string ⟨#[]⟩, .string ⟨#[]⟩, .string ⟨#[]⟩, .int .i64 0, .int .i64 0] 36)).alloc (.cells #[.string (fld b 3 30), .string ⟨#[]⟩, .string ⟨#[]⟩, .string ⟨#[]⟩, .string ⟨#[]⟩, .int .i64 T, .int .i64 G] 36)) ∨ (i = .int .i64 2 ∧ a = .int .i64 63 ∧ wr = (w.alloc (.cells #[.string ⟨#[]⟩, .string ⟨#[]⟩, .string ⟨#[]⟩, .string ⟨#[]⟩, .string ⟨#[]⟩, .int .i64 0, .int .i64 0] 36)).alloc (.cells #[.string (fld b 3 30), .string (fld b 33 30), .string ⟨#[]⟩, .string ⟨#[]⟩, .string ⟨#[]⟩, .int .i64 T, .int .i64 G] 36)) ∨ (i = .int .i64 3 ∧ a = .int .i64 93 ∧ wr = (w.alloc (.cells #[.string ⟨#[]⟩, .string ⟨#[]⟩, .string ⟨#[]⟩, .string ⟨#[]⟩, .string ⟨#[]⟩, .int .i64 0, .int .i64 0] 36)).alloc (.cells #[.string (fld b 3 30), .string (fld b 33 30), .string (fld b 63 30), .string ⟨#[]⟩, .string ⟨#[]⟩, .int .i64 T, .int .i64 G] 36)) ∨ (i = .int .i64 4 ∧ a = .int .i64 97 ∧ wr = (w.alloc (.cells #[.string ⟨#[]⟩, .string ⟨#[]⟩, .string ⟨#[]⟩, .string ⟨#[]⟩, .string ⟨#[]⟩, .int .i64 0, .int .i64 0] 36)).alloc (.cells #[.string (fld b 3 30), .string (fld b 33 30), .string (fld b 63 30), .string (fld b 93 4), .string ⟨#[]⟩, .int .i64 T, .int .i64 G] 36)) ∨ (i = .int .i64 5 ∧ a = .int .i64 (97 + (B : Int)) ∧ wr = (w.alloc (.cells #[.string ⟨#[]⟩, .string ⟨#[]⟩, .string ⟨#[]⟩, .string ⟨#[]⟩, .string ⟨#[]⟩, .int .i64 0, .int .i64 0] 36)).alloc (.cells #[.string (fld b 3 30), .string (fld b 33 30), .string (fld b 63 30), .string (fld b 93 4), .string (fld b 97 B), .int .i64 T, .int .i64 G] 36))) (fun _ i _ => 5 - (RowKit.intOf i).toNat)
      case atStart => exact .inl ⟨rfl, rfl, rfl⟩
      case round =>
        rcases hrel with ⟨rfl, rfl, rfl⟩ | ⟨rfl, rfl, rfl⟩ | ⟨rfl, rfl, rfl⟩ | ⟨rfl, rfl, rfl⟩ | ⟨rfl, rfl, rfl⟩ | ⟨rfl, rfl, rfl⟩
        · go_wp2_with (first
            | (go_at_call 37; refine (W0.out _).mono ?_; rintro e1 w1 ⟨rfl, rfl⟩)
            | (go_at_call 38; refine (C0.out _).mono ?_; rintro e2 w2 ⟨rfl, rfl⟩))
          go_roundw
          case rel => exact .inr (.inl ⟨rfl, rfl, trivial⟩)
          case measure => simp [RowKit.intOf]
        · go_wp2_with (first
            | (go_at_call 37; refine (W1.out _).mono ?_; rintro e1 w1 ⟨rfl, rfl⟩)
            | (go_at_call 38; refine (C1.out _).mono ?_; rintro e2 w2 ⟨rfl, rfl⟩))
          go_roundw
          case rel => exact .inr (.inr (.inl ⟨rfl, rfl, trivial⟩))
          case measure => simp [RowKit.intOf]
        · go_wp2_with (first
            | (go_at_call 37; refine (W2.out _).mono ?_; rintro e1 w1 ⟨rfl, rfl⟩)
            | (go_at_call 38; refine (C2.out _).mono ?_; rintro e2 w2 ⟨rfl, rfl⟩))
          go_roundw
          case rel => exact .inr (.inr (.inr (.inl ⟨rfl, rfl, trivial⟩)))
          case measure => simp [RowKit.intOf]
        · go_wp2_with (first
            | (go_at_call 37; refine (W3.out _).mono ?_; rintro e1 w1 ⟨rfl, rfl⟩)
            | (go_at_call 38; refine (C3.out _).mono ?_; rintro e2 w2 ⟨rfl, rfl⟩))
          go_roundw
          case rel => exact .inr (.inr (.inr (.inr (.inl ⟨rfl, rfl, trivial⟩))))
          case measure => simp [RowKit.intOf]
        · go_wp2_with (first
            | (go_at_call 37; refine (W4.out _).mono ?_; rintro e1 w1 ⟨rfl, rfl⟩)
            | (go_at_call 38; refine (C4.out _).mono ?_; rintro e2 w2 ⟨rfl, rfl⟩))
          go_roundw
          case rel => exact .inr (.inr (.inr (.inr (.inr (⟨rfl, rfl, trivial⟩)))))
          case measure => simp [RowKit.intOf]
        · go_wp2_with fail
          (try simp only [Exit.inBlock, Exit.then])
          refine bodyPost_ret (v := .agg #[.string (fld b 3 30), .string (fld b 33 30), .string (fld b 63 30), .string (fld b 93 4), .string (fld b 97 B), .int .i64 T, .int .i64 G]) (by simp [results, Try.results20, go_sem]) rfl ⟨rfl, ?_⟩
          exact HB.out _ _
  · have n1 : (((bt b 125 : Nat) : Int) == 0) = false := by simp; omega
    have ht : trB b = 0 := by unfold trB; rw [if_neg h1]
    rw [ht] at hB
    rw [ht]
    have W0 : Hid (∀ W, Calls Try.prog 37 #[.int .i64 0, .int .i64 0] W fun e w' => e = .returned (.int .i64 30) ∧ W = w') := Lib.hid (fun W => Width_any 0 0 W (by omega) (by omega))
    have W1 : Hid (∀ W, Calls Try.prog 37 #[.int .i64 1, .int .i64 0] W fun e w' => e = .returned (.int .i64 30) ∧ W = w') := Lib.hid (fun W => Width_any 1 0 W (by omega) (by omega))
    have W2 : Hid (∀ W, Calls Try.prog 37 #[.int .i64 2, .int .i64 0] W fun e w' => e = .returned (.int .i64 30) ∧ W = w') := Lib.hid (fun W => Width_any 2 0 W (by omega) (by omega))
    have W3 : Hid (∀ W, Calls Try.prog 37 #[.int .i64 3, .int .i64 0] W fun e w' => e = .returned (.int .i64 4) ∧ W = w') := Lib.hid (fun W => Width_any 3 0 W (by omega) (by omega))
    have W4 : Hid (∀ W, Calls Try.prog 37 #[.int .i64 4, .int .i64 0] W fun e w' => e = .returned (.int .i64 (B : Int)) ∧ W = w') := Lib.hid (fun W => by rw [hB]; exact Width_any 4 0 W (by omega) (by omega))
    generalize ((bt b 125 : Nat) : Int) = U at *
    generalize ((bt b 126 : Nat) : Int) = V at *
    clear hl hl1 hl3 h1 ht hB hB30 h
    go_enter Try.func20, Try.ntmps20
    go_wp2_with fail
    go_loopw [4, 5] (fun a i wr => (i = .int .i64 0 ∧ a = .int .i64 3 ∧ wr = (w.alloc (.cells #[.string ⟨#[]⟩, .string ⟨#[]⟩, .string ⟨#[]⟩, .string ⟨#[]⟩, .string ⟨#[]⟩, .int .i64 0, .int .i64 0] 36)).alloc (.cells #[.string ⟨#[]⟩, .string ⟨#[]⟩, .string ⟨#[]⟩, .string ⟨#[]⟩, .string ⟨#[]⟩, .int .i64 0, .int .i64 G] 36)) ∨ (i = .int .i64 1 ∧ a = .int .i64 33 ∧ wr = (w.alloc (.cells #[.string ⟨#[]⟩, .string ⟨#[]⟩, .string ⟨#[]⟩, .string ⟨#[]⟩, .string ⟨#[]⟩, .int .i64 0, .int .i64 0] 36)).alloc (.cells #[.string (fld b 3 30), .string ⟨#[]⟩, .string ⟨#[]⟩, .string ⟨#[]⟩, .string ⟨#[]⟩, .int .i64 0, .int .i64 G] 36)) ∨ (i = .int .i64 2 ∧ a = .int .i64 63 ∧ wr = (w.alloc (.cells #[.string ⟨#[]⟩, .string ⟨#[]⟩, .string ⟨#[]⟩, .string ⟨#[]⟩, .string ⟨#[]⟩, .int .i64 0, .int .i64 0] 36)).alloc (.cells #[.string (fld b 3 30), .string (fld b 33 30), .string ⟨#[]⟩, .string ⟨#[]⟩, .string ⟨#[]⟩, .int .i64 0, .int .i64 G] 36)) ∨ (i = .int .i64 3 ∧ a = .int .i64 93 ∧ wr = (w.alloc (.cells #[.string ⟨#[]⟩, .string ⟨#[]⟩, .string ⟨#[]⟩, .string ⟨#[]⟩, .string ⟨#[]⟩, .int .i64 0, .int .i64 0] 36)).alloc (.cells #[.string (fld b 3 30), .string (fld b 33 30), .string (fld b 63 30), .string ⟨#[]⟩, .string ⟨#[]⟩, .int .i64 0, .int .i64 G] 36)) ∨ (i = .int .i64 4 ∧ a = .int .i64 97 ∧ wr = (w.alloc (.cells #[.string ⟨#[]⟩, .string ⟨#[]⟩, .string ⟨#[]⟩, .string ⟨#[]⟩, .string ⟨#[]⟩, .int .i64 0, .int .i64 0] 36)).alloc (.cells #[.string (fld b 3 30), .string (fld b 33 30), .string (fld b 63 30), .string (fld b 93 4), .string ⟨#[]⟩, .int .i64 0, .int .i64 G] 36)) ∨ (i = .int .i64 5 ∧ a = .int .i64 (97 + (B : Int)) ∧ wr = (w.alloc (.cells #[.string ⟨#[]⟩, .string ⟨#[]⟩, .string ⟨#[]⟩, .string ⟨#[]⟩, .string ⟨#[]⟩, .int .i64 0, .int .i64 0] 36)).alloc (.cells #[.string (fld b 3 30), .string (fld b 33 30), .string (fld b 63 30), .string (fld b 93 4), .string (fld b 97 B), .int .i64 0, .int .i64 G] 36))) (fun _ i _ => 5 - (RowKit.intOf i).toNat)
    case atStart => exact .inl ⟨rfl, rfl, rfl⟩
    case round =>
      rcases hrel with ⟨rfl, rfl, rfl⟩ | ⟨rfl, rfl, rfl⟩ | ⟨rfl, rfl, rfl⟩ | ⟨rfl, rfl, rfl⟩ | ⟨rfl, rfl, rfl⟩ | ⟨rfl, rfl, rfl⟩
      · go_wp2_with (first
          | (go_at_call 37; refine (W0.out _).mono ?_; rintro e1 w1 ⟨rfl, rfl⟩)
          | (go_at_call 38; refine (C0.out _).mono ?_; rintro e2 w2 ⟨rfl, rfl⟩))
        go_roundw
        case rel => exact .inr (.inl ⟨rfl, rfl, trivial⟩)
        case measure => simp [RowKit.intOf]
      · go_wp2_with (first
          | (go_at_call 37; refine (W1.out _).mono ?_; rintro e1 w1 ⟨rfl, rfl⟩)
          | (go_at_call 38; refine (C1.out _).mono ?_; rintro e2 w2 ⟨rfl, rfl⟩))
        go_roundw
        case rel => exact .inr (.inr (.inl ⟨rfl, rfl, trivial⟩))
        case measure => simp [RowKit.intOf]
      · go_wp2_with (first
          | (go_at_call 37; refine (W2.out _).mono ?_; rintro e1 w1 ⟨rfl, rfl⟩)
          | (go_at_call 38; refine (C2.out _).mono ?_; rintro e2 w2 ⟨rfl, rfl⟩))
        go_roundw
        case rel => exact .inr (.inr (.inr (.inl ⟨rfl, rfl, trivial⟩)))
        case measure => simp [RowKit.intOf]
      · go_wp2_with (first
          | (go_at_call 37; refine (W3.out _).mono ?_; rintro e1 w1 ⟨rfl, rfl⟩)
          | (go_at_call 38; refine (C3.out _).mono ?_; rintro e2 w2 ⟨rfl, rfl⟩))
        go_roundw
        case rel => exact .inr (.inr (.inr (.inr (.inl ⟨rfl, rfl, trivial⟩))))
        case measure => simp [RowKit.intOf]
      · go_wp2_with (first
          | (go_at_call 37; refine (W4.out _).mono ?_; rintro e1 w1 ⟨rfl, rfl⟩)
          | (go_at_call 38; refine (C4.out _).mono ?_; rintro e2 w2 ⟨rfl, rfl⟩))
        go_roundw
        case rel => exact .inr (.inr (.inr (.inr (.inr (⟨rfl, rfl, trivial⟩)))))
        case measure => simp [RowKit.intOf]
      · go_wp2_with fail
        (try simp only [Exit.inBlock, Exit.then])
        refine bodyPost_ret (v := .agg #[.string (fld b 3 30), .string (fld b 33 30), .string (fld b 63 30), .string (fld b 93 4), .string (fld b 97 B), .int .i64 0, .int .i64 G]) (by simp [results, Try.results20, go_sem]) rfl ⟨rfl, ?_⟩
        exact HB.out _ _
end Go.Proofs.Ytidlkkhmmgkicaa.ta
