/- The landed tail: track, room: contracts. -/
import Derived.Test.YtidlkkhmmgkicaaTl0
import Derived.Test.YtidlkkhmmgkicaaOb
import Derived.Test.YtidlkkhmmgkicaaBk
namespace Go.Proofs.Ytidlkkhmmgkicaa.tl
open Go.RowKit Go.Lib
open Go.Proofs.Ytidlkkhmmgkicaa.un (bs bs_list bs_size bs_app bs_back size_list bt bt_lt bt_get index_bt wrap64 data_app drop_at drop_end u0)
open Go.Proofs.Ytidlkkhmmgkicaa.ta Go.Proofs.Ytidlkkhmmgkicaa.ob Go.Proofs.Ytidlkkhmmgkicaa.bk
set_option linter.unusedVariables false
/-- The bytes that tell a track. -/
def trk (tr : Nat) : List UInt8 := if tr = 0 then [] else [0, UInt8.ofNat tr]
theorem trk_len (tr : Nat) : (trk tr).length = 30 - wd 4 tr := by
  unfold trk wd
  by_cases h : tr = 0
  · rw [if_pos h, if_neg (by omega), if_neg (by omega)]; rfl
  · rw [if_neg h, if_neg (by omega), if_pos ⟨rfl, h⟩]; rfl
set_option maxRecDepth 100000 in
theorem track_any (a b c d e : ByteArray) (tr g : Nat) (w : World) (ht : tr < 256) : Calls Try.prog 43 #[tlV a b c d e tr g] w fun r w' => r = .returned (.string (bs (trk tr))) ∧ Below w.heap.size w w' := by
  unfold tlV trk
  by_cases h0 : tr = 0
  · subst h0
    go_enter Try.func43, Try.ntmps43
    go_wp2
    go_ret
    exact ⟨rfl, (Below.refl _ _).alloc (Nat.le_refl _) _⟩
  · rw [if_neg h0]
    have HB := Lib.hid (fun W => oct.big_any tr 2 2 W (by omega) (by omega) rfl (by omega))
    have e9 : (⟨(oct.bigL 256 2 tr).toArray⟩ : ByteArray) = bs [0, UInt8.ofNat tr] := by
      show bs (oct.bigL 256 2 tr) = _
      rw [show oct.bigL 256 2 tr = [UInt8.ofNat (tr / 256 % 256), UInt8.ofNat (tr % 256)] by simp [oct.bigL], show tr / 256 % 256 = 0 by omega, show tr % 256 = tr by omega]
      rfl
    rw [e9] at HB
    have n1 : (((tr : Nat) : Int) == 0) = false := by simp; omega
    have e1 : IntKind.u64.wrap (tr : Int) = (tr : Int) := by simp [IntKind.wrap, IntKind.bits, IntKind.signed]; omega
    generalize bs [0, UInt8.ofNat tr] = T at *
    generalize (tr : Int) = t at *
    clear e9 h0 ht
    go_enter Try.func43, Try.ntmps43
    go_wp2_with (go_at_call 44; refine (HB.out _).mono ?_; rintro e1 w1 ⟨rfl, hb1⟩)
    go_ret
    exact ⟨rfl, ((Below.refl _ _).alloc (Nat.le_refl _) _).trans (hb1.mono (by rw [World.size_alloc]; omega))⟩
set_option maxRecDepth 100000 in
theorem room_any (a b c d e : ByteArray) (tr g : Nat) (w : World) (ht : tr < 256) : Calls Try.prog 39 #[tlV a b c d e tr g] w fun r w' => r = .returned (.agg #[.int .i64 30, .int .i64 30, .int .i64 30, .int .i64 4, .int .i64 (wd 4 tr : Nat)]) ∧ Below w.heap.size w w' := by
  have HT := Lib.hid (fun W => track_any a b c d e tr g W ht)
  have HS := Lib.hid (fun W => sizes_any W)
  have hl := trk_len tr
  have hw := wd_le 4 tr
  unfold tlV at *
  obtain ⟨U, hU⟩ : ∃ U, U = bs (trk tr) := ⟨_, rfl⟩
  have hUs : U.size = 30 - wd 4 tr := by rw [hU, bs_size]; exact hl
  rw [← hU] at HT
  obtain ⟨D, hD⟩ : ∃ D, D = wd 4 tr := ⟨_, rfl⟩
  rw [← hD] at hUs hw ⊢
  have e5 : IntKind.i64.wrap (30 - (U.size : Int)) = (D : Int) := by rw [wrap64 (by omega) (by omega)]; omega
  clear hl hU hUs hD
  go_enter Try.func39, Try.ntmps39
  go_wp2_with (go_at_call 32; refine (HS.out _).mono ?_; rintro e1 w1 ⟨rfl, hb1⟩; have S1 := Lib.hid (((Bk.new w 31 [.string a, .string b, .string c, .string d, .string e, .int .u8 (tr : Int), .int .u8 (g : Int)]).alloc (.cells #[.int .i64 0, .int .i64 0, .int .i64 0, .int .i64 0, .int .i64 0] 55)).below hb1); have R1 : Hid (Bk w1 (w.heap.size + 1) [.int .i64 0, .int .i64 0, .int .i64 0, .int .i64 0, .int .i64 0]) := Lib.hid (by have X := Bk.new (w.alloc (.cells #[.string a, .string b, .string c, .string d, .string e, .int .u8 (tr : Int), .int .u8 (g : Int)] 31)) 55 [.int .i64 0, .int .i64 0, .int .i64 0, .int .i64 0, .int .i64 0]; rw [World.size_alloc] at X; exact X.below hb1); have B1 : Hid (Below w.heap.size w w1) := Lib.hid ((((Below.refl _ _).alloc (Nat.le_refl _) _).alloc (by rw [World.size_alloc]; omega) _).trans (hb1.mono (by rw [World.size_alloc, World.size_alloc]; omega))); clear hb1)
  have S2 := Lib.hid ((S1.out.alloc (.cells #[.int .i64 30, .int .i64 30, .int .i64 30, .int .i64 4, .int .i64 30] 55)).drew)
  have R2 := Lib.hid ((R1.out.alloc (.cells #[.int .i64 30, .int .i64 30, .int .i64 30, .int .i64 4, .int .i64 30] 55)).drew)
  have X2 := Lib.hid ((Bk.new w1 55 [.int .i64 30, .int .i64 30, .int .i64 30, .int .i64 4, .int .i64 30]).drew)
  have B2 := Lib.hid ((B1.out.alloc B1.out.size (.cells #[.int .i64 30, .int .i64 30, .int .i64 30, .int .i64 4, .int .i64 30] 55)).drew)
  have hlt := R1.out.lt
  refine OnBut.start (by kernel_rfl) (fun w' => w'.cell? ⟨w.heap.size, 0, none⟩ = some (.string a) ∧ w'.cell? ⟨w.heap.size, 1, none⟩ = some (.string b) ∧ w'.cell? ⟨w.heap.size, 2, none⟩ = some (.string c) ∧ w'.cell? ⟨w.heap.size, 3, none⟩ = some (.string d) ∧ w'.cell? ⟨w.heap.size, 4, none⟩ = some (.string e) ∧ w'.cell? ⟨w.heap.size, 5, none⟩ = some (.int .u8 (tr : Int)) ∧ w'.cell? ⟨w.heap.size, 6, none⟩ = some (.int .u8 (g : Int)) ∧ w'.cell? ⟨w1.heap.size, 4, none⟩ = some (.int .i64 30)) 7 ?_
  have hHeld : (fun w' => w'.cell? ⟨w.heap.size, 0, none⟩ = some (.string a) ∧ w'.cell? ⟨w.heap.size, 1, none⟩ = some (.string b) ∧ w'.cell? ⟨w.heap.size, 2, none⟩ = some (.string c) ∧ w'.cell? ⟨w.heap.size, 3, none⟩ = some (.string d) ∧ w'.cell? ⟨w.heap.size, 4, none⟩ = some (.string e) ∧ w'.cell? ⟨w.heap.size, 5, none⟩ = some (.int .u8 (tr : Int)) ∧ w'.cell? ⟨w.heap.size, 6, none⟩ = some (.int .u8 (g : Int)) ∧ w'.cell? ⟨w1.heap.size, 4, none⟩ = some (.int .i64 30)) (w1.alloc (.cells #[.int .i64 30, .int .i64 30, .int .i64 30, .int .i64 4, .int .i64 30] 55)).drew := ⟨S2.out.c 0 _ rfl, S2.out.c 1 _ rfl, S2.out.c 2 _ rfl, S2.out.c 3 _ rfl, S2.out.c 4 _ rfl, S2.out.c 5 _ rfl, S2.out.c 6 _ rfl, X2.out.c 4 _ rfl⟩
  (refine OnBut.take (i := 0) (oi := ⟨_, _, _, _, _, _⟩) (v := ?_) rfl (by kernel_rfl) (by kernel_rfl) (by kernel_rfl) (by kernel_rfl) (fun _ _ _ h => h) (Or.inl ⟨by rfl, ?_⟩) (by assumption) ?_); rotate_left; (focus (intro w hSw; (try dsimp only at hSw); go_simp; (try with_reducible rfl); done)); (try simp only [Act.put, List.setIfInBounds_toArray, List.set_cons_zero, List.set_cons_succ])
  (refine OnBut.take (i := 1) (oi := ⟨_, _, _, _, _, _⟩) (v := ?_) rfl (by kernel_rfl) (by kernel_rfl) (by kernel_rfl) (by kernel_rfl) (fun _ _ _ h => h) (Or.inl ⟨by rfl, ?_⟩) (by assumption) ?_); rotate_left; (focus (intro w hSw; (try dsimp only at hSw); go_simp; (try with_reducible rfl); done)); (try simp only [Act.put, List.setIfInBounds_toArray, List.set_cons_zero, List.set_cons_succ])
  (refine OnBut.take (i := 2) (oi := ⟨_, _, _, _, _, _⟩) (v := ?_) rfl (by kernel_rfl) (by kernel_rfl) (by kernel_rfl) (by kernel_rfl) (fun _ _ _ h => h) (Or.inl ⟨by rfl, ?_⟩) (by assumption) ?_); rotate_left; (focus (intro w hSw; (try dsimp only at hSw); go_simp; (try with_reducible rfl); done)); (try simp only [Act.put, List.setIfInBounds_toArray, List.set_cons_zero, List.set_cons_succ])
  refine OnBut.one (i := 3) (o := ⟨_, _, _, _, _, _⟩) (by kernel_rfl) rfl (fun K hK => ?_); go_simp
  (go_at_call 43; refine (HT.out _).mono ?_; rintro e2 w2 ⟨rfl, hb2⟩; have S3 := Lib.hid (S2.out.below hb2); have R3 := Lib.hid (R2.out.below hb2); have X3 := Lib.hid (X2.out.below hb2); have B3 := Lib.hid (B2.out.trans (hb2.mono B2.out.size)); have y0 := S3.out.c 0 _ rfl; have y1 := S3.out.c 1 _ rfl; have y2 := S3.out.c 2 _ rfl; have y3 := S3.out.c 3 _ rfl; have y4 := S3.out.c 4 _ rfl; have y5 := S3.out.c 5 _ rfl; have y6 := S3.out.c 6 _ rfl; have x4 := X3.out.c 4 _ rfl; clear hb2)
  (try go_wp2_with fail); refine hK.out _ _ (fun _ => ?_) ?_; (focus ((try dsimp only); (try go_keep); done)); clear hHeld hK K; intro hh; have hHeld := hh (by decide); clear hh; (try simp only [Act.put, List.setIfInBounds_toArray, List.set_cons_zero, List.set_cons_succ])
  (refine OnBut.take (i := 4) (oi := ⟨_, _, _, _, _, _⟩) (v := ?_) rfl (by kernel_rfl) (by kernel_rfl) (by kernel_rfl) (by kernel_rfl) (fun _ _ _ h => h) (Or.inl ⟨by rfl, ?_⟩) (by assumption) ?_); rotate_left; (focus (intro w hSw; (try dsimp only at hSw); go_simp; (try with_reducible rfl); done)); (try simp only [Act.put, List.setIfInBounds_toArray, List.set_cons_zero, List.set_cons_succ])
  (refine OnBut.take (i := 5) (oi := ⟨_, _, _, _, _, _⟩) (v := ?_) rfl (by kernel_rfl) (by kernel_rfl) (by kernel_rfl) (by kernel_rfl) (fun _ _ _ h => h) (Or.inl ⟨by rfl, ?_⟩) (by assumption) ?_); rotate_left; (focus (intro w hSw; (try dsimp only at hSw); go_simp; (try with_reducible rfl); done)); (try simp only [Act.put, List.setIfInBounds_toArray, List.set_cons_zero, List.set_cons_succ])
  (refine OnBut.take (i := 6) (oi := ⟨_, _, _, _, _, _⟩) (v := ?_) rfl (by kernel_rfl) (by kernel_rfl) (by kernel_rfl) (by kernel_rfl) (fun _ _ _ h => h) (Or.inl ⟨by rfl, ?_⟩) (by assumption) ?_); rotate_left; (focus (intro w hSw; (try dsimp only at hSw); go_simp; (try with_reducible rfl); done)); (try simp only [Act.put, List.setIfInBounds_toArray, List.set_cons_zero, List.set_cons_succ])
  have xf := X3.out.f 4
  refine OnBut.one (i := 7) (o := ⟨_, _, _, _, _, _⟩) (by kernel_rfl) rfl (fun K hK => ?_); go_simp
  (try go_wp2_with fail); refine hK.out _ _ (fun h => absurd rfl h) ?_; clear hHeld hK K; intro _; refine OnBut.done (by kernel_rfl) ?_; (try simp only [Act.put, List.setIfInBounds_toArray, List.set_cons_zero, List.set_cons_succ])
  have X4 := Lib.hid (X3.out.set 4 (.int .i64 (D : Int)) (by decide))
  have R4 := Lib.hid (R3.out.other ⟨w1.heap.size, 4, none⟩ (.int .i64 (D : Int)) (by show w1.heap.size ≠ _; omega))
  have B4 := Lib.hid (B3.out.setCell (p := ⟨w1.heap.size, 4, none⟩) (by show w.heap.size ≤ w1.heap.size; omega) (.int .i64 (D : Int)))
  have z0 := X4.out.c 0 _ rfl
  have z1 := X4.out.c 1 _ rfl
  have z2 := X4.out.c 2 _ rfl
  have z3 := X4.out.c 3 _ rfl
  have z4 := X4.out.c 4 _ rfl
  have r0 := R4.out.c 0 _ rfl
  have r1 := R4.out.c 1 _ rfl
  have r2 := R4.out.c 2 _ rfl
  have r3 := R4.out.c 3 _ rfl
  have r4 := R4.out.c 4 _ rfl
  have rf := R4.out.f
  go_wp2_with fail
  refine bodyPost_ret (v := .agg #[.int .i64 30, .int .i64 30, .int .i64 30, .int .i64 4, .int .i64 (D : Int)]) (by simp [results, Try.results39, go_sem, r0, r1, r2, r3, r4]) rfl ⟨rfl, ?_⟩
  exact ((((B4.out.setCell (p := ⟨w.heap.size + 1, 0, none⟩) (Nat.le_succ _) _).setCell (p := ⟨w.heap.size + 1, 1, none⟩) (Nat.le_succ _) _).setCell (p := ⟨w.heap.size + 1, 2, none⟩) (Nat.le_succ _) _).setCell (p := ⟨w.heap.size + 1, 3, none⟩) (Nat.le_succ _) _).setCell (p := ⟨w.heap.size + 1, 4, none⟩) (Nat.le_succ _) _
theorem ix5_0 (a b c d e : ByteArray) (w : World) : (Instr.index 34 (.agg #[.string a, .string b, .string c, .string d, .string e]) (.int .i64 0)).run Try.prog w = .ok (.string a) w := by
  simp [Instr.index, run_underlying Try.underlying34, asIntOf, go_sem, Try.sizeOf9, Try.isAgg9]
theorem ix5i_0 (a b c d e : Value) (w : World) : (Instr.index 55 (.agg #[a, b, c, d, e]) (.int .i64 0)).run Try.prog w = .ok a w := by
  simp [Instr.index, run_underlying Try.underlying55, asIntOf, go_sem, Try.sizeOf3, Try.isAgg3]
theorem ix5_1 (a b c d e : ByteArray) (w : World) : (Instr.index 34 (.agg #[.string a, .string b, .string c, .string d, .string e]) (.int .i64 1)).run Try.prog w = .ok (.string b) w := by
  simp [Instr.index, run_underlying Try.underlying34, asIntOf, go_sem, Try.sizeOf9, Try.isAgg9]
theorem ix5i_1 (a b c d e : Value) (w : World) : (Instr.index 55 (.agg #[a, b, c, d, e]) (.int .i64 1)).run Try.prog w = .ok b w := by
  simp [Instr.index, run_underlying Try.underlying55, asIntOf, go_sem, Try.sizeOf3, Try.isAgg3]
theorem ix5_2 (a b c d e : ByteArray) (w : World) : (Instr.index 34 (.agg #[.string a, .string b, .string c, .string d, .string e]) (.int .i64 2)).run Try.prog w = .ok (.string c) w := by
  simp [Instr.index, run_underlying Try.underlying34, asIntOf, go_sem, Try.sizeOf9, Try.isAgg9]
theorem ix5i_2 (a b c d e : Value) (w : World) : (Instr.index 55 (.agg #[a, b, c, d, e]) (.int .i64 2)).run Try.prog w = .ok c w := by
  simp [Instr.index, run_underlying Try.underlying55, asIntOf, go_sem, Try.sizeOf3, Try.isAgg3]
theorem ix5_3 (a b c d e : ByteArray) (w : World) : (Instr.index 34 (.agg #[.string a, .string b, .string c, .string d, .string e]) (.int .i64 3)).run Try.prog w = .ok (.string d) w := by
  simp [Instr.index, run_underlying Try.underlying34, asIntOf, go_sem, Try.sizeOf9, Try.isAgg9]
theorem ix5i_3 (a b c d e : Value) (w : World) : (Instr.index 55 (.agg #[a, b, c, d, e]) (.int .i64 3)).run Try.prog w = .ok d w := by
  simp [Instr.index, run_underlying Try.underlying55, asIntOf, go_sem, Try.sizeOf3, Try.isAgg3]
theorem ix5_4 (a b c d e : ByteArray) (w : World) : (Instr.index 34 (.agg #[.string a, .string b, .string c, .string d, .string e]) (.int .i64 4)).run Try.prog w = .ok (.string e) w := by
  simp [Instr.index, run_underlying Try.underlying34, asIntOf, go_sem, Try.sizeOf9, Try.isAgg9]
theorem ix5i_4 (a b c d e : Value) (w : World) : (Instr.index 55 (.agg #[a, b, c, d, e]) (.int .i64 4)).run Try.prog w = .ok e w := by
  simp [Instr.index, run_underlying Try.underlying55, asIntOf, go_sem, Try.sizeOf3, Try.isAgg3]
end Go.Proofs.Ytidlkkhmmgkicaa.tl
