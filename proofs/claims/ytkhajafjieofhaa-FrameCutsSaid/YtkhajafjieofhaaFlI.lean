/- The landed frame: Parse, where there is none: a contract. -/
import Derived.Test.YtkhajafjieofhaaFlG
import Derived.Test.YtkhajafjieofhaaFn3
namespace Go.Proofs.Ytkhajafjieofhaa.fl
open Go.RowKit Go.Lib
open Go.Proofs.Ytkhajafjieofhaa.un (bs bs_list bs_size bs_app bs_back size_list wrap64)
open Go.Proofs.Ytkhajafjieofhaa.fr Go.Proofs.Ytkhajafjieofhaa.bk
open Go.Proofs.Ytkhajafjieofhaa.oct (Rd Upd num num7)
set_option linter.unusedVariables false
/-- No frame, as the program has it. -/
def zF : Value := .agg #[.string ⟨#[]⟩, .int .u8 0, .int .u8 0, .int .u8 0, .string ⟨#[]⟩, .int .i64 0]
theorem one_list (t : ByteArray) (k : Nat) (h : k < t.size) : (t.extract k (k + 1)).toList = [t.data.toList.getD k 0] := by
  rw [ByteArray.toList_eq, list_ext, List.getD_eq_getElem?_getD, List.getElem?_eq_getElem (by rw [size_list]; exact h)]
  have hl : k < t.data.toList.length := by rw [size_list]; exact h
  rw [List.drop_eq_getElem_cons hl]
  rfl
/-- What Peek of one byte answers. -/
theorem peek_1 {t : ByteArray} {q : Int} (hz : Sz t q) (k b : Nat) (W : World) (hk : k < t.size) (hW : Rs W b t q (.on k)) : Calls Try.prog 44 #[.pointer (some ⟨b, 0, none⟩), .int .i64 1] W fun e w' => e = .returned (.string (t.extract k (k + 1))) ∧ Below W.heap.size W w' :=
  oct.peek_m W b t k 1 (t.size - k) q 0 1 hW.1 (by omega) hz.max (.inr (.inl ⟨rfl, by omega⟩))
theorem peek_0 {t : ByteArray} {q : Int} (hz : Sz t q) (b : Nat) (W : World) (hW : Rs W b t q (.on t.size)) : Calls Try.prog 44 #[.pointer (some ⟨b, 0, none⟩), .int .i64 1] W fun e w' => e = .returned (.string ⟨#[]⟩) ∧ Below W.heap.size W w' := by
  have h := oct.peek_m W b t t.size 0 0 q 0 1 hW.1 (by omega) hz.max (.inr (.inr ⟨by omega, rfl⟩))
  have e : t.extract t.size (t.size + 0) = ⟨#[]⟩ := by
    apply ByteArray.ext
    simp
  rw [e] at h
  exact h
set_option maxRecDepth 100000 in
set_option maxHeartbeats 1000000 in
theorem parse_none {t : ByteArray} {q : Int} (hz : Sz t q) (v : Int) (sp : Bool) (k b : Nat) (w : World) (h : Rs w b t q (.on k)) (hno : ltrs v = 0 ∨ k = t.size ∨ k < t.size ∧ un.bt t k = 0) :
    Calls Try.prog 25 #[.int .i64 v, .pointer (some ⟨b, 0, none⟩), .bool sp] w fun e w' => e = .returned (.tuple #[zF, .bool false]) ∧ Rs w' b t q (.on k) ∧ Upd b w w' := by
  have HL := Lib.hid (fun W => letters_any v W)
  have hk := h.2
  have R0 := Lib.hid (Rs.below h ((Below.refl _ _).alloc (Nat.le_refl _) (.cells #[.string ⟨#[]⟩, .int .u8 0, .int .u8 0, .int .u8 0, .string ⟨#[]⟩, .int .i64 0] 31)))
  have Q0 := Lib.hid (Bk.new w 31 [.string ⟨#[]⟩, .int .u8 0, .int .u8 0, .int .u8 0, .string ⟨#[]⟩, .int .i64 0])
  have B0 : Hid (Below w.heap.size w (w.alloc (.cells #[.string ⟨#[]⟩, .int .u8 0, .int .u8 0, .int .u8 0, .string ⟨#[]⟩, .int .i64 0] 31))) := Lib.hid ((Below.refl _ _).alloc (Nat.le_refl _) _)
  have HLT := Lib.hid h.lt
  have HZ := Lib.hid hz
  clear hz h
  by_cases hlv : ltrs v = 0
  · rw [hlv] at HL
    obtain ⟨L, hL⟩ : ∃ L : Int, L = ((0 : Nat) : Int) := ⟨_, rfl⟩
    rw [← hL] at HL
    have n1 : (L == 0) = true := by rw [hL]; rfl
    clear hL
    by_cases hks : k = t.size
    · subst hks
      have HP := Lib.hid (fun W hW => peek_0 HZ.out b W hW)
      clear hno hlv hk
      generalize RS.on t.size = S at *
      go_enter Try.func25, Try.ntmps25
      go_wp2_with (first
        | (go_at_call 16; refine (HL.out _).mono ?_; rintro e1 w1 ⟨rfl, rfl⟩)
        | (go_at_call 44; refine (HP.out _ R0.out).mono ?_; rintro e2 w2 ⟨rfl, hb2⟩; have Q2 := Lib.hid (Q0.out.below hb2); have R2 := Lib.hid (Rs.below R0.out hb2); have B2 := Lib.hid (B0.out.trans (hb2.mono B0.out.size)); have r0 := Q2.out.c 0 _ rfl; have r1 := Q2.out.c 1 _ rfl; have r2 := Q2.out.c 2 _ rfl; have r3 := Q2.out.c 3 _ rfl; have r4 := Q2.out.c 4 _ rfl; have r5 := Q2.out.c 5 _ rfl; have rf := Q2.out.f; clear hb2 R0 Q0))
      (try simp only [Exit.inBlock, Exit.then])
      refine bodyPost_ret (v := .tuple #[.agg #[.string ⟨#[]⟩, .int .u8 0, .int .u8 0, .int .u8 0, .string ⟨#[]⟩, .int .i64 0], .bool false]) (by simp [results, Try.results25, go_sem, r0, r1, r2, r3, r4, r5]) rfl ⟨rfl, ?_, upd_of b (((((((B2.out).setCell (p := ⟨w.heap.size, 0, none⟩) (Nat.le_refl _) _).setCell (p := ⟨w.heap.size, 1, none⟩) (Nat.le_refl _) _).setCell (p := ⟨w.heap.size, 2, none⟩) (Nat.le_refl _) _).setCell (p := ⟨w.heap.size, 3, none⟩) (Nat.le_refl _) _).setCell (p := ⟨w.heap.size, 4, none⟩) (Nat.le_refl _) _).setCell (p := ⟨w.heap.size, 5, none⟩) (Nat.le_refl _) _)⟩
      exact Rs.upd R2.out ((((((((Upd.refl w.heap.size _).setCell 0 _).setCell 1 _).setCell 2 _).setCell 3 _).setCell 4 _).setCell 5 _)) (by have := B2.out.size; have := HLT.out; omega)
    · have HP := Lib.hid (fun W hW => peek_1 HZ.out k b W (by omega) hW)
      clear hno hlv hk hks
      generalize RS.on k = S at *
      generalize t.extract k (k + 1) = X at *
      go_enter Try.func25, Try.ntmps25
      go_wp2_with (first
        | (go_at_call 16; refine (HL.out _).mono ?_; rintro e1 w1 ⟨rfl, rfl⟩)
        | (go_at_call 44; refine (HP.out _ R0.out).mono ?_; rintro e2 w2 ⟨rfl, hb2⟩; have Q2 := Lib.hid (Q0.out.below hb2); have R2 := Lib.hid (Rs.below R0.out hb2); have B2 := Lib.hid (B0.out.trans (hb2.mono B0.out.size)); have r0 := Q2.out.c 0 _ rfl; have r1 := Q2.out.c 1 _ rfl; have r2 := Q2.out.c 2 _ rfl; have r3 := Q2.out.c 3 _ rfl; have r4 := Q2.out.c 4 _ rfl; have r5 := Q2.out.c 5 _ rfl; have rf := Q2.out.f; clear hb2 R0 Q0))
      (try simp only [Exit.inBlock, Exit.then])
      refine bodyPost_ret (v := .tuple #[.agg #[.string ⟨#[]⟩, .int .u8 0, .int .u8 0, .int .u8 0, .string ⟨#[]⟩, .int .i64 0], .bool false]) (by simp [results, Try.results25, go_sem, r0, r1, r2, r3, r4, r5]) rfl ⟨rfl, ?_, upd_of b (((((((B2.out).setCell (p := ⟨w.heap.size, 0, none⟩) (Nat.le_refl _) _).setCell (p := ⟨w.heap.size, 1, none⟩) (Nat.le_refl _) _).setCell (p := ⟨w.heap.size, 2, none⟩) (Nat.le_refl _) _).setCell (p := ⟨w.heap.size, 3, none⟩) (Nat.le_refl _) _).setCell (p := ⟨w.heap.size, 4, none⟩) (Nat.le_refl _) _).setCell (p := ⟨w.heap.size, 5, none⟩) (Nat.le_refl _) _)⟩
      exact Rs.upd R2.out ((((((((Upd.refl w.heap.size _).setCell 0 _).setCell 1 _).setCell 2 _).setCell 3 _).setCell 4 _).setCell 5 _)) (by have := B2.out.size; have := HLT.out; omega)
  · have n1 : ((ltrs v : Int) == 0) = false := (nb (by omega)).1
    rcases hno with hno | hno | ⟨hno, hno2⟩
    · exact absurd hno hlv
    · subst hno
      have HP := Lib.hid (fun W hW => peek_0 HZ.out b W hW)
      clear hlv hk
      generalize ((ltrs v : Nat) : Int) = L at *
      generalize RS.on t.size = S at *
      go_enter Try.func25, Try.ntmps25
      go_wp2_with (first
        | (go_at_call 16; refine (HL.out _).mono ?_; rintro e1 w1 ⟨rfl, rfl⟩)
        | (go_at_call 44; refine (HP.out _ R0.out).mono ?_; rintro e2 w2 ⟨rfl, hb2⟩; have Q2 := Lib.hid (Q0.out.below hb2); have R2 := Lib.hid (Rs.below R0.out hb2); have B2 := Lib.hid (B0.out.trans (hb2.mono B0.out.size)); have r0 := Q2.out.c 0 _ rfl; have r1 := Q2.out.c 1 _ rfl; have r2 := Q2.out.c 2 _ rfl; have r3 := Q2.out.c 3 _ rfl; have r4 := Q2.out.c 4 _ rfl; have r5 := Q2.out.c 5 _ rfl; have rf := Q2.out.f; clear hb2 R0 Q0))
      (try simp only [Exit.inBlock, Exit.then])
      refine bodyPost_ret (v := .tuple #[.agg #[.string ⟨#[]⟩, .int .u8 0, .int .u8 0, .int .u8 0, .string ⟨#[]⟩, .int .i64 0], .bool false]) (by simp [results, Try.results25, go_sem, r0, r1, r2, r3, r4, r5]) rfl ⟨rfl, ?_, upd_of b (((((((B2.out).setCell (p := ⟨w.heap.size, 0, none⟩) (Nat.le_refl _) _).setCell (p := ⟨w.heap.size, 1, none⟩) (Nat.le_refl _) _).setCell (p := ⟨w.heap.size, 2, none⟩) (Nat.le_refl _) _).setCell (p := ⟨w.heap.size, 3, none⟩) (Nat.le_refl _) _).setCell (p := ⟨w.heap.size, 4, none⟩) (Nat.le_refl _) _).setCell (p := ⟨w.heap.size, 5, none⟩) (Nat.le_refl _) _)⟩
      exact Rs.upd R2.out ((((((((Upd.refl w.heap.size _).setCell 0 _).setCell 1 _).setCell 2 _).setCell 3 _).setCell 4 _).setCell 5 _)) (by have := B2.out.size; have := HLT.out; omega)
    · have HP := Lib.hid (fun W hW => peek_1 HZ.out k b W hno hW)
      have hol := one_list t k hno
      have m1 : ¬ (t.extract k (k + 1)).toList = [] := by rw [hol]; simp
      have m2 : (t.extract k (k + 1)).toList.isEmpty = false := by rw [hol]; rfl
      have m3 : ((t.extract k (k + 1)).toList == [0]) = true := by
        rw [hol, beq_iff_eq]
        unfold un.bt at hno2
        rw [show t.data.toList.getD k 0 = 0 from UInt8.toNat_inj.1 hno2]
      clear hol hno hno2 hlv hk
      generalize ((ltrs v : Nat) : Int) = L at *
      generalize RS.on k = S at *
      generalize t.extract k (k + 1) = X at *
      go_enter Try.func25, Try.ntmps25
      go_wp2_with (first
        | (go_at_call 16; refine (HL.out _).mono ?_; rintro e1 w1 ⟨rfl, rfl⟩)
        | (go_at_call 44; refine (HP.out _ R0.out).mono ?_; rintro e2 w2 ⟨rfl, hb2⟩; have Q2 := Lib.hid (Q0.out.below hb2); have R2 := Lib.hid (Rs.below R0.out hb2); have B2 := Lib.hid (B0.out.trans (hb2.mono B0.out.size)); have r0 := Q2.out.c 0 _ rfl; have r1 := Q2.out.c 1 _ rfl; have r2 := Q2.out.c 2 _ rfl; have r3 := Q2.out.c 3 _ rfl; have r4 := Q2.out.c 4 _ rfl; have r5 := Q2.out.c 5 _ rfl; have rf := Q2.out.f; clear hb2 R0 Q0))
      (try simp only [Exit.inBlock, Exit.then])
      refine bodyPost_ret (v := .tuple #[.agg #[.string ⟨#[]⟩, .int .u8 0, .int .u8 0, .int .u8 0, .string ⟨#[]⟩, .int .i64 0], .bool false]) (by simp [results, Try.results25, go_sem, r0, r1, r2, r3, r4, r5]) rfl ⟨rfl, ?_, upd_of b (((((((B2.out).setCell (p := ⟨w.heap.size, 0, none⟩) (Nat.le_refl _) _).setCell (p := ⟨w.heap.size, 1, none⟩) (Nat.le_refl _) _).setCell (p := ⟨w.heap.size, 2, none⟩) (Nat.le_refl _) _).setCell (p := ⟨w.heap.size, 3, none⟩) (Nat.le_refl _) _).setCell (p := ⟨w.heap.size, 4, none⟩) (Nat.le_refl _) _).setCell (p := ⟨w.heap.size, 5, none⟩) (Nat.le_refl _) _)⟩
      exact Rs.upd R2.out ((((((((Upd.refl w.heap.size _).setCell 0 _).setCell 1 _).setCell 2 _).setCell 3 _).setCell 4 _).setCell 5 _)) (by have := B2.out.size; have := HLT.out; omega)
end Go.Proofs.Ytkhajafjieofhaa.fl
