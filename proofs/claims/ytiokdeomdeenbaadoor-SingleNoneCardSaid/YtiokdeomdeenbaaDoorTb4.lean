/- The document's answer of layer 4: Piece: a contract. -/
import Derived.Test.YtiokdeomdeenbaaDoorTb3
import Derived.Test.YtiokdeomdeenbaaDoorPt12
namespace Go.Proofs.YtiokdeomdeenbaaDoor.tb
open Go.RowKit Go.Lib
set_option linter.unusedVariables false
theorem size_nil {s : ByteArray} (h : s.data.toList = []) : s.size = 0 := by
  have e : s.data.toList.length = s.size := by rw [Array.length_toList]; rfl
  rw [h] at e; exact e.symm
/-- The pairs of a piece. -/
def piece (f t c : Int) (s : ByteArray) : Option (List (Int × Int)) :=
  if s.size = 0 then
    (if f < 0 ∨ c < 1 ∨ 1048576 < c ∨ 1048576 - c < f ∨ validRune t = false then none
     else if validRune (t + c - 1) = false ∨ (t < 55296 ∧ 57343 < t + c - 1) then none
     else some (sqp f t c.toNat))
  else (if (pt.scan s).2.isSome = true ∨ f < 0 ∨ 1048576 - ((pt.zsOf s).length : Int) < f then none else some (lsp f (pt.zsOf s)))
/-- What Piece answers. -/
def PieceP (w : World) (r : Option (List (Int × Int))) (e : Ending) (w' : World) : Prop :=
  (r = none ∧ e = .returned (.tuple #[.slice none 0 0, .bool false]) ∧ Below w.heap.size w w') ∨
  ∃ l A c, r = some l ∧ e = .returned (.tuple #[.slice A l.length c, .bool true]) ∧ RowP w' A l.length c l ∧ Below w.heap.size w w'
theorem ret_pb {A : Option Addr} {a b c : Nat} (h : a = b) : Ending.returned (.tuple #[.slice A a c, .bool true]) = .returned (.tuple #[.slice A b c, .bool true]) := by rw [h]
set_option maxRecDepth 100000 in
set_option maxHeartbeats 2000000 in
theorem piece_seq_no (f t c : Int) (w : World) (f0 : -9223372036854775808 ≤ f) (f1 : f ≤ 9223372036854775807) (c0 : -9223372036854775808 ≤ c) (c1 : c ≤ 100) (t0 : -2147483648 ≤ t) (t1 : t ≤ 2147483647) (h : piece f t c ⟨#[]⟩ = none) :
    Calls Tryd.prog 40 #[.int .i64 f, .int .i32 t, .int .i64 c, .string ⟨#[]⟩] w (PieceP w (piece f t c ⟨#[]⟩)) := by
  rw [h]
  have hS := fun w2 => pt.refScalar_any t w2
  by_cases hf : f < 0
  · go_enter Tryd.func40, Tryd.ntmps40
    go_wp2_with fail
    go_ret2
    exact .inl ⟨rfl, rfl, Below.refl _ _⟩
  by_cases hc : c < 1
  · clear h hS
    go_enter Tryd.func40, Tryd.ntmps40
    go_wp2_with fail
    go_ret2
    exact .inl ⟨rfl, rfl, Below.refl _ _⟩
  by_cases hg : 1048576 - c < f
  · clear h hS
    go_enter Tryd.func40, Tryd.ntmps40
    go_wp2_with fail
    go_ret2
    exact .inl ⟨rfl, rfl, Below.refl _ _⟩
  have hf' : 0 ≤ f := by omega
  have hc' : 1 ≤ c := by omega
  have hg' : ¬ f > 1048576 - c := by omega
  have hc2 : ¬ c > 1048576 := by omega
  cases ht : validRune t with
  | false =>
    rw [ht] at hS
    have HS := Lib.hid hS
    clear h hS ht hf hc hg
    go_enter Tryd.func40, Tryd.ntmps40
    go_wp2_with (go_at_call 68; refine (HS.out _).mono ?_; rintro e1 w1 ⟨rfl, rfl⟩)
    go_ret2
    exact .inl ⟨rfl, rfl, Below.refl _ _⟩
  | true =>
    rw [ht] at hS
    have hr := pt.valid_range ht
    have hL := fun w2 => pt.refScalar_any (t + c - 1) w2
    have hp : validRune (t + c - 1) = false ∨ (t < 55296 ∧ 57343 < t + c - 1) := by
      by_cases hh : validRune (t + c - 1) = false ∨ (t < 55296 ∧ 57343 < t + c - 1)
      · exact hh
      · unfold piece at h
        rw [if_pos (show (⟨#[]⟩ : ByteArray).size = 0 from rfl), if_neg (by rw [ht]; simp; omega), if_neg hh] at h
        cases h
    cases hl : validRune (t + c - 1) with
    | false =>
      rw [hl] at hL
      have HS := Lib.hid hS; have HL := Lib.hid hL
      clear h hS hL ht hl hp hf hc hg
      go_enter Tryd.func40, Tryd.ntmps40
      go_wp2_with (first | (go_at_call 68; with_reducible refine (HS.out _).mono ?_; rintro e1 w1 ⟨rfl, rfl⟩) | (go_at_call 68; with_reducible refine (HL.out _).mono ?_; rintro e2 w2 ⟨rfl, rfl⟩))
      go_ret2
      exact .inl ⟨rfl, rfl, Below.refl _ _⟩
    | true =>
      rw [hl] at hp
      obtain ⟨hp1, hp2⟩ : t < 55296 ∧ 57343 < t + c - 1 := by simpa using hp
      omega
set_option maxRecDepth 100000 in
set_option maxHeartbeats 2000000 in
theorem piece_seq_yes (f t : Int) (n : Nat) (w : World) (f0 : 0 ≤ f) (n0 : 1 ≤ n) (n1 : n ≤ 100) (f1 : f ≤ 1048576 - (n : Int)) (ht : validRune t = true) (hl : validRune (t + n - 1) = true) (hx : ¬ (t < 55296 ∧ 57343 < t + n - 1)) :
    Calls Tryd.prog 40 #[.int .i64 f, .int .i32 t, .int .i64 (n : Int), .string ⟨#[]⟩] w (PieceP w (some (sqp f t n))) := by
  obtain ⟨i0, hi0, hzz⟩ := Option.map_eq_some_iff.1 pair_info
  simp only [Prod.mk.injEq] at hzz
  obtain ⟨hz, hsi, hby⟩ := hzz
  have hr := pt.valid_range ht
  have hS := fun w2 => pt.refScalar_any t w2
  have hL := fun w2 => pt.refScalar_any (t + n - 1) w2
  rw [ht] at hS
  rw [hl] at hL
  have HS := Lib.hid hS; have HL := Lib.hid hL
  have g0 : ¬ f > 1048576 - (n : Int) := by omega
  have g1 : (1 : Int) ≤ (n : Int) := by omega
  have g2 : (n : Int) ≤ 100 := by omega
  have g3 : t < 55296 ∧ t + (n : Int) - 1 ≤ 57343 ∨ ¬ t < 55296 := by omega
  clear hS hL ht hl hx
  rcases g3 with ⟨g3, g4⟩ | g3
  all_goals
    go_enter Tryd.func40, Tryd.ntmps40
    go_wp2_with (first | (go_at_call 68; with_reducible refine (HS.out _).mono ?_; rintro e1 w1 ⟨rfl, rfl⟩) | (go_at_call 68; with_reducible refine (HL.out _).mono ?_; rintro e2 w2 ⟨rfl, rfl⟩))
    go_loopw [15, 16] (fun v i wr => ∃ j : Nat, j ≤ n ∧ i = .int .i64 j ∧ wr.ownsRow w.heap.size 42 2 v j (pc (sqp f t j)) ∧ Below w.heap.size w wr) (fun _ i _ => n - (RowKit.intOf i).toNat)
    case atStart => exact ⟨0, Nat.zero_le _, rfl, World.ownsRow_nil _ _ _ _, Below.refl _ _⟩
    case round =>
      obtain ⟨j, hj, rfl, hown, hB⟩ := hrel
      have HOW := Lib.hid hown; have HB := Lib.hid hB; have hz1 := hB.size
      clear hown hB
      by_cases hlt : j < n
      · have k0 : (0 : Int) ≤ f + (j : Int) := by omega
        have k1 : f + (j : Int) ≤ 2000000 := by omega
        have k2 : (0 : Int) ≤ t + (j : Int) := by omega
        have k3 : t + (j : Int) ≤ 2000000 := by omega
        go_wp2_with (at_builtin; refine wpList_append_own _ rfl _ _ 33 rfl w.heap.size 42 i0 _ 2 16 Tryd.underlying33 hi0 hz hsi hby rfl (by decide) _ _ _ rfl (HOW.out.alloc _) ⟨wr.heap.size, 0, none⟩ 1 1 [.int .i64 (f + (j : Int)), .int .i32 (t + (j : Int))] rfl rfl (new_cells wr _ _ _) (fun u hu => by simp at hu; rcases hu with rfl | rfl <;> rfl) (by unfold maxLen; omega) (by omega) (by first | omega | (simp; omega)) ?_; intro v5 w5 hown5 hgrow _; have HO5 := Lib.hid hown5; have HB5 := Lib.hid (below_own (HB.out.alloc (by first | omega | (simp; omega)) _) (by first | omega | (simp; omega)) (HOW.out.alloc _) hgrow); clear hown5 hgrow)
        go_roundw
        case rel => exact ⟨j + 1, by omega, by go_num, by rw [sqp, pc_app, pc_one]; exact HO5.out, HB5.out⟩
        case measure => simp [RowKit.intOf]; omega
      · obtain rfl : j = n := by omega
        obtain ⟨A, c, rfl, hrow⟩ := rowP_of HOW.out
        have HRW := Lib.hid hrow
        clear hrow hlt
        go_wp2_with fail
        go_ret2
        exact .inr ⟨_, A, c, rfl, ret_pb (sqp_len f t j).symm, by rw [sqp_len]; exact HRW.out, HB.out⟩
set_option maxRecDepth 100000 in
set_option maxHeartbeats 2000000 in
theorem piece_text_no (f t c : Int) (s : ByteArray) (w : World) (f0 : -9223372036854775808 ≤ f) (f1 : f ≤ 9223372036854775807) (hs : s.size ≤ 300) (h0 : s.size ≠ 0) (h : (pt.scan s).2.isSome = true ∨ f < 0 ∨ 1048576 - ((pt.zsOf s).length : Int) < f) :
    Calls Tryd.prog 40 #[.int .i64 f, .int .i32 t, .int .i64 c, .string s] w (PieceP w none) := by
  have m1 : ¬ s.toList = [] := fun h => by rw [ByteArray.toList_eq] at h; exact h0 (size_nil h)
  have m2 : s.toList.isEmpty = false := by rw [Bool.eq_false_iff]; intro h; exact m1 (List.isEmpty_iff.1 h)
  cases hb : (pt.scan s).2 with
  | some A =>
    have HP := Lib.hid (fun w2 => pt.refPoints_none s A w2 (by omega) hb)
    clear h hb
    go_enter Tryd.func40, Tryd.ntmps40
    go_wp2_with (go_at_call 33; refine (HP.out _).mono ?_; rintro e1 w1 ⟨rfl, hb1⟩)
    go_ret2
    exact .inl ⟨rfl, rfl, hb1⟩
  | none =>
    obtain ⟨N, hN⟩ : ∃ N, N = (pt.zsOf s).length := ⟨_, rfl⟩
    have HP := Lib.hid (fun w2 => pt.refPoints_row s N w2 (by omega) hb hN.symm)
    have hNl : N ≤ 300 := by
      have := pt.sc_len s s.size 0
      rw [hN, pt.zsOf_len]; unfold pt.scan; omega
    rw [← hN, hb] at h
    have h' : f < 0 ∨ 1048576 - (N : Int) < f := by simpa using h
    clear hb h hN
    by_cases hf : f < 0
    · go_enter Tryd.func40, Tryd.ntmps40
      go_wp2_with (go_at_call 33; refine (HP.out _).mono ?_; rintro e1 w1 ⟨q, d, rfl, hr1, hb1⟩)
      go_ret2
      exact .inl ⟨rfl, rfl, hb1⟩
    · have hg : f > 1048576 - (N : Int) := by omega
      have hf' : 0 ≤ f := by omega
      clear h' hf
      go_enter Tryd.func40, Tryd.ntmps40
      go_wp2_with (go_at_call 33; refine (HP.out _).mono ?_; rintro e1 w1 ⟨q, d, rfl, hr1, hb1⟩)
      go_ret2
      exact .inl ⟨rfl, rfl, hb1⟩
set_option maxRecDepth 100000 in
set_option maxHeartbeats 2000000 in
theorem piece_text_yes (f t c : Int) (s : ByteArray) (w : World) (hs : s.size ≤ 300) (h0 : s.size ≠ 0) (hb : (pt.scan s).2 = none) (f0 : 0 ≤ f) (f1 : f ≤ 1048576 - ((pt.zsOf s).length : Int)) :
    Calls Tryd.prog 40 #[.int .i64 f, .int .i32 t, .int .i64 c, .string s] w (PieceP w (some (lsp f (pt.zsOf s)))) := by
  obtain ⟨i0, hi0, hzz⟩ := Option.map_eq_some_iff.1 pair_info
  simp only [Prod.mk.injEq] at hzz
  obtain ⟨hz, hsi, hby⟩ := hzz
  have m1 : ¬ s.toList = [] := fun h => by rw [ByteArray.toList_eq] at h; exact h0 (size_nil h)
  have m2 : s.toList.isEmpty = false := by rw [Bool.eq_false_iff]; intro h; exact m1 (List.isEmpty_iff.1 h)
  obtain ⟨N, hN⟩ : ∃ N, N = (pt.zsOf s).length := ⟨_, rfl⟩
  have HP := Lib.hid (fun w2 => pt.refPoints_row s N w2 (by omega) hb hN.symm)
  have hNl : N ≤ 300 := by
    have := pt.sc_len s s.size 0
    rw [hN, pt.zsOf_len]; unfold pt.scan; omega
  rw [← hN] at f1
  have HN := Lib.hid hN
  clear hN hb h0
  generalize pt.zsOf s = zs at *
  have g0 : ¬ f > 1048576 - (N : Int) := by omega
  go_enter Tryd.func40, Tryd.ntmps40
  go_wp2_with (go_at_call 33; refine (HP.out _).mono ?_; rintro e1 w1 ⟨q, d, rfl, hr1, hb1⟩; have R1 := Lib.hid hr1; have B1 := Lib.hid hb1; clear hr1 hb1)
  go_loopw [12, 13] (fun v i wr => ∃ j : Nat, j ≤ N ∧ i = .int .i64 j ∧ wr.ownsRow w1.heap.size 42 2 v j (pc (lsp f (zs.take j))) ∧ Below w1.heap.size w1 wr) (fun _ i _ => N - (RowKit.intOf i).toNat)
  case atStart => exact ⟨0, Nat.zero_le _, rfl, by simpa [lsp, pc] using World.ownsRow_nil _ _ _ _, Below.refl _ _⟩
  case round =>
    obtain ⟨j, hj, rfl, hown, hB⟩ := hrel
    have HOW := Lib.hid hown; have HB := Lib.hid hB; have hz1 := hB.size
    clear hown hB
    by_cases hlt : j < N
    · obtain ⟨a, rfl, a1, a2, a3⟩ := (R1.out.below HB.out).at j hlt
      unfold maxLen at a2
      have hjl : j < zs.length := by have := HN.out; omega
      have htk : Hid (zs.take (j + 1) = zs.take j ++ [zs.getD j 0]) := Lib.hid (by rw [List.take_add_one, List.getElem?_eq_getElem hjl]; simp [List.getD, List.getElem?_eq_getElem hjl])
      have hln : Hid ((zs.take j).length = j) := Lib.hid (by rw [List.length_take]; omega)
      generalize zs.getD j 0 = x at *
      have k0 : (0 : Int) ≤ f + (j : Int) := by omega
      have k1 : f + (j : Int) ≤ 2000000 := by omega
      clear hjl
      go_wp2_with (at_builtin; refine wpList_append_own _ rfl _ _ 33 rfl w1.heap.size 42 i0 _ 2 16 Tryd.underlying33 hi0 hz hsi hby rfl (by decide) _ _ _ rfl (HOW.out.alloc _) ⟨wr.heap.size, 0, none⟩ 1 1 [.int .i64 (f + (j : Int)), .int .i32 x] rfl rfl (new_cells wr _ _ _) (fun u hu => by simp at hu; rcases hu with rfl | rfl <;> rfl) (by unfold maxLen; omega) (by omega) (by first | omega | (simp; omega)) ?_; intro v5 w5 hown5 hgrow _; have HO5 := Lib.hid hown5; have HB5 := Lib.hid (below_own (HB.out.alloc (by first | omega | (simp; omega)) _) (by first | omega | (simp; omega)) (HOW.out.alloc _) hgrow); clear hown5 hgrow)
      go_roundw
      case rel => exact ⟨j + 1, by omega, by go_num, by rw [htk.out, lsp_snoc, pc_app, pc_one, hln.out]; exact HO5.out, HB5.out⟩
      case measure => simp [RowKit.intOf]; omega
    · obtain rfl : j = N := by omega
      have htk : zs.take j = zs := by rw [HN.out]; exact List.take_length
      rw [htk] at HOW
      obtain ⟨A, c', rfl, hrow⟩ := rowP_of HOW.out
      have HRW := Lib.hid hrow
      clear hrow hlt htk
      go_wp2_with fail
      go_ret2
      exact .inr ⟨_, A, c', rfl, ret_pb (by rw [lsp_len]; exact HN.out), by rw [lsp_len, ← HN.out]; exact HRW.out, B1.out.trans (HB.out.mono B1.out.size)⟩
theorem piece_any (f t c : Int) (s : ByteArray) (w : World) (f0 : -9223372036854775808 ≤ f) (f1 : f ≤ 9223372036854775807) (c0 : -9223372036854775808 ≤ c) (c1 : c ≤ 100) (t0 : -2147483648 ≤ t) (t1 : t ≤ 2147483647) (hs : s.size ≤ 300) :
    Calls Tryd.prog 40 #[.int .i64 f, .int .i32 t, .int .i64 c, .string s] w (PieceP w (piece f t c s)) := by
  by_cases h0 : s.size = 0
  · have e : s = ⟨#[]⟩ := by
      apply ByteArray.ext
      exact Array.eq_empty_of_size_eq_zero h0
    subst e
    cases hp : piece f t c ⟨#[]⟩ with
    | none =>
      have := piece_seq_no f t c w f0 f1 c0 c1 t0 t1 hp
      rwa [hp] at this
    | some l =>
      unfold piece at hp
      rw [if_pos (show (⟨#[]⟩ : ByteArray).size = 0 from rfl)] at hp
      split at hp
      · cases hp
      rename_i h1
      split at hp
      · cases hp
      rename_i h2
      obtain ⟨n, rfl⟩ : ∃ n : Nat, c = (n : Int) := ⟨c.toNat, by omega⟩
      cases hp
      have ht : validRune t = true := by cases h : validRune t with | true => rfl | false => exact absurd (.inr (.inr (.inr (.inr h)))) h1
      have hl : validRune (t + n - 1) = true := by cases h : validRune (t + (n : Int) - 1) with | true => rfl | false => exact absurd (.inl h) h2
      rw [Int.toNat_natCast]
      exact piece_seq_yes f t n w (by omega) (by omega) (by omega) (by omega) ht hl (fun h => h2 (.inr h))
  · unfold piece
    rw [if_neg h0]
    split
    · rename_i h1
      exact piece_text_no f t c s w f0 f1 hs h0 h1
    · rename_i h1
      have hb : (pt.scan s).2 = none := by cases h : (pt.scan s).2 with | none => rfl | some a => exact absurd (.inl (by rw [h]; rfl)) h1
      exact piece_text_yes f t c s w hs h0 hb (by omega) (by omega)
end Go.Proofs.YtiokdeomdeenbaaDoor.tb
