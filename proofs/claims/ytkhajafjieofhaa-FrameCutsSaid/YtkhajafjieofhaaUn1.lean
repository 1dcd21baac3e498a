/- The document's own answers of layer 11: Looks, Put, Drop: contracts. -/
import Derived.Test.YtkhajafjieofhaaUn0
namespace Go.Proofs.Ytkhajafjieofhaa.un
open Go.RowKit Go.Lib
set_option linter.unusedVariables false
theorem wrap64 {x : Int} (h0 : -9223372036854775808 ≤ x) (h1 : x ≤ 9223372036854775807) : IntKind.i64.wrap x = x := by simp [IntKind.wrap, IntKind.bits, IntKind.signed]; omega
/-- A byte of a text; beyond its end: 0. -/
def bt (s : ByteArray) (i : Nat) : Nat := (s.data.toList.getD i 0).toNat
theorem bt_lt (s : ByteArray) (i : Nat) : bt s i < 256 := UInt8.toNat_lt _
theorem size_list (s : ByteArray) : s.data.toList.length = s.size := by rw [Array.length_toList]; rfl
theorem bt_get (s : ByteArray) (i : Nat) (h : i < s.size) : (s[i]).toNat = bt s i := by
  unfold bt
  have hk : i < s.data.toList.length := by rw [size_list]; exact h
  rw [List.getD_eq_getElem?_getD, List.getElem?_eq_getElem hk]
  rfl
theorem index_bt (s : ByteArray) (i : Nat) (hi : i < s.size) (w : World) : (Instr.index 9 (.string s) (.int .i64 (i : Int))).run Try.prog w = .ok (.int .u8 ((bt s i : Nat) : Int)) w := by
  rw [run_index_string w 9 s .i64 i Try.underlying9, ← bt_get s i hi]
  simp [hi]
theorem index_bt1 (s : ByteArray) (i : Nat) (hi : i + 1 < s.size) (w : World) : (Instr.index 9 (.string s) (.int .i64 ((i : Int) + 1))).run Try.prog w = .ok (.int .u8 ((bt s (i + 1) : Nat) : Int)) w := index_bt s (i + 1) hi w
/-- Bytes as a text. -/
def bs (l : List UInt8) : ByteArray := ⟨l.toArray⟩
theorem bs_back (s : ByteArray) : bs s.data.toList = s := by cases s; simp [bs]
theorem bs_size (l : List UInt8) : (bs l).size = l.length := by simp [bs, ByteArray.size]
theorem bs_list (l : List UInt8) : (bs l).data.toList = l := by simp [bs]
theorem data_app (s t : ByteArray) : (s ++ t).data.toList = s.data.toList ++ t.data.toList := by simp
theorem bs_app (l m : List UInt8) : bs l ++ bs m = bs (l ++ m) := by
  rw [← bs_back (bs l ++ bs m), data_app, bs_list, bs_list]
theorem drop_at (s : ByteArray) (i : Nat) (h : i < s.size) : s.data.toList.drop i = s.data.toList.getD i 0 :: s.data.toList.drop (i + 1) := by
  have hk : i < s.data.toList.length := by rw [size_list]; exact h
  rw [List.drop_eq_getElem_cons hk]; simp [List.getD, List.getElem?_eq_getElem hk]
theorem drop_end (s : ByteArray) (i : Nat) (h : s.size ≤ i) : s.data.toList.drop i = [] := List.drop_eq_nil_of_le (by rw [size_list]; exact h)
theorem ext_one (s : ByteArray) (i : Nat) (h : i < s.size) : s.extract i (i + 1) = bs [s.data.toList.getD i 0] := by
  rw [← bs_back (s.extract i (i + 1))]
  congr 1
  have hk : i < s.data.toList.length := by rw [size_list]; exact h
  have e : (s.extract i (i + 1)).data.toList = (s.data.toList.drop i).take 1 := by
    rw [ByteArray.data_extract, Array.toList_extract]
    simp [List.extract]
  rw [e, drop_at s i h]; rfl
theorem slice_1 (s : ByteArray) (i : Nat) (h : i < s.size) (wx : World) : (Instr.slice 9 (.string s) (some (.int .i64 (i : Int))) (some (.int .i64 ((i : Int) + 1))) none).run Try.prog wx = .ok (.string (bs [s.data.toList.getD i 0])) wx := by
  rw [← ext_one s i h, run_slice_string _ _ _ _ _ _ _ Try.underlying9 (by omega) (by omega) (by omega)]
  rfl
/-- Does the byte at a place look like the beginning of sound? -/
def lkA (s : ByteArray) (i : Nat) : Bool := (bt s i == 255) && (decide (i + 1 = s.size) || (bt s (i + 1) == 0) || decide (224 ≤ bt s (i + 1)))
theorem u255 (x : UInt8) : (x == 255) = (x.toNat == 255) := by
  rw [Bool.eq_iff_iff]; simp only [beq_iff_eq]
  exact ⟨fun h => by rw [h]; rfl, fun h => UInt8.toNat_inj.1 h⟩
theorem u0 (x : UInt8) : (x == 0) = (x.toNat == 0) := by
  rw [Bool.eq_iff_iff]; simp only [beq_iff_eq]
  exact ⟨fun h => by rw [h]; rfl, fun h => UInt8.toNat_inj.1 h⟩
theorem lkA_eq (s : ByteArray) (i : Nat) (h : i < s.size) : lkA s i = (s.data.toList.getD i 0 == 255 && lk (s.data.toList.drop (i + 1))) := by
  unfold lkA
  rw [u255]
  by_cases h1 : i + 1 = s.size
  · rw [drop_end s (i + 1) (by omega), decide_eq_true h1]; rfl
  · rw [drop_at s (i + 1) (by omega), lk_cons, u0, decide_eq_false h1]; rfl
theorem put_at (s : ByteArray) (i : Nat) (h : i < s.size) : putL (s.data.toList.drop i) = if lkA s i = true then s.data.toList.getD i 0 :: 0 :: putL (s.data.toList.drop (i + 1)) else s.data.toList.getD i 0 :: putL (s.data.toList.drop (i + 1)) := by
  rw [lkA_eq s i h, drop_at s i h]; rfl
theorem ext_at (s : ByteArray) (i : Nat) (h : i < s.size) : extL (s.data.toList.drop i) = (if lkA s i = true then 1 else 0) + extL (s.data.toList.drop (i + 1)) := by
  rw [lkA_eq s i h, drop_at s i h]; rfl
set_option maxRecDepth 100000 in
set_option maxHeartbeats 2000000 in
theorem Looks_any (s : ByteArray) (i : Nat) (w : World) (hi : i < s.size) (hs : s.size ≤ 4000) : Calls Try.prog 70 #[.string s, .int .i64 (i : Int)] w fun e w' => e = .returned (.bool (lkA s i)) ∧ w = w' := by
  have x0 := fun wx => index_bt s i hi wx
  have i0 : (0 : Int) ≤ (i : Int) := by omega
  have i1 : (i : Int) < (s.size : Int) := by omega
  have i2 : (s.size : Int) ≤ 4000 := by omega
  obtain ⟨PP, hPP⟩ : ∃ PP, PP = lkA s i := ⟨_, rfl⟩
  rw [← hPP]
  unfold lkA at hPP
  have hb := bt_lt s (i + 1)
  have hc : bt s i ≠ 255 ∨ (bt s i = 255 ∧ i + 1 = s.size) ∨ (bt s i = 255 ∧ i + 1 < s.size ∧ bt s (i + 1) = 0) ∨ (bt s i = 255 ∧ i + 1 < s.size ∧ bt s (i + 1) ≠ 0 ∧ 224 ≤ bt s (i + 1)) ∨ (bt s i = 255 ∧ i + 1 < s.size ∧ bt s (i + 1) ≠ 0 ∧ ¬ 224 ≤ bt s (i + 1)) := by omega
  rcases hc with h1 | ⟨h1, h2⟩ | ⟨h1, h2, h3⟩ | ⟨h1, h2, h3, h4⟩ | ⟨h1, h2, h3, h4⟩
  · obtain rfl : PP = false := by rw [hPP]; simp [h1]
    have n1 : (((bt s i : Nat) : Int) == 255) = false := by simp; omega
    generalize ((bt s i : Nat) : Int) = B at *
    clear hPP h1 hi hs hb
    go_enter Try.func70, Try.ntmps70
    go_wp2
    go_ret
    exact ⟨rfl, rfl⟩
  · obtain rfl : PP = true := by rw [hPP, h1, decide_eq_true h2]; rfl
    rw [h1] at x0
    have e1 : (i : Int) + 1 = (s.size : Int) := by omega
    clear hPP h1 h2 hi hs hb
    go_enter Try.func70, Try.ntmps70
    go_wp2
    go_ret
    exact ⟨rfl, rfl⟩
  · obtain rfl : PP = true := by rw [hPP, h1, h3]; simp
    have x1 := fun wx => index_bt1 s i h2 wx
    rw [h1] at x0
    rw [h3] at x1
    have e1 : ((i : Int) + 1 == (s.size : Int)) = false := by simp; omega
    have e2 : IntKind.i64.wrap ((i : Int) + 1) = (i : Int) + 1 := by simp [IntKind.wrap, IntKind.bits, IntKind.signed]; omega
    clear hPP h1 h2 h3 hi hs hb
    go_enter Try.func70, Try.ntmps70
    go_wp2
    go_ret
    exact ⟨rfl, rfl⟩
  · obtain rfl : PP = true := by rw [hPP, h1]; simp [h4]
    have x1 := fun wx => index_bt1 s i h2 wx
    rw [h1] at x0
    have e1 : ((i : Int) + 1 == (s.size : Int)) = false := by simp; omega
    have e2 : IntKind.i64.wrap ((i : Int) + 1) = (i : Int) + 1 := by simp [IntKind.wrap, IntKind.bits, IntKind.signed]; omega
    have h3' : (((bt s (i + 1) : Nat) : Int) == 0) = false := by simp; omega
    have h5 : (224 : Int) ≤ ((bt s (i + 1) : Nat) : Int) := by omega
    generalize ((bt s (i + 1) : Nat) : Int) = B at *
    clear hPP h1 h2 h3 h4 hi hs hb
    go_enter Try.func70, Try.ntmps70
    go_wp2
    go_ret
    exact ⟨rfl, rfl⟩
  · obtain rfl : PP = false := by rw [hPP, h1]; simp [h3, h4]; omega
    have x1 := fun wx => index_bt1 s i h2 wx
    rw [h1] at x0
    have e1 : ((i : Int) + 1 == (s.size : Int)) = false := by simp; omega
    have e2 : IntKind.i64.wrap ((i : Int) + 1) = (i : Int) + 1 := by simp [IntKind.wrap, IntKind.bits, IntKind.signed]; omega
    have h3' : (((bt s (i + 1) : Nat) : Int) == 0) = false := by simp; omega
    have h5 : decide ((224 : Int) ≤ ((bt s (i + 1) : Nat) : Int)) = false := by rw [decide_eq_false_iff_not]; omega
    generalize ((bt s (i + 1) : Nat) : Int) = B at *
    clear hPP h1 h2 h3 h4 hi hs hb
    go_enter Try.func70, Try.ntmps70
    go_wp2
    go_ret
    exact ⟨rfl, rfl⟩
theorem drp_at (s : ByteArray) (i : Nat) (h : i < s.size) : drpL (s.data.toList.drop i) = if bt s i = 255 ∧ i + 1 < s.size ∧ bt s (i + 1) = 0 then s.data.toList.getD i 0 :: drpL (s.data.toList.drop (i + 2)) else s.data.toList.getD i 0 :: drpL (s.data.toList.drop (i + 1)) := by
  by_cases h1 : i + 1 < s.size
  · rw [drop_at s i h, drop_at s (i + 1) h1]
    show (if (s.data.toList.getD i 0 == 255 && s.data.toList.getD (i + 1) 0 == 0) = true then _ else _) = _
    by_cases h2 : bt s i = 255 ∧ i + 1 < s.size ∧ bt s (i + 1) = 0
    · rw [if_pos h2, if_pos]
      rw [u255, u0]; unfold bt at h2; rw [h2.1, h2.2.2]; rfl
    · rw [if_neg h2, if_neg]
      rw [u255, u0]
      intro hc
      simp only [Bool.and_eq_true, beq_iff_eq] at hc
      exact h2 ⟨hc.1, h1, hc.2⟩
  · rw [drop_at s i h, drop_end s (i + 1) (by omega), if_neg (by omega)]; rfl
theorem drp_le : ∀ l, (drpL l).length ≤ l.length
  | [] => Nat.le_refl _
  | [x] => Nat.le_refl _
  | x :: y :: l => by
    have h1 := drp_le l
    have h2 := drp_le (y :: l)
    unfold drpL
    split <;> simp at * <;> omega
set_option maxRecDepth 100000 in
set_option maxHeartbeats 4000000 in
theorem refPut_any (s : ByteArray) (w : World) (hs : s.size ≤ 4000) : Calls Try.prog 54 #[.string s] w fun e w' => e = .returned (.string (bs (putL s.data.toList))) ∧ Below w.heap.size w w' := by
  obtain ⟨R, hR⟩ : ∃ R, R = putL s.data.toList := ⟨_, rfl⟩
  rw [← hR]
  have HR := Lib.hid hR
  have HL := Lib.hid (fun i W h => Looks_any s i W h hs)
  have s0 : (s.size : Int) ≤ 4000 := by omega
  clear hR
  go_enter Try.func54, Try.ntmps54
  go_wp2_with fail
  go_loopw [3, 4] (fun t i wr => ∃ (j : Nat) (o : List UInt8), j ≤ s.size ∧ i = .int .i64 j ∧ t = .string (bs o) ∧ Hid (o ++ putL (s.data.toList.drop j) = R ∧ o.length ≤ 2 * j) ∧ Below w.heap.size w wr) (fun _ i _ => s.size - (RowKit.intOf i).toNat)
  case atStart => exact ⟨0, [], by omega, rfl, rfl, Lib.hid ⟨by rw [HR.out]; rfl, by simp⟩, Below.refl _ _⟩
  case round =>
    obtain ⟨j, o, hj, rfl, rfl, ho, hB⟩ := hrel
    have HB := Lib.hid hB
    clear hB
    by_cases hlt : j < s.size
    · have j0 : (0 : Int) ≤ (j : Int) := by omega
      have j1 : (j : Int) < (s.size : Int) := by omega
      have x1 := fun wx => slice_1 s j hlt wx
      have hpa := Lib.hid (put_at s j hlt)
      have HK := Lib.hid (fun W => HL.out j W hlt)
      have ol := ho.out.2
      have o1 : ¬ 9223372036854775807 < (bs o).size + (bs [s.data.toList.getD j 0]).size := by rw [bs_size, bs_size]; show ¬ _ < o.length + 1; omega
      have o2 : ¬ 9223372036854775807 < (bs o ++ bs [s.data.toList.getD j 0]).size + (⟨#[0]⟩ : ByteArray).size := by rw [bs_app, bs_size, List.length_append]; show ¬ _ < o.length + 1 + 1; omega
      have HO : Hid (o ++ putL (s.data.toList.drop j) = R) := Lib.hid ho.out.1
      have hap := Lib.hid (bs_app o [s.data.toList.getD j 0])
      generalize s.data.toList.getD j 0 = x at *
      have e2 : IntKind.i64.wrap ((j : Int) + 1) = (j : Int) + 1 := by simp [IntKind.wrap, IntKind.bits, IntKind.signed]; omega
      cases hk : lkA s j with
      | true =>
        rw [hk] at HK
        have HO2 : Hid ((o ++ [x] ++ [0]) ++ putL (s.data.toList.drop (j + 1)) = R) := Lib.hid (by rw [← HO.out, hpa.out, if_pos hk]; simp)
        have hfin : bs o ++ bs [x] ++ ⟨#[0]⟩ = bs (o ++ [x] ++ [0]) := by rw [bs_app, show (⟨#[0]⟩ : ByteArray) = bs [0] from rfl, bs_app]
        have HF := Lib.hid hfin
        clear hk hpa hfin
        go_wp2_with (go_at_call 70; refine (HK.out _).mono ?_; rintro e1 w1 ⟨rfl, rfl⟩)
        go_roundw
        case rel => exact ⟨j + 1, o ++ [x] ++ [0], by omega, by go_num, by rw [HF.out], Lib.hid ⟨HO2.out, by simp; omega⟩, HB.out⟩
        case measure => simp [RowKit.intOf]; omega
      | false =>
        rw [hk] at HK
        have HO2 : Hid ((o ++ [x]) ++ putL (s.data.toList.drop (j + 1)) = R) := Lib.hid (by rw [← HO.out, hpa.out, hk]; simp)
        clear hk hpa
        go_wp2_with (go_at_call 70; refine (HK.out _).mono ?_; rintro e1 w1 ⟨rfl, rfl⟩)
        go_roundw
        case rel => exact ⟨j + 1, o ++ [x], by omega, by go_num, by rw [hap.out], Lib.hid ⟨HO2.out, by simp; omega⟩, HB.out⟩
        case measure => simp [RowKit.intOf]; omega
    · obtain rfl : j = s.size := by omega
      have hr : o = R := by rw [← ho.out.1, drop_end s s.size (Nat.le_refl _)]; simp [putL]
      subst hr
      go_wp2_with fail
      go_ret
      exact ⟨rfl, HB.out⟩
end Go.Proofs.Ytkhajafjieofhaa.un
