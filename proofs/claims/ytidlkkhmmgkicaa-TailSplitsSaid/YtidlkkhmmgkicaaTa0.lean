/- Layer 12: the mathematics of tails; the document's Width and Cut. -/
import Derived.Test.YtidlkkhmmgkicaaUn1
namespace Go.Proofs.Ytidlkkhmmgkicaa.ta
open Go.RowKit Go.Lib
open Go.Proofs.Ytidlkkhmmgkicaa.un (bs bs_list bs_size bs_app bs_back size_list bt bt_lt bt_get index_bt wrap64 data_app drop_at drop_end u0)
set_option linter.unusedVariables false
/-- How many bytes a text has. -/
def wd (i tr : Nat) : Nat := if i = 3 then 4 else if i = 4 ∧ tr ≠ 0 then 28 else 30
theorem wd_le (i tr : Nat) : wd i tr ≤ 30 := by unfold wd; split; omega; split <;> omega
/-- Up to the first byte 0. -/
def cutL (l : List UInt8) : List UInt8 := l.takeWhile (· != 0)
theorem cut_le (l : List UInt8) : (cutL l).length ≤ l.length := by
  unfold cutL
  induction l with
  | nil => simp
  | cons x l ih => rw [List.takeWhile_cons]; split <;> simp <;> omega
theorem cut_at (s : ByteArray) (i : Nat) (h : i < s.size) : cutL (s.data.toList.drop i) = if bt s i = 0 then [] else s.data.toList.getD i 0 :: cutL (s.data.toList.drop (i + 1)) := by
  rw [drop_at s i h]
  unfold cutL
  rw [List.takeWhile_cons]
  have e : (s.data.toList.getD i 0 != 0) = !(bt s i == 0) := by
    show (!(s.data.toList.getD i 0 == 0)) = _
    rw [u0]; rfl
  rw [e]
  by_cases h2 : bt s i = 0
  · rw [if_pos h2, h2]; rfl
  · rw [if_neg h2, if_pos (by simpa using h2)]
theorem take_at (s : ByteArray) (i : Nat) (h : i < s.size) : s.data.toList.take (i + 1) = s.data.toList.take i ++ [s.data.toList.getD i 0] := by
  have hk : i < s.data.toList.length := by rw [size_list]; exact h
  rw [List.take_add_one, List.getElem?_eq_getElem hk, List.getD_eq_getElem?_getD, List.getElem?_eq_getElem hk]
  rfl
theorem ext_take (s : ByteArray) (i : Nat) : s.extract 0 i = bs (s.data.toList.take i) := by
  rw [← bs_back (s.extract 0 i)]
  congr 1
  rw [ByteArray.data_extract, Array.toList_extract]
  simp [List.extract]
theorem slice_to (s : ByteArray) (i : Nat) (h : i ≤ s.size) (wx : World) : (Instr.slice 9 (.string s) none (some (.int .i64 (i : Int))) none).run Try.prog wx = .ok (.string (bs (s.data.toList.take i))) wx := by
  rw [← ext_take s i, run_slice_string_h wx 9 s Try.underlying9 .i64 (i : Int) (by omega) (by omega)]
  rfl
set_option maxRecDepth 100000 in
set_option maxHeartbeats 1000000 in
theorem Width_any (i tr : Nat) (w : World) (hi : i < 5) (ht : tr < 256) : Calls Try.prog 37 #[.int .i64 (i : Int), .int .i64 (tr : Int)] w fun e w' => e = .returned (.int .i64 ((wd i tr : Nat) : Int)) ∧ w = w' := by
  obtain ⟨PP, hPP⟩ : ∃ PP, PP = wd i tr := ⟨_, rfl⟩
  rw [← hPP]
  unfold wd at hPP
  by_cases h3 : i = 3
  · subst h3
    obtain rfl : PP = 4 := by rw [hPP]; rfl
    clear hPP hi ht
    go_enter Try.func37, Try.ntmps37
    go_wp2
    go_ret
    exact ⟨rfl, rfl⟩
  · have n3 : (((i : Nat) : Int) == 3) = false := by simp; omega
    rw [if_neg h3] at hPP
    by_cases h4 : i = 4
    · subst h4
      by_cases h0 : tr = 0
      · subst h0
        obtain rfl : PP = 30 := by rw [hPP]; rfl
        clear hPP hi ht h3 n3
        go_enter Try.func37, Try.ntmps37
        go_wp2
        go_ret
        exact ⟨rfl, rfl⟩
      · obtain rfl : PP = 28 := by rw [hPP, if_pos ⟨rfl, h0⟩]
        have n0 : (((tr : Nat) : Int) == 0) = false := by simp; omega
        generalize ((tr : Nat) : Int) = T at *
        clear hPP hi ht h3 n3 h0
        go_enter Try.func37, Try.ntmps37
        go_wp2
        go_ret
        exact ⟨rfl, rfl⟩
    · obtain rfl : PP = 30 := by rw [hPP, if_neg (fun h => h4 h.1)]
      have n4 : (((i : Nat) : Int) == 4) = false := by simp; omega
      generalize ((i : Nat) : Int) = I at *
      generalize ((tr : Nat) : Int) = T at *
      clear hPP hi ht h3 h4
      go_enter Try.func37, Try.ntmps37
      go_wp2
      go_ret
      exact ⟨rfl, rfl⟩
set_option maxRecDepth 100000 in
set_option maxHeartbeats 2000000 in
theorem Cut_any (s : ByteArray) (w : World) (hs : s.size ≤ 4000) : Calls Try.prog 38 #[.string s] w fun e w' => e = .returned (.string (bs (cutL s.data.toList))) ∧ w = w' := by
  obtain ⟨R, hR⟩ : ∃ R, R = cutL s.data.toList := ⟨_, rfl⟩
  rw [← hR]
  have HR := Lib.hid hR
  have s0 : (s.size : Int) ≤ 4000 := by omega
  clear hR
  go_enter Try.func38, Try.ntmps38
  go_wp2_with fail
  go_loopw [3] (fun i wr => ∃ (j : Nat), j ≤ s.size ∧ i = .int .i64 j ∧ Hid (s.data.toList.take j ++ cutL (s.data.toList.drop j) = R) ∧ w = wr) (fun i _ => s.size - (RowKit.intOf i).toNat)
  case atStart => exact ⟨0, by omega, rfl, Lib.hid (by rw [HR.out]; simp), rfl⟩
  case round =>
    obtain ⟨j, hj, rfl, ho, rfl⟩ := hrel
    by_cases hlt : j < s.size
    · have j0 : (0 : Int) ≤ (j : Int) := by omega
      have j1 : (j : Int) < (s.size : Int) := by omega
      have x2 := fun wx => index_bt s j hlt wx
      have hca := Lib.hid (cut_at s j hlt)
      have e2 : IntKind.i64.wrap ((j : Int) + 1) = (j : Int) + 1 := wrap64 (by omega) (by omega)
      by_cases hz : bt s j = 0
      · have x3 := fun wx => slice_to s j (by omega) wx
        have hr : s.data.toList.take j = R := by rw [← ho.out, hca.out, if_pos hz]; simp
        rw [hr] at x3
        rw [hz] at x2
        clear hz hca hr
        go_wp2_with fail
        go_ret
        exact ⟨rfl, rfl⟩
      · have n1 : (((bt s j : Nat) : Int) == 0) = false := by simp; omega
        have HO2 : Hid (s.data.toList.take (j + 1) ++ cutL (s.data.toList.drop (j + 1)) = R) := Lib.hid (by rw [← ho.out, hca.out, if_neg hz, take_at s j hlt]; simp)
        generalize ((bt s j : Nat) : Int) = B at *
        clear hz hca
        go_wp2_with fail
        go_roundw
        case rel => exact ⟨j + 1, by omega, by go_num, HO2, trivial⟩
        case measure => simp [RowKit.intOf]; omega
    · obtain rfl : j = s.size := by omega
      have hr : bs R = s := by rw [← ho.out, drop_end s s.size (Nat.le_refl _), List.take_of_length_le (by rw [size_list]; omega)]; simp only [cutL, List.takeWhile_nil, List.append_nil]; exact bs_back s
      go_wp2_with fail
      go_ret
      exact ⟨by rw [hr]; rfl, rfl⟩
end Go.Proofs.Ytidlkkhmmgkicaa.ta
