/- Several texts in one. -/
import Derived.Test.YtbgbgigpcegenaaGreatDoorCh1
import Derived.Test.YtbgbgigpcegenaaGreatDoorZ19
import Derived.Test.YtbgbgigpcegenaaGreatDoorZ26
import Derived.BigQuiet
import Derived.Deep.QuietTactic
import Derived.OrdersHeld
import Derived.Deep.RegionHeld
import Derived.Deep.RegionHeld3
import Derived.Deep.DeepCutAuto
namespace Go.Proofs.YtbgbgigpcegenaaGreatDoor.ch
open Go.RowKit Go.Lib
set_option linter.unusedVariables false
/-- What the document's Decode answers. -/
def DcP (c : Int) (s : ByteArray) (w : World) : Ending → World → Prop := fun e w' => e = .returned (.tuple #[.string (dcT c s), .int .i64 (dcE c s), .int .i64 (dcA c s)]) ∧ Below w.heap.size w w'
theorem dcP {c : Int} {s : ByteArray} {w w' : World} {T : ByteArray} {E A : Int} (h1 : dcT c s = T) (h2 : dcE c s = E) (h3 : dcA c s = A) (hb : Below w.heap.size w w') : DcP c s w (.returned (.tuple #[.string T, .int .i64 E, .int .i64 A])) w' := ⟨by rw [h1, h2, h3], hb⟩
theorem dc_none {c : Int} {s : ByteArray} (hc : ¬ inC c) : dcT c s = ⟨#[]⟩ ∧ dcE c s = 5 ∧ dcA c s = 0 := by
  unfold dcT dcE dcA
  rw [if_neg (fun h => hc h.1), if_neg hc, if_neg hc]
  exact ⟨rfl, rfl, rfl⟩
theorem dok {c : Int} {s : ByteArray} (hc : inC c) (h : (dz c s).2 = none) : dcT c s = pt.txt (dz c s).1 ∧ dcE c s = 0 ∧ dcA c s = 0 := by
  unfold dcT dcE dcA
  rw [if_pos ⟨hc, h⟩, if_pos hc, if_pos hc, if_pos h, h]
  exact ⟨rfl, rfl, rfl⟩
theorem dbad {c : Int} {s : ByteArray} {p : Nat} (hc : inC c) (h : (dz c s).2 = some p) : dcT c s = ⟨#[]⟩ ∧ dcE c s = 2 ∧ dcA c s = (p : Int) := by
  unfold dcT dcE dcA
  rw [if_neg (by rw [h]; simp), if_pos hc, if_pos hc, if_neg (by rw [h]; simp), h]
  exact ⟨rfl, rfl, rfl⟩
set_option maxRecDepth 100000 in
set_option maxHeartbeats 2000000 in
theorem ref_out (c : Int) (s : ByteArray) (w : World) (h : c < 0 ∨ 9 < c) : Calls Tryz.prog 7 #[.int .i64 c, .string s] w (DcP c s w) := by
  obtain ⟨PP, hPP⟩ : ∃ PP, PP = DcP c s w := ⟨_, rfl⟩
  rw [← hPP]
  obtain ⟨e1, e2, e3⟩ := dc_none (s := s) (show ¬ inC c from fun hc => by unfold inC at hc; omega)
  have HF : Hid (PP (.returned (.tuple #[.string ⟨#[]⟩, .int .i64 5, .int .i64 0])) w) := Lib.hid (by rw [hPP]; exact dcP e1 e2 e3 (Below.refl _ _))
  clear hPP e1 e2 e3
  have hh : c < 0 ∨ (¬ c < 0 ∧ 9 < c) := by omega
  clear h
  rcases hh with h | ⟨h, h2⟩
  all_goals
    go_enter Tryz.func7, Tryz.ntmps7
    go_wp2_with fail
    first | exact HF.out | (go_ret3; exact HF.out)
set_option maxRecDepth 100000 in
set_option maxHeartbeats 2000000 in
theorem ref_one (c : Int) (s : ByteArray) (w : World) (h0 : 0 ≤ c) (h3 : c ≤ 3) (hs : s.size ≤ 4000) : Calls Tryz.prog 7 #[.int .i64 c, .string s] w (DcP c s w) := by
  obtain ⟨PP, hPP⟩ : ∃ PP, PP = DcP c s w := ⟨_, rfl⟩
  rw [← hPP]
  have hz : dz c s = (sg.sdec c s.data.toList, none) := if_pos h3
  obtain ⟨e1, e2, e3⟩ := dok (show inC c from ⟨h0, by omega⟩) (by rw [hz])
  rw [hz] at e1
  have HC := Lib.hid (fun W => sg.refDecode_any c s W h0 h3 (by omega))
  have HF : Hid (∀ W', Below w.heap.size w W' → PP (.returned (.tuple #[.string (pt.txt (sg.sdec c s.data.toList)), .int .i64 0, .int .i64 0])) W') := Lib.hid (fun W' hb => by rw [hPP]; exact dcP e1 e2 e3 hb)
  generalize pt.txt (sg.sdec c s.data.toList) = T at *
  have n0 : ¬ c < 0 := by omega
  have n1 : ¬ 9 < c := by omega
  clear hPP e1 e2 e3 hz
  go_enter Tryz.func7, Tryz.ntmps7
  go_wp2_with (go_at_call 13; refine (HC.out _).mono ?_; rintro e1 w1 ⟨rfl, hb1⟩)
  first | exact HF.out _ hb1 | (go_ret3; exact HF.out _ hb1)
set_option maxRecDepth 100000 in
set_option maxHeartbeats 2000000 in
theorem ref_wide (c : Int) (s : ByteArray) (w : World) (h0 : 8 ≤ c) (h3 : c ≤ 9) (hs : s.size ≤ 4000) : Calls Tryz.prog 7 #[.int .i64 c, .string s] w (DcP c s w) := by
  obtain ⟨PP, hPP⟩ : ∃ PP, PP = DcP c s w := ⟨_, rfl⟩
  rw [← hPP]
  have hz : dz c s = wd.wscan s (c == 9) := by unfold dz; rw [if_neg (by omega), if_neg (by omega), if_pos h0]
  have hin : inC c := ⟨by omega, h3⟩
  have HC := Lib.hid (fun W => wd.refDecode_any s (c == 9) W (by omega))
  have n0 : ¬ c < 0 := by omega
  have n1 : ¬ 9 < c := by omega
  have n2 : ¬ c ≤ 3 := by omega
  cases hw : (wd.wscan s (c == 9)).2 with
  | none =>
    obtain ⟨e1, e2, e3⟩ := dok (s := s) hin (by rw [hz]; exact hw)
    rw [hz] at e1
    have hT : wd.wt (wd.wscan s (c == 9)) = pt.txt (wd.wscan s (c == 9)).1 := by unfold wd.wt; rw [hw]; rfl
    rw [hT, hw] at HC
    unfold wd.rat at HC
    have HF : Hid (∀ W', Below w.heap.size w W' → PP (.returned (.tuple #[.string (pt.txt (wd.wscan s (c == 9)).1), .int .i64 0, .int .i64 0])) W') := Lib.hid (fun W' hb => by rw [hPP]; exact dcP e1 e2 e3 hb)
    generalize pt.txt (wd.wscan s (c == 9)).1 = T at *
    clear hPP e1 e2 e3 hz hT hw hin
    go_enter Tryz.func7, Tryz.ntmps7
    go_wp2_with (go_at_call 14; refine (HC.out _).mono ?_; rintro e1 w1 ⟨rfl, hb1⟩)
    first | exact HF.out _ hb1 | (go_ret3; exact HF.out _ hb1)
  | some p =>
    obtain ⟨e1, e2, e3⟩ := dbad (s := s) hin (by rw [hz]; exact hw)
    have hT : wd.wt (wd.wscan s (c == 9)) = ⟨#[]⟩ := by unfold wd.wt; rw [hw]; rfl
    rw [hT, hw] at HC
    unfold wd.rat at HC
    have HF : Hid (∀ W', Below w.heap.size w W' → PP (.returned (.tuple #[.string ⟨#[]⟩, .int .i64 2, .int .i64 (p : Int)])) W') := Lib.hid (fun W' hb => by rw [hPP]; exact dcP e1 e2 e3 hb)
    have p0 : (0 : Int) ≤ (p : Int) := by omega
    clear hPP e1 e2 e3 hz hT hw hin
    go_enter Tryz.func7, Tryz.ntmps7
    go_wp2_with (go_at_call 14; refine (HC.out _).mono ?_; rintro e1 w1 ⟨rfl, hb1⟩)
    first | exact HF.out _ hb1 | (go_ret3; exact HF.out _ hb1)
set_option maxRecDepth 100000 in
set_option maxHeartbeats 2000000 in
theorem ref_utf (s : ByteArray) (w : World) (hs : s.size ≤ 4000) : Calls Tryz.prog 7 #[.int .i64 7, .string s] w (DcP 7 s w) := by
  obtain ⟨PP, hPP⟩ : ∃ PP, PP = DcP 7 s w := ⟨_, rfl⟩
  rw [← hPP]
  have hz : dz 7 s = (pt.zsOf s, (pt.scan s).2) := by unfold dz; rw [if_neg (by omega), if_pos rfl]
  have hin : inC 7 := ⟨by omega, by omega⟩
  cases hw : (pt.scan s).2 with
  | none =>
    obtain ⟨e1, e2, e3⟩ := dok (s := s) hin (by rw [hz]; exact hw)
    rw [hz] at e1
    have e1' : dcT 7 s = s := by rw [e1]; exact pt.txt_back s hw
    have HC := Lib.hid (fun W => pt.refPoints_row s _ W hs hw rfl)
    have HF : Hid (∀ W', Below w.heap.size w W' → PP (.returned (.tuple #[.string s, .int .i64 0, .int .i64 0])) W') := Lib.hid (fun W' hb => by rw [hPP]; exact dcP e1' e2 e3 hb)
    clear hPP e1 e1' e2 e3 hz hw hin
    go_enter Tryz.func7, Tryz.ntmps7
    go_wp2_with (go_at_call 15; refine (HC.out _).mono ?_; rintro e1 w1 ⟨p1, c1, rfl, _, hb1⟩)
    first | exact HF.out _ hb1 | (go_ret3; exact HF.out _ hb1)
  | some p =>
    obtain ⟨e1, e2, e3⟩ := dbad (s := s) hin (by rw [hz]; exact hw)
    have HC := Lib.hid (fun W => pt.refPoints_none s p W hs hw)
    have HF : Hid (∀ W', Below w.heap.size w W' → PP (.returned (.tuple #[.string ⟨#[]⟩, .int .i64 2, .int .i64 (p : Int)])) W') := Lib.hid (fun W' hb => by rw [hPP]; exact dcP e1 e2 e3 hb)
    have p0 : (0 : Int) ≤ (p : Int) := by omega
    clear hPP e1 e2 e3 hz hw hin
    go_enter Tryz.func7, Tryz.ntmps7
    go_wp2_with (go_at_call 15; refine (HC.out _).mono ?_; rintro e1 w1 ⟨rfl, hb1⟩)
    first | exact HF.out _ hb1 | (go_ret3; exact HF.out _ hb1)
end Go.Proofs.YtbgbgigpcegenaaGreatDoor.ch
namespace Go.Proofs.YtbgbgigpcegenaaGreatDoor.ch
open Go.RowKit Go.Lib
set_option linter.unusedVariables false
theorem one_piece (s : ByteArray) (i : Nat) (hi : i < s.size) (hl : bt s i < 128) (w : World) : (Instr.slice 9 (.string s) (some (.int .i64 (i : Int))) (some (.int .i64 ((i : Int) + 1))) none).run Tryz.prog w = .ok (.string (strOfNums (encodeRuneZ ((bt s i : Nat) : Int)))) w := by
  rw [run_slice_string w 9 s .i64 .i64 (i : Int) ((i : Int) + 1) Tryz.underlying9 (by omega) (by omega) (by omega)]
  have e : s.extract (i : Int).toNat ((i : Int) + 1).toNat = strOfNums (encodeRuneZ ((bt s i : Nat) : Int)) := by
    have e2 : encodeRuneZ ((bt s i : Nat) : Int) = [((bt s i : Nat) : Int)] := by unfold encodeRuneZ; rw [if_pos (by omega)]
    rw [e2]
    apply ByteArray.ext
    apply Array.ext'
    rw [ByteArray.data_extract, Array.toList_extract, List.extract_eq_take_drop, strOfNums_data]
    rw [show (i : Int).toNat = i by omega, show ((i : Int) + 1).toNat - i = 1 by omega]
    have hk : i < s.data.toList.length := by rw [size_list]; exact hi
    rw [List.drop_eq_getElem_cons hk]
    have e3 : bt s i = (s.data.toList[i]).toNat := by unfold bt; rw [List.getD_eq_getElem?_getD, List.getElem?_eq_getElem hk]; rfl
    rw [e3]
    simp
  rw [e]
theorem txt_pos {l : List Int} (h : l ≠ []) : (pt.txt l).size ≠ 0 := by
  rw [pt.txt_size]
  cases l with
  | nil => exact absurd rfl h
  | cons x l =>
    have := (encodeRuneZ_length x).1
    have e : pt.nums (x :: l) = encodeRuneZ x ++ pt.nums l := by simp [pt.nums]
    rw [e, List.length_append]
    omega
theorem str_ne {s : ByteArray} (h : s.size ≠ 0) : ¬ s.toList = [] ∧ s.toList.isEmpty = false := by
  have m1 : ¬ s.toList = [] := fun e => by
    rw [ByteArray.toList_eq] at e
    apply h
    have : s.data.toList.length = 0 := by rw [e]; rfl
    rwa [size_list] at this
  exact ⟨m1, by rw [Bool.eq_false_iff]; intro e; exact m1 (List.isEmpty_iff.1 e)⟩
theorem txt_app (a b : List Int) : pt.txt a ++ pt.txt b = pt.txt (a ++ b) := by
  apply ByteArray.ext
  apply Array.ext'
  show (pt.txt a ++ pt.txt b).data.toList = (pt.txt (a ++ b)).data.toList
  rw [pt.data_app, pt.txt_data, pt.txt_data, pt.txt_data]
  simp [pt.nums]
set_option maxRecDepth 100000 in
set_option maxHeartbeats 8000000 in
theorem ref_two (c : Int) (s : ByteArray) (w : World) (hc : c = 4 ∨ c = 5 ∨ c = 6) (hs : s.size ≤ 4000) : Calls Tryz.prog 7 #[.int .i64 c, .string s] w (DcP c s w) := by
  obtain ⟨PP, hPP⟩ : ∃ PP, PP = DcP c s w := ⟨_, rfl⟩
  rw [← hPP]
  have hz : dz c s = tb c s s.size 0 := by unfold dz; rw [if_neg (by omega), if_neg (by omega), if_neg (by omega)]
  have hin : inC c := ⟨by omega, by omega⟩
  obtain ⟨L, hL⟩ : ∃ L, L = (tb c s s.size 0).1 := ⟨_, rfl⟩
  obtain ⟨D, hD⟩ : ∃ D, D = (tb c s s.size 0).2 := ⟨_, rfl⟩
  have HOK : Hid (∀ W', D = none → Below w.heap.size w W' → PP (.returned (.tuple #[.string (pt.txt L), .int .i64 0, .int .i64 0])) W') := Lib.hid (fun W' hd hb => by
    rw [hPP]
    obtain ⟨e1, e2, e3⟩ := dok (s := s) hin (by rw [hz, ← hD]; exact hd)
    rw [hz, ← hL] at e1
    exact dcP e1 e2 e3 hb)
  have HBAD : Hid (∀ W' (p : Nat), D = some p → Below w.heap.size w W' → PP (.returned (.tuple #[.string ⟨#[]⟩, .int .i64 2, .int .i64 (p : Int)])) W') := Lib.hid (fun W' p hd hb => by
    rw [hPP]
    obtain ⟨e1, e2, e3⟩ := dbad (s := s) (p := p) hin (by rw [hz, ← hD]; exact hd)
    exact dcP e1 e2 e3 hb)
  have HLD : Hid (tb c s s.size 0 = (L, D)) := Lib.hid (by rw [hL, hD])
  have HSG := Lib.hid (fun l b W hl hb => signs_any c l b W hc hl hb)
  have n0 : ¬ c < 0 := by omega
  have n1 : ¬ 9 < c := by omega
  have n2 : ¬ c ≤ 3 := by omega
  have n3 : ¬ 8 ≤ c := by omega
  have n4 : ¬ c = 7 := by omega
  clear hPP hz hin hL hD hc
  go_enter Tryz.func7, Tryz.ntmps7
  go_wp2_with fail
  go_loopw [11, 12] (fun t i wr => ∃ (pos f : Nat) (Z : List Int), pos ≤ s.size ∧ s.size ≤ pos + f ∧ i = .int .i64 pos ∧ t = .string (pt.txt Z) ∧ Z.length ≤ pos ∧ Hid (Z ++ (tb c s f pos).1 = L ∧ (tb c s f pos).2 = D) ∧ Below w.heap.size w wr) (fun _ i _ => s.size - (RowKit.intOf i).toNat)
  case atStart => exact ⟨0, s.size, [], Nat.zero_le _, by omega, rfl, by rfl, by simp, Lib.hid (by rw [HLD.out]; exact ⟨rfl, rfl⟩), Below.refl _ _⟩
  case round =>
    obtain ⟨pos, f, Z, hp, hf, rfl, rfl, hZ, HT, hB⟩ := hrel
    have HB := Lib.hid hB
    clear hB
    by_cases hlt : pos < s.size
    · obtain ⟨f1, rfl⟩ : ∃ f1, f = f1 + 1 := ⟨f - 1, by omega⟩
      have hix := fun wx => index_bt s pos hlt wx
      have htm := txt_most Z
      by_cases hl : bt s pos < 128
      · have hsl := fun wx => one_piece s pos hlt hl wx
        have HN : Hid (pt.txt Z ++ strOfNums (encodeRuneZ ((bt s pos : Nat) : Int)) = pt.txt (Z ++ [((bt s pos : Nat) : Int)])) := Lib.hid (sg.txt_snoc Z _)
        have HT2 : Hid ((Z ++ [((bt s pos : Nat) : Int)]) ++ (tb c s f1 (pos + 1)).1 = L ∧ (tb c s f1 (pos + 1)).2 = D) := Lib.hid (by
          have h := HT.out
          rw [tb_low c s f1 pos hlt hl] at h
          rw [List.append_assoc]
          exact h)
        have hone : (strOfNums (encodeRuneZ ((bt s pos : Nat) : Int))).size ≤ 4 := by rw [strOfNums_size]; exact (encodeRuneZ_length _).2
        have k0 : ((bt s pos : Nat) : Int) < 128 := by omega
        generalize strOfNums (encodeRuneZ ((bt s pos : Nat) : Int)) = O at *
        generalize ((bt s pos : Nat) : Int) = B at *
        have o1 : ¬ 9223372036854775807 < (pt.txt Z).size + O.size := by omega
        generalize pt.txt Z = TZ at *
        clear hl hone HT
        go_wp2_with fail
        go_roundw
        case rel => exact ⟨pos + 1, f1, Z ++ [B], by omega, by omega, by go_num, by rw [HN.out], by simp; omega, HT2, HB.out⟩
        case measure => simp [RowKit.intOf]; omega
      · have k0 : ¬ ((bt s pos : Nat) : Int) < 128 := by omega
        by_cases h2 : pos + 1 < s.size
        · have hix2 : ∀ wx, (Instr.index 9 (.string s) (.int .i64 ((pos : Int) + 1))).run Tryz.prog wx = .ok (.int .u8 ((bt s (pos + 1) : Nat) : Int)) wx := fun wx => index_bt s (pos + 1) h2 wx
          have q2 : (pos : Int) + 1 < (s.size : Int) := by omega
          have HS := Lib.hid (fun W => HSG.out (bt s pos) (bt s (pos + 1)) W (bt_lt _ _) (bt_lt _ _))
          unfold S2P at HS
          have w1 : IntKind.i64.wrap ((bt s pos : Nat) : Int) = ((bt s pos : Nat) : Int) := by have := bt_lt s pos; simp [IntKind.wrap, IntKind.bits, IntKind.signed]; omega
          have w2 : IntKind.i64.wrap ((bt s (pos + 1) : Nat) : Int) = ((bt s (pos + 1) : Nat) : Int) := by have := bt_lt s (pos + 1); simp [IntKind.wrap, IntKind.bits, IntKind.signed]; omega
          have w3 : IntKind.i64.wrap ((pos : Int) + 1) = (pos : Int) + 1 := by simp [IntKind.wrap, IntKind.bits, IntKind.signed]; omega
          have b0 : (0 : Int) ≤ ((bt s pos : Nat) : Int) := by omega
          have b1 : (0 : Int) ≤ ((bt s (pos + 1) : Nat) : Int) := by omega
          by_cases hz : sg2 c (bt s pos) (bt s (pos + 1)) = []
          · have HV : s2T c (bt s pos) (bt s (pos + 1)) = ⟨#[]⟩ := by unfold s2T; rw [hz]; rfl
            rw [HV] at HS
            have HDD : Hid (D = some pos) := Lib.hid (by
              have h := HT.out
              rw [tb_bad c s f1 pos hlt hl (fun h => h.2 hz)] at h
              exact h.2.symm)
            generalize ((bt s pos : Nat) : Int) = B0 at *
            generalize ((bt s (pos + 1) : Nat) : Int) = B1 at *
            clear hz HV hl HT htm
            go_wp2_with fail
            go_region_held3 (fun _ => True) (trivial) (first | (go_at_call 16; refine (HS.out _).mono ?_; rintro e1 w1 ⟨rfl, hb1⟩; have B9 := Lib.hid (((HB.out.drew)).trans (hb1.mono HB.out.size)); clear hb1))
            all_goals go_wp2_with fail
            all_goals (go_ret3; exact HBAD.out _ _ HDD.out B9.out)
          · have hne := str_ne (s := s2T c (bt s pos) (bt s (pos + 1))) (by unfold s2T; exact txt_pos (by simpa using hz))
            have hsz2 : (s2T c (bt s pos) (bt s (pos + 1))).size ≤ 8 := by
              unfold s2T
              have h1 := txt_most ((sg2 c (bt s pos) (bt s (pos + 1))).map Int.ofNat)
              have h3 := sg2_len c (bt s pos) (bt s (pos + 1))
              rw [List.length_map] at h1
              omega
            have HN : Hid (pt.txt Z ++ s2T c (bt s pos) (bt s (pos + 1)) = pt.txt (Z ++ (sg2 c (bt s pos) (bt s (pos + 1))).map Int.ofNat)) := Lib.hid (txt_app _ _)
            have HZL : Hid ((Z ++ (sg2 c (bt s pos) (bt s (pos + 1))).map Int.ofNat).length ≤ pos + 2) := Lib.hid (by
              have h3 := sg2_len c (bt s pos) (bt s (pos + 1))
              rw [List.length_append, List.length_map]; omega)
            have HT2 : Hid ((Z ++ (sg2 c (bt s pos) (bt s (pos + 1))).map Int.ofNat) ++ (tb c s f1 (pos + 2)).1 = L ∧ (tb c s f1 (pos + 2)).2 = D) := Lib.hid (by
              have h := HT.out
              rw [tb_two c s f1 pos hlt hl ⟨h2, hz⟩] at h
              rw [List.append_assoc]
              exact h)
            generalize (sg2 c (bt s pos) (bt s (pos + 1))).map Int.ofNat = M at *
            generalize s2T c (bt s pos) (bt s (pos + 1)) = T at *
            generalize ((bt s pos : Nat) : Int) = B0 at *
            generalize ((bt s (pos + 1) : Nat) : Int) = B1 at *
            have o1 : ¬ 9223372036854775807 < (pt.txt Z).size + T.size := by omega
            obtain ⟨m1, m2⟩ := hne
            generalize pt.txt Z = TZ at *
            clear hz hl HT htm
            go_wp2_with fail
            go_region_held3 (fun _ => True) (trivial) (first | (go_at_call 16; refine (HS.out _).mono ?_; rintro e1 w1 ⟨rfl, hb1⟩; have B9 := Lib.hid (((HB.out.drew)).trans (hb1.mono HB.out.size)); clear hb1))
            all_goals go_wp2_with fail
            all_goals (
              go_roundw
              case rel => exact ⟨pos + 2, f1, Z ++ M, by omega, by omega, by go_num, by rw [HN.out], HZL.out, HT2, B9.out⟩
              case measure => simp [RowKit.intOf]; omega)
        · have q2 : ¬ (pos : Int) + 1 < (s.size : Int) := by omega
          have HDD : Hid (D = some pos) := Lib.hid (by
            have h := HT.out
            rw [tb_bad c s f1 pos hlt hl (fun h => h2 h.1)] at h
            exact h.2.symm)
          generalize ((bt s pos : Nat) : Int) = B0 at *
          clear hl HT htm
          go_wp2_with fail
          go_ret3; exact HBAD.out _ _ HDD.out HB.out
    · have HDD : Hid (Z = L ∧ D = none) := Lib.hid (by
        have h := HT.out
        rw [tb_end c s f pos hlt, List.append_nil] at h
        exact ⟨h.1, h.2.symm⟩)
      obtain ⟨rfl, hd⟩ := HDD.out
      have HD := Lib.hid hd
      clear hd HDD HT
      go_wp2_with fail
      go_ret3; exact HOK.out _ HD.out HB.out
theorem refDecode9_any (c : Int) (s : ByteArray) (w : World) (hs : s.size ≤ 4000) : Calls Tryz.prog 7 #[.int .i64 c, .string s] w (DcP c s w) := by
  by_cases h1 : c < 0 ∨ 9 < c
  · exact ref_out c s w h1
  by_cases h2 : c ≤ 3
  · exact ref_one c s w (by omega) h2 hs
  by_cases h3 : 8 ≤ c
  · exact ref_wide c s w h3 (by omega) hs
  by_cases h4 : c = 7
  · subst h4; exact ref_utf s w hs
  · exact ref_two c s w (by omega) hs
end Go.Proofs.YtbgbgigpcegenaaGreatDoor.ch
