/- Several texts in one. -/
import Derived.Test.YtiigknimfibdpaaGreatDoorCh1
import Derived.Test.YtiigknimfibdpaaGreatDoorZ19
import Derived.Test.YtiigknimfibdpaaGreatDoorZ26
import Derived.BigQuiet
import Derived.Deep.QuietTactic
import Derived.OrdersHeld
import Derived.Deep.RegionHeld
import Derived.Deep.RegionHeld3
import Derived.Deep.DeepCutAuto
namespace Go.Proofs.YtiigknimfibdpaaGreatDoor.ch
open Go.RowKit Go.Lib
set_option linter.unusedVariables false
/-- What the document's Decode answers. -/
def DcP (c : Int) (s : ByteArray) (w : World) : Ending → World → Prop := fun e w' => e = .returned (.tuple #[.string (dcT c s), .int .i64 (dcE c s), .int .i64 (dcA c s)]) ∧ Below w.heap.size w w'
theorem dcP {c : Int} {s : ByteArray} {w w' : World} {T : ByteArray} {E A : Int} (h1 : dcT c s = T) (h2 : dcE c s = E) (h3 : dcA c s = A) (hb : Below w.heap.size w w') : DcP c s w (.returned (.tuple #[.string T, .int .i64 E, .int .i64 A])) w' := ⟨by rw [h1, h2, h3], hb⟩
theorem dc_none {c : Int} {s : ByteArray} (hc : ¬ inC c) : dcT c s = ⟨#[]⟩ ∧ dcE c s = 5 ∧ dcA c s = 0 := by
  unfold dcT dcE dcA
  rw [if_neg (fun h => hc h.1), if_neg hc, if_neg hc]
  exact ⟨rfl, rfl, rfl⟩
theorem dok {c : Int} {s : ByteArray} (hc : inC c) (h : (dz c s).2 = none) : dcT c s = pt.txt (dz c s).1 ∧ dcE c s = 0 ∧ dcA c s = 0 := by
  unfold dcT dcE dcA
  rw [if_pos ⟨hc, h⟩, if_pos hc, if_pos hc, if_pos h, h]
  exact ⟨rfl, rfl, rfl⟩
theorem dbad {c : Int} {s : ByteArray} {p : Nat} (hc : inC c) (h : (dz c s).2 = some p) : dcT c s = ⟨#[]⟩ ∧ dcE c s = 2 ∧ dcA c s = (p : Int) := by
  unfold dcT dcE dcA
  rw [if_neg (by rw [h]; simp), if_pos hc, if_pos hc, if_neg (by rw [h]; simp), h]
  exact ⟨rfl, rfl, rfl⟩
set_option maxRecDepth 100000 in
set_option maxHeartbeats 2000000 in
theorem ref_out (c : Int) (s : ByteArray) (w : World) (h : c < 0 ∨ 9 < c) : Calls Tryz.prog 20 #[.int .i64 c, .string s] w (DcP c s w) := by
  obtain ⟨PP, hPP⟩ : ∃ PP, PP = DcP c s w := ⟨_, rfl⟩
  rw [← hPP]
  obtain ⟨e1, e2, e3⟩ := dc_none (s := s) (show ¬ inC c from fun hc => by unfold inC at hc; omega)
  have HF : Hid (PP (.returned (.tuple #[.string ⟨#[]⟩, .int .i64 5, .int .i64 0])) w) := Lib.hid (by rw [hPP]; exact dcP e1 e2 e3 (Below.refl _ _))
  clear hPP e1 e2 e3
  have hh : c < 0 ∨ (¬ c < 0 ∧ 9 < c) := by omega
  clear h
  rcases hh with h | ⟨h, h2⟩
  all_goals
    go_enter Tryz.func20, Tryz.ntmps20
    go_wp2_with fail
    first | exact HF.out | (go_ret3; exact HF.out)
set_option maxRecDepth 100000 in
set_option maxHeartbeats 2000000 in
theorem ref_one (c : Int) (s : ByteArray) (w : World) (h0 : 0 ≤ c) (h3 : c ≤ 3) (hs : s.size ≤ 4000) : Calls Tryz.prog 20 #[.int .i64 c, .string s] w (DcP c s w) := by
  obtain ⟨PP, hPP⟩ : ∃ PP, PP = DcP c s w := ⟨_, rfl⟩
  rw [← hPP]
  have hz : dz c s = (sg.sdec c s.data.toList, none) := if_pos h3
  obtain ⟨e1, e2, e3⟩ := dok (show inC c from ⟨h0, by omega⟩) (by rw [hz])
  rw [hz] at e1
  have HC := Lib.hid (fun W => sg.refDecode_any c s W h0 h3 (by omega))
  have HF : Hid (∀ W', Below w.heap.size w W' → PP (.returned (.tuple #[.string (pt.txt (sg.sdec c s.data.toList)), .int .i64 0, .int .i64 0])) W') := Lib.hid (fun W' hb => by rw [hPP]; exact dcP e1 e2 e3 hb)
  generalize pt.txt (sg.sdec c s.data.toList) = T at *
  have n0 : ¬ c < 0 := by omega
  have n1 : ¬ 9 < c := by omega
  clear hPP e1 e2 e3 hz
  go_enter Tryz.func20, Tryz.ntmps20
  go_wp2_with (go_at_call 34; refine (HC.out _).mono ?_; rintro e1 w1 ⟨rfl, hb1⟩)
  first | exact HF.out _ hb1 | (go_ret3; exact HF.out _ hb1)
set_option maxRecDepth 100000 in
set_option maxHeartbeats 2000000 in
theorem ref_wide (c : Int) (s : ByteArray) (w : World) (h0 : 8 ≤ c) (h3 : c ≤ 9) (hs : s.size ≤ 4000) : Calls Tryz.prog 20 #[.int .i64 c, .string s] w (DcP c s w) := by
  obtain ⟨PP, hPP⟩ : ∃ PP, PP = DcP c s w := ⟨_, rfl⟩
  rw [← hPP]
  have hz : dz c s = wd.wscan s (c == 9) := by unfold dz; rw [if_neg (by omega), if_neg (by omega), if_pos h0]
  have hin : inC c := ⟨by omega, h3⟩
  have HC := Lib.hid (fun W => wd.refDecode_any s (c == 9) W (by omega))
  have n0 : ¬ c < 0 := by omega
  have n1 : ¬ 9 < c := by omega
  have n2 : ¬ c ≤ 3 := by omega
  cases hw : (wd.wscan s (c == 9)).2 with
  | none =>
    obtain ⟨e1, e2, e3⟩ := dok (s := s) hin (by rw [hz]; exact hw)
    rw [hz] at e1
    have hT : wd.wt (wd.wscan s (c == 9)) = pt.txt (wd.wscan s (c == 9)).1 := by unfold wd.wt; rw [hw]; rfl
    rw [hT, hw] at HC
    unfold wd.rat at HC
    have HF : Hid (∀ W', Below w.heap.size w W' → PP (.returned (.tuple #[.string (pt.txt (wd.wscan s (c == 9)).1), .int .i64 0, .int .i64 0])) W') := Lib.hid (fun W' hb => by rw [hPP]; exact dcP e1 e2 e3 hb)
    generalize pt.txt (wd.wscan s (c == 9)).1 = T at *
    clear hPP e1 e2 e3 hz hT hw hin
    go_enter Tryz.func20, Tryz.ntmps20
    go_wp2_with (go_at_call 35; refine (HC.out _).mono ?_; rintro e1 w1 ⟨rfl, hb1⟩)
    first | exact HF.out _ hb1 | (go_ret3; exact HF.out _ hb1)
  | some p =>
    obtain ⟨e1, e2, e3⟩ := dbad (s := s) hin (by rw [hz]; exact hw)
    have hT : wd.wt (wd.wscan s (c == 9)) = ⟨#[]⟩ := by unfold wd.wt; rw [hw]; rfl
    rw [hT, hw] at HC
    unfold wd.rat at HC
    have HF : Hid (∀ W', Below w.heap.size w W' → PP (.returned (.tuple #[.string ⟨#[]⟩, .int .i64 2, .int .i64 (p : Int)])) W') := Lib.hid (fun W' hb => by rw [hPP]; exact dcP e1 e2 e3 hb)
    have p0 : (0 : Int) ≤ (p : Int) := by omega
    clear hPP e1 e2 e3 hz hT hw hin
    go_enter Tryz.func20, Tryz.ntmps20
    go_wp2_with (go_at_call 35; refine (HC.out _).mono ?_; rintro e1 w1 ⟨rfl, hb1⟩)
    first | exact HF.out _ hb1 | (go_ret3; exact HF.out _ hb1)
set_option maxRecDepth 100000 in
set_option maxHeartbeats 2000000 in
theorem ref_utf (s : ByteArray) (w : World) (hs : s.size ≤ 4000) : Calls Tryz.prog 20 #[.int .i64 7, .string s] w (DcP 7 s w) := by
  obtain ⟨PP, hPP⟩ : ∃ PP, PP = DcP 7 s w := ⟨_, rfl⟩
  rw [← hPP]
  have hz : dz 7 s = (pt.zsOf s, (pt.scan s).2) := by unfold dz; rw [if_neg (by omega), if_pos rfl]
  have hin : inC 7 := ⟨by omega, by omega⟩
  cases hw : (pt.scan s).2 with
  | none =>
    obtain ⟨e1, e2, e3⟩ := dok (s := s) hin (by rw [hz]; exact hw)
    rw [hz] at e1
    have e1' : dcT 7 s = s := by rw [e1]; exact pt.txt_back s hw
    have HC := Lib.hid (fun W => pt.refPoints_row s _ W hs hw rfl)
    have HF : Hid (∀ W', Below w.heap.size w W' → PP (.returned (.tuple #[.string s, .int .i64 0, .int .i64 0])) W') := Lib.hid (fun W' hb => by rw [hPP]; exact dcP e1' e2 e3 hb)
    clear hPP e1 e1' e2 e3 hz hw hin
    go_enter Tryz.func20, Tryz.ntmps20
    go_wp2_with (go_at_call 26; refine (HC.out _).mono ?_; rintro e1 w1 ⟨p1, c1, rfl, _, hb1⟩)
    first | exact HF.out _ hb1 | (go_ret3; exact HF.out _ hb1)
  | some p =>
    obtain ⟨e1, e2, e3⟩ := dbad (s := s) hin (by rw [hz]; exact hw)
    have HC := Lib.hid (fun W => pt.refPoints_none s p W hs hw)
    have HF : Hid (∀ W', Below w.heap.size w W' → PP (.returned (.tuple #[.string ⟨#[]⟩, .int .i64 2, .int .i64 (p : Int)])) W') := Lib.hid (fun W' hb => by rw [hPP]; exact dcP e1 e2 e3 hb)
    have p0 : (0 : Int) ≤ (p : Int) := by omega
    clear hPP e1 e2 e3 hz hw hin
    go_enter Tryz.func20, Tryz.ntmps20
    go_wp2_with (go_at_call 26; refine (HC.out _).mono ?_; rintro e1 w1 ⟨rfl, hb1⟩)
    first | exact HF.out _ hb1 | (go_ret3; exact HF.out _ hb1)
end Go.Proofs.YtiigknimfibdpaaGreatDoor.ch
namespace Go.Proofs.YtiigknimfibdpaaGreatDoor.ch
open Go.RowKit Go.Lib
set_option linter.unusedVariables false
theorem one_piece (s : ByteArray) (i : Nat) (hi : i < s.size) (hl : bt s i < 128) (w : World) : (Instr.slice 9 (.string s) (some (.int .i64 (i : Int))) (some (.int .i64 ((i : Int) + 1))) none).run Tryz.prog w = .ok (.string (strOfNums (encodeRuneZ ((bt s i : Nat) : Int)))) w := by
  rw [run_slice_string w 9 s .i64 .i64 (i : Int) ((i : Int) + 1) Tryz.underlying9 (by omega) (by omega) (by omega)]
  have e : s.extract (i : Int).toNat ((i : Int) + 1).toNat = strOfNums (encodeRuneZ ((bt s i : Nat) : Int)) := by
    have e2 : encodeRuneZ ((bt s i : Nat) : Int) = [((bt s i : Nat) : Int)] := by unfold encodeRuneZ; rw [if_pos (by omega)]
    rw [e2]
    apply ByteArray.ext
    apply Array.ext'
    rw [ByteArray.data_extract, Array.toList_extract, List.extract_eq_take_drop, strOfNums_data]
    rw [show (i : Int).toNat = i by omega, show ((i : Int) + 1).toNat - i = 1 by omega]
    have hk : i < s.data.toList.length := by rw [size_list]; exact hi
    rw [List.drop_eq_getElem_cons hk]
    have e3 : bt s i = (s.data.toList[i]).toNat := by unfold bt; rw [List.getD_eq_getElem?_getD, List.getElem?_eq_getElem hk]; rfl
    rw [e3]
    simp
  rw [e]
theorem txt_pos {l : List Int} (h : l ≠ []) : (pt.txt l).size ≠ 0 := by
  rw [pt.txt_size]
  cases l with
  | nil => exact absurd rfl h
  | cons x l =>
    have := (encodeRuneZ_length x).1
    have e : pt.nums (x :: l) = encodeRuneZ x ++ pt.nums l := by simp [pt.nums]
    rw [e, List.length_append]
    omega
theorem str_ne {s : ByteArray} (h : s.size ≠ 0) : ¬ s.toList = [] ∧ s.toList.isEmpty = false := by
  have m1 : ¬ s.toList = [] := fun e => by
    rw [ByteArray.toList_eq] at e
    apply h
    have : s.data.toList.length = 0 := by rw [e]; rfl
    rwa [size_list] at this
  exact ⟨m1, by rw [Bool.eq_false_iff]; intro e; exact m1 (List.isEmpty_iff.1 e)⟩
theorem txt_app (a b : List Int) : pt.txt a ++ pt.txt b = pt.txt (a ++ b) := by
  apply ByteArray.ext
  apply Array.ext'
  show (pt.txt a ++ pt.txt b).data.toList = (pt.txt (a ++ b)).data.toList
  rw [pt.data_app, pt.txt_data, pt.txt_data, pt.txt_data]
  simp [pt.nums]
set_option maxRecDepth 100000 in
set_option maxHeartbeats 8000000 in
theorem ref_two (c : Int) (s : ByteArray) (w : World) (hc : c = 4 ∨ c = 5 ∨ c = 6) (hs : s.size ≤ 4000) : Calls Tryz.prog 20 #[.int .i64 c, .string s] w (DcP c s w) := by
  obtain ⟨PP, hPP⟩ : ∃ PP, PP = DcP c s w := ⟨_, rfl⟩
  rw [← hPP]
  have hz : dz c s = tb c s s.size 0 := by unfold dz; rw [if_neg (by omega), if_neg (by omega), if_neg (by omega)]
  have hin : inC c := ⟨by omega, by omega⟩
  obtain ⟨L, hL⟩ : ∃ L, L = (tb c s s.size 0).1 := ⟨_, rfl⟩
  obtain ⟨D, hD⟩ : ∃ D, D = (tb c s s.size 0).2 := ⟨_, rfl⟩
  have HOK : Hid (∀ W', D = none → Below w.heap.size w W' → PP (.returned (.tuple #[.string (pt.txt L), .int .i64 0, .int .i64 0])) W') := Lib.hid (fun W' hd hb => by
    rw [hPP]
    obtain ⟨e1, e2, e3⟩ := dok (s := s) hin (by rw [hz, ← hD]; exact hd)
    rw [hz, ← hL] at e1
    exact dcP e1 e2 e3 hb)
  have HBAD : Hid (∀ W' (p : Nat), D = some p → Below w.heap.size w W' → PP (.returned (.tuple #[.string ⟨#[]⟩, .int .i64 2, .int .i64 (p : Int)])) W') := Lib.hid (fun W' p hd hb => by
    rw [hPP]
    obtain ⟨e1, e2, e3⟩ := dbad (s := s) (p := p) hin (by rw [hz, ← hD]; exact hd)
    exact dcP e1 e2 e3 hb)
  have HLD : Hid (tb c s s.size 0 = (L, D)) := Lib.hid (by rw [hL, hD])
  have HSG := Lib.hid (fun l b W hl hb => signs_any c l b W hc hl hb)
  have n0 : ¬ c < 0 := by omega
  have n1 : ¬ 9 < c := by omega
  have n2 : ¬ c ≤ 3 := by omega
  have n3 : ¬ 8 ≤ c := by omega
  have n4 : ¬ c = 7 := by omega
  clear hPP hz hin hL hD hc
  go_enter Tryz.func20, Tryz.ntmps20
  go_wp2_with fail
  go_loopw [11, 12] (fun t i wr => ∃ (pos f : Nat) (Z : List Int), pos ≤ s.size ∧ s.size ≤ pos + f ∧ i = .int .i64 pos ∧ t = .string (pt.txt Z) ∧ Z.length ≤ pos ∧ Hid (Z ++ (tb c s f pos).1 = L ∧ (tb c s f pos).2 = D) ∧ Below w.heap.size w wr) (fun _ i _ => s.size - (RowKit.intOf i).toNat)
  case atStart => exact ⟨0, s.size, [], Nat.zero_le _, by omega, rfl, by rfl, by simp, Lib.hid (by rw [HLD.out]; exact ⟨rfl, rfl⟩), Below.refl _ _⟩
  case round =>
    obtain ⟨pos, f, Z, hp, hf, rfl, rfl, hZ, HT, hB⟩ := hrel
    have HB := Lib.hid hB
    clear hB
    by_cases hlt : pos < s.size
    · obtain ⟨f1, rfl⟩ : ∃ f1, f = f1 + 1 := ⟨f - 1, by omega⟩
      have hix := fun wx => index_bt s pos hlt wx
      have htm := txt_most Z
      by_cases hl : bt s pos < 128
      · have hsl := fun wx => one_piece s pos hlt hl wx
        have HN : Hid (pt.txt Z ++ strOfNums (encodeRuneZ ((bt s pos : Nat) : Int)) = pt.txt (Z ++ [((bt s pos : Nat) : Int)])) := Lib.hid (sg.txt_snoc Z _)
        have HT2 : Hid ((Z ++ [((bt s pos : Nat) : Int)]) ++ (tb c s f1 (pos + 1)).1 = L ∧ (tb c s f1 (pos + 1)).2 = D) := Lib.hid (by
          have h := HT.out
          rw [tb_low c s f1 pos hlt hl] at h
          rw [List.append_assoc]
          exact h)
        have hone : (strOfNums (encodeRuneZ ((bt s pos : Nat) : Int))).size ≤ 4 := by rw [strOfNums_size]; exact (encodeRuneZ_length _).2
        have k0 : ((bt s pos : Nat) : Int) < 128 := by omega
        generalize strOfNums (encodeRuneZ ((bt s pos : Nat) : Int)) = O at *
        generalize ((bt s pos : Nat) : Int) = B at *
        have o1 : ¬ 9223372036854775807 < (pt.txt Z).size + O.size := by omega
        generalize pt.txt Z = TZ at *
        clear hl hone HT
        go_wp2_with fail
        go_roundw
        case rel => exact ⟨pos + 1, f1, Z ++ [B], by omega, by omega, by go_num, by rw [HN.out], by simp; omega, HT2, HB.out⟩
        case measure => simp [RowKit.intOf]; omega
      · have k0 : ¬ ((bt s pos : Nat) : Int) < 128 := by omega
        by_cases h2 : pos + 1 < s.size
        · have hix2 : ∀ wx, (Instr.index 9 (.string s) (.int .i64 ((pos : Int) + 1))).run Tryz.prog wx = .ok (.int .u8 ((bt s (pos + 1) : Nat) : Int)) wx := fun wx => index_bt s (pos + 1) h2 wx
          have q2 : (pos : Int) + 1 < (s.size : Int) := by omega
          have HS := Lib.hid (fun W => HSG.out (bt s pos) (bt s (pos + 1)) W (bt_lt _ _) (bt_lt _ _))
          unfold S2P at HS
          have w1 : IntKind.i64.wrap ((bt s pos : Nat) : Int) = ((bt s pos : Nat) : Int) := by have := bt_lt s pos; simp [IntKind.wrap, IntKind.bits, IntKind.signed]; omega
          have w2 : IntKind.i64.wrap ((bt s (pos + 1) : Nat) : Int) = ((bt s (pos + 1) : Nat) : Int) := by have := bt_lt s (pos + 1); simp [IntKind.wrap, IntKind.bits, IntKind.signed]; omega
          have w3 : IntKind.i64.wrap ((pos : Int) + 1) = (pos : Int) + 1 := by simp [IntKind.wrap, IntKind.bits, IntKind.signed]; omega
          have b0 : (0 : Int) ≤ ((bt s pos : Nat) : Int) := by omega
          have b1 : (0 : Int) ≤ ((bt s (pos + 1) : Nat) : Int) := by omega
          by_cases hz : sg2 c (bt s pos) (bt s (pos + 1)) = []
          · have HV : s2T c (bt s pos) (bt s (pos + 1)) = ⟨#[]⟩ := by unfold s2T; rw [hz]; rfl
            rw [HV] at HS
            have HDD : Hid (D = some pos) := Lib.hid (by
              have h := HT.out
              rw [tb_bad c s f1 pos hlt hl (fun h => h.2 hz)] at h
              exact h.2.symm)
            generalize ((bt s pos : Nat) : Int) = B0 at *
            generalize ((bt s (pos + 1) : Nat) : Int) = B1 at *
            clear hz HV hl HT htm
            go_wp2_with fail
            go_region_held3 (fun _ => True) (trivial) (first | (go_at_call 36; refine (HS.out _).mono ?_; rintro e1 w1 ⟨rfl, hb1⟩; have B9 := Lib.hid (((HB.out.drew)).trans (hb1.mono HB.out.size)); clear hb1))
            all_goals go_wp2_with fail
            all_goals (go_ret3; exact HBAD.out _ _ HDD.out B9.out)
          · have hne := str_ne (s := s2T c (bt s pos) (bt s (pos + 1))) (by unfold s2T; exact txt_pos (by simpa using hz))
            have hsz2 : (s2T c (bt s pos) (bt s (pos + 1))).size ≤ 8 := by
              unfold s2T
              have h1 := txt_most ((sg2 c (bt s pos) (bt s (pos + 1))).map Int.ofNat)
              have h3 := sg2_len c (bt s pos) (bt s (pos + 1))
              rw [List.length_map] at h1
              omega
            have HN : Hid (pt.txt Z ++ s2T c (bt s pos) (bt s (pos + 1)) = pt.txt (Z ++ (sg2 c (bt s pos) (bt s (pos + 1))).map Int.ofNat)) := Lib.hid (txt_app _ _)
            have HZL : Hid ((Z ++ (sg2 c (bt s pos) (bt s (pos + 1))).map Int.ofNat).length ≤ pos + 2) := Lib.hid (by
              have h3 := sg2_len c (bt s pos) (bt s (pos + 1))
              rw [List.length_append, List.length_map]; omega)
            have HT2 : Hid ((Z ++ (sg2 c (bt s pos) (bt s (pos + 1))).map Int.ofNat) ++ (tb c s f1 (pos + 2)).1 = L ∧ (tb c s f1 (pos + 2)).2 = D) := Lib.hid (by
              have h := HT.out
              rw [tb_two c s f1 pos hlt hl ⟨h2, hz⟩] at h
              rw [List.append_assoc]
              exact h)
            generalize (sg2 c (bt s pos) (bt s (pos + 1))).map Int.ofNat = M at *
            generalize s2T c (bt s pos) (bt s (pos + 1)) = T at *
            generalize ((bt s pos : Nat) : Int) = B0 at *
            generalize ((bt s (pos + 1) : Nat) : Int) = B1 at *
            have o1 : ¬ 9223372036854775807 < (pt.txt Z).size + T.size := by omega
            obtain ⟨m1, m2⟩ := hne
            generalize pt.txt Z = TZ at *
            clear hz hl HT htm
            go_wp2_with fail
            go_region_held3 (fun _ => True) (trivial) (first | (go_at_call 36; refine (HS.out _).mono ?_; rintro e1 w1 ⟨rfl, hb1⟩; have B9 := Lib.hid (((HB.out.drew)).trans (hb1.mono HB.out.size)); clear hb1))
            all_goals go_wp2_with fail
            all_goals (
              go_roundw
              case rel => exact ⟨pos + 2, f1, Z ++ M, by omega, by omega, by go_num, by rw [HN.out], HZL.out, HT2, B9.out⟩
              case measure => simp [RowKit.intOf]; omega)
        · have q2 : ¬ (pos : Int) + 1 < (s.size : Int) := by omega
          have HDD : Hid (D = some pos) := Lib.hid (by
            have h := HT.out
            rw [tb_bad c s f1 pos hlt hl (fun h => h2 h.1)] at h
            exact h.2.symm)
          generalize ((bt s pos : Nat) : Int) = B0 at *
          clear hl HT htm
          go_wp2_with fail
          go_ret3; exact HBAD.out _ _ HDD.out HB.out
    · have HDD : Hid (Z = L ∧ D = none) := Lib.hid (by
        have h := HT.out
        rw [tb_end c s f pos hlt, List.append_nil] at h
        exact ⟨h.1, h.2.symm⟩)
      obtain ⟨rfl, hd⟩ := HDD.out
      have HD := Lib.hid hd
      clear hd HDD HT
      go_wp2_with fail
      go_ret3; exact HOK.out _ HD.out HB.out
theorem refDecode9_any (c : Int) (s : ByteArray) (w : World) (hs : s.size ≤ 4000) : Calls Tryz.prog 20 #[.int .i64 c, .string s] w (DcP c s w) := by
  by_cases h1 : c < 0 ∨ 9 < c
  · exact ref_out c s w h1
  by_cases h2 : c ≤ 3
  · exact ref_one c s w (by omega) h2 hs
  by_cases h3 : 8 ≤ c
  · exact ref_wide c s w h3 (by omega) hs
  by_cases h4 : c = 7
  · subst h4; exact ref_utf s w hs
  · exact ref_two c s w (by omega) hs
end Go.Proofs.YtiigknimfibdpaaGreatDoor.ch
namespace Go.Proofs.YtiigknimfibdpaaGreatDoor.de
open Go.RowKit Go.Lib
set_option linter.unusedVariables false
open Go.Proofs.YtiigknimfibdpaaGreatDoor.ch
/-- A small letter, a capital. -/
def smallZ (p : Int) : Bool := decide (1072 ≤ p ∧ p ≤ 1119) || decide (p = 1169)
def capZ (p : Int) : Bool := decide (1024 ≤ p ∧ p ≤ 1071) || decide (p = 1168)
/-- A sign's weight in a charset. -/
def wtZ (c p : Int) : Int :=
  if p < 128 then (if p = 127 ∨ (p < 32 ∧ p ≠ 9 ∧ p ≠ 10 ∧ p ≠ 13) then -6 else 0) else
  if c = 0 then (if p < 160 then -8 else if p < 192 ∨ p = 215 ∨ p = 247 then -1 else 1) else
  if c ≤ 3 then (if smallZ p = true then 4 else if capZ p = true then 2 else -4) else
  if c ≤ 5 then (if 44032 ≤ p ∧ p ≤ 55203 then (if wa.inB (p - 44032).toNat = true then 6 else 2) else if 12593 ≤ p ∧ p ≤ 12686 then -2 else 1) else
  if 19968 ≤ p ∧ p ≤ 40959 then 5 else 1
/-- What a capital right behind a small letter costs. -/
def cost (q p : Int) : Int := if smallZ q = true ∧ capZ p = true then 3 else 0
/-- The score of signs behind a sign. -/
def scB (c : Int) : Int → List Int → Int
  | _, [] => 0
  | q, p :: l => wtZ c p - cost q p + scB c p l
/-- The score of signs (0 is no letter). -/
def scL (c : Int) (l : List Int) : Int := scB c 0 l
theorem cost_zero (p : Int) : cost 0 p = 0 := by unfold cost smallZ; simp
theorem scB_snoc (c : Int) : ∀ (l : List Int) (q p : Int), scB c q (l ++ [p]) = scB c q l + (wtZ c p - cost ((q :: l).getLast (by simp)) p) := by
  intro l
  induction l with
  | nil => intro q p; simp [scB]
  | cons x l ih =>
    intro q p
    show wtZ c x - cost q x + scB c x (l ++ [p]) = _
    rw [ih x p]
    simp only [scB]
    rw [show (q :: x :: l).getLast (by simp) = (x :: l).getLast (by simp) from List.getLast_cons (by simp)]
    omega
theorem scB_app (c : Int) : ∀ (l : List Int) (q p : Int) (m : List Int), scB c q (l ++ p :: m) = scB c q l + (scB c 0 (p :: m) - cost ((q :: l).getLast (by simp)) p) := by
  intro l
  induction l with
  | nil => intro q p m; simp [scB, cost_zero]; omega
  | cons x l ih =>
    intro q p m
    show wtZ c x - cost q x + scB c x (l ++ p :: m) = _
    rw [ih x p m]
    simp only [scB]
    rw [show (q :: x :: l).getLast (by simp) = (x :: l).getLast (by simp) from List.getLast_cons (by simp)]
    omega
theorem cost_two (q p : Int) : cost q p = 0 ∨ cost q p = 3 := by unfold cost; split <;> simp
/-- The score of two texts, one behind the other. -/
theorem scL_app (c : Int) (l m : List Int) : scL c (l ++ m) = scL c l + scL c m ∨ (scL c (l ++ m) = scL c l + scL c m - 3 ∧ l ≠ [] ∧ m ≠ []) := by
  cases m with
  | nil => left; simp [scL, scB]
  | cons p m =>
    unfold scL
    rw [scB_app]
    cases l with
    | nil => left; simp [scB, cost_zero]
    | cons x l =>
      rcases cost_two ((0 :: x :: l).getLast (by simp)) p with h | h
      · left; rw [h]; omega
      · right; rw [h]; exact ⟨by omega, by simp, by simp⟩
theorem wt_range (c p : Int) : -8 ≤ wtZ c p ∧ wtZ c p ≤ 6 := by
  unfold wtZ
  repeat' split
  all_goals omega
theorem scB_range (c : Int) : ∀ (l : List Int) (q : Int), -11 * (l.length : Int) ≤ scB c q l ∧ scB c q l ≤ 6 * (l.length : Int) := by
  intro l
  induction l with
  | nil => intro q; simp [scB]
  | cons x l ih =>
    intro q
    have h1 := wt_range c x
    have h2 := cost_two q x
    have h3 := ih x
    simp only [scB, List.length_cons]
    omega
theorem last_take {q : Int} {l m : List Int} {x : Int} (e : l = m ++ [x]) (h : q :: l ≠ []) : (q :: l).getLast h = x := by
  subst e
  have e2 : (q :: (m ++ [x])).getLast? = some x := by rw [← List.cons_append]; exact List.getLast?_concat
  rw [List.getLast?_eq_some_getLast h] at e2
  exact Option.some.inj e2
theorem sc_take (c : Int) (l : List Int) (j : Nat) (h : j < l.length) : scL c (l.take (j + 1)) = scL c (l.take j) + (wtZ c (l.getD j 0) - (if j = 0 then 0 else cost (l.getD (j - 1) 0) (l.getD j 0))) := by
  have e : l.take (j + 1) = l.take j ++ [l.getD j 0] := by rw [List.take_add_one]; simp [List.getD, List.getElem?_eq_getElem h]
  unfold scL
  rw [e, scB_snoc]
  by_cases hj : j = 0
  · subst hj; simp [cost_zero]
  · rw [if_neg hj]
    have hg : (0 :: l.take j).getLast (by simp) = l.getD (j - 1) 0 := by
      obtain ⟨k, rfl⟩ : ∃ k, j = k + 1 := ⟨j - 1, by omega⟩
      have e2 : l.take (k + 1) = l.take k ++ [l.getD k 0] := by rw [List.take_add_one]; simp [List.getD, List.getElem?_eq_getElem (show k < l.length by omega)]
      exact last_take e2 _
    rw [hg]
theorem sg2_valid (c : Int) {l b : Nat} (hl : l < 256) (hb : b < 256) : ((sg2 c l b).map Int.ofNat).all validRune = true := by
  unfold sg2
  split
  · split
    · rfl
    · rename_i h; simp only [List.map_cons, List.map_nil, List.all_cons, List.all_nil, Bool.and_true]; exact sgW_valid hl hb h
  · split
    · split
      · rfl
      · rename_i h; simp only [List.map_cons, List.map_nil, List.all_cons, List.all_nil, Bool.and_true]; exact sgJ_valid (by omega) h
    · unfold bg.sgL
      rcases bg.tw_cases (l * 256 + b) with ⟨_, h⟩ | ⟨_, h⟩ | ⟨_, h⟩ | ⟨_, h⟩ | ⟨h, _⟩
      · rw [h]; rfl
      · rw [h]; rfl
      · rw [h]; rfl
      · rw [h]; rfl
      · rw [h, if_neg (by simp)]
        split
        · rename_i h1; simp only [List.map_cons, List.map_nil, List.all_cons, List.all_nil, Bool.and_true]; exact bg.one_valid h1
        · rfl
theorem tb_valid (c : Int) (s : ByteArray) : ∀ f pos, (tb c s f pos).1.all validRune = true := by
  intro f
  induction f with
  | zero => intro pos; simp [tb]
  | succ f ih =>
    intro pos
    by_cases h : pos < s.size
    · by_cases hl : bt s pos < 128
      · rw [tb_low c s f pos h hl, List.all_cons, ih]
        simp only [Bool.and_true]
        exact vr_of (.inl (by omega))
      · by_cases h2 : pos + 1 < s.size ∧ sg2 c (bt s pos) (bt s (pos + 1)) ≠ []
        · rw [tb_two c s f pos h hl h2, List.all_append, ih, sg2_valid c (bt_lt _ _) (bt_lt _ _)]
          rfl
        · rw [tb_bad c s f pos h hl h2]; rfl
    · rw [tb_end c s _ pos h]; rfl
/-- What bytes come to are signs. -/
theorem dz_valid {c : Int} (s : ByteArray) (hc : inC c) : (dz c s).1.all validRune = true := by
  unfold inC at hc
  unfold dz
  split
  · exact sg.sdec_valid hc.1 (by omega) _
  · split
    · exact pt.zs_valid s _ _
    · split
      · exact wd.wd_valid s _ _ _
      · exact tb_valid c s _ _
theorem dz_back {c : Int} (s : ByteArray) (hc : inC c) : (pt.scan (pt.txt (dz c s).1)).2 = none ∧ pt.zsOf (pt.txt (dz c s).1) = (dz c s).1 := by
  have h := pt.scan_txt _ (dz_valid s hc)
  refine ⟨h.1, ?_⟩
  have hz : ∀ l : List Int, l.all validRune = true → (l.map Int.toNat).map Int.ofNat = l := by
    intro l hl
    induction l with
    | nil => rfl
    | cons x l ih =>
      rw [List.all_cons, Bool.and_eq_true] at hl
      have := wd.valid_range hl.1
      simp only [List.map_cons, ih hl.2]
      rw [show Int.ofNat x.toNat = x from Int.toNat_of_nonneg this.1]
  have e : pt.zsOf (pt.txt (dz c s).1) = (pt.scan (pt.txt (dz c s).1)).1.map Int.ofNat := rfl
  rw [e, h.2]
  exact hz _ (dz_valid s hc)
/-- The score of bytes; none where they are no text, or the charset is none of these. -/
def scZ (c : Int) (s : ByteArray) : Option Int := if 0 ≤ c ∧ c ≤ 6 ∧ (dz c s).2 = none then some (scL c (dz c s).1) else none
def scV (c : Int) (s : ByteArray) : Int := (scZ c s).getD 0
def scO (c : Int) (s : ByteArray) : Bool := (scZ c s).isSome
end Go.Proofs.YtiigknimfibdpaaGreatDoor.de
namespace Go.Proofs.YtiigknimfibdpaaGreatDoor.de
open Go.RowKit Go.Lib
set_option linter.unusedVariables false
open Go.Proofs.YtiigknimfibdpaaGreatDoor.ch
theorem nb {p q : Int} (h : ¬ p = q) : (p == q) = false ∧ (p != q) = true := by simp [h]
set_option maxRecDepth 100000 in
theorem Small_any (p : Int) (w : World) : Calls Tryz.prog 28 #[.int .i32 p] w fun e w' => e = .returned (.bool (smallZ p)) ∧ w = w' := by
  obtain ⟨PP, hPP⟩ : ∃ PP : Ending → World → Prop, PP = fun e w' => e = .returned (.bool (smallZ p)) ∧ w = w' := ⟨_, rfl⟩
  rw [← hPP]
  have HP : Hid (∀ v, smallZ p = v → PP (.returned (.bool v)) w) := Lib.hid (fun v h => by rw [hPP, h]; exact ⟨rfl, rfl⟩)
  clear hPP
  have hh : (p < 1072 ∧ ¬ p = 1169) ∨ (1072 ≤ p ∧ p ≤ 1119 ∧ ¬ p = 1169) ∨ (1072 ≤ p ∧ 1119 < p ∧ ¬ p = 1169) ∨ p = 1169 := by omega
  rcases hh with ⟨h1, h2⟩ | ⟨h1, h2, h3⟩ | ⟨h1, h2, h3⟩ | rfl
  · have HV : Hid (smallZ p = false) := Lib.hid (by unfold smallZ; rw [decide_eq_false (by omega), decide_eq_false h2]; rfl)
    obtain ⟨g1, g2⟩ := nb h2
    go_enter Tryz.func28, Tryz.ntmps28
    go_wp2_with fail
    exact HP.out _ HV.out
  · have HV : Hid (smallZ p = true) := Lib.hid (by unfold smallZ; rw [decide_eq_true ⟨h1, h2⟩]; rfl)
    obtain ⟨g1, g2⟩ := nb h3
    go_enter Tryz.func28, Tryz.ntmps28
    go_wp2_with fail
    exact HP.out _ HV.out
  · have HV : Hid (smallZ p = false) := Lib.hid (by unfold smallZ; rw [decide_eq_false (by omega), decide_eq_false h3]; rfl)
    obtain ⟨g1, g2⟩ := nb h3
    have g3 : decide (p ≤ 1119) = false := decide_eq_false (by omega)
    go_enter Tryz.func28, Tryz.ntmps28
    go_wp2_with fail
    exact HP.out _ HV.out
  · go_enter Tryz.func28, Tryz.ntmps28
    go_wp2_with fail
    exact HP.out _ rfl
set_option maxRecDepth 100000 in
theorem Capital_any (p : Int) (w : World) : Calls Tryz.prog 29 #[.int .i32 p] w fun e w' => e = .returned (.bool (capZ p)) ∧ w = w' := by
  obtain ⟨PP, hPP⟩ : ∃ PP : Ending → World → Prop, PP = fun e w' => e = .returned (.bool (capZ p)) ∧ w = w' := ⟨_, rfl⟩
  rw [← hPP]
  have HP : Hid (∀ v, capZ p = v → PP (.returned (.bool v)) w) := Lib.hid (fun v h => by rw [hPP, h]; exact ⟨rfl, rfl⟩)
  clear hPP
  have hh : (p < 1024 ∧ ¬ p = 1168) ∨ (1024 ≤ p ∧ p ≤ 1071 ∧ ¬ p = 1168) ∨ (1024 ≤ p ∧ 1071 < p ∧ ¬ p = 1168) ∨ p = 1168 := by omega
  rcases hh with ⟨h1, h2⟩ | ⟨h1, h2, h3⟩ | ⟨h1, h2, h3⟩ | rfl
  · have HV : Hid (capZ p = false) := Lib.hid (by unfold capZ; rw [decide_eq_false (by omega), decide_eq_false h2]; rfl)
    obtain ⟨g1, g2⟩ := nb h2
    go_enter Tryz.func29, Tryz.ntmps29
    go_wp2_with fail
    exact HP.out _ HV.out
  · have HV : Hid (capZ p = true) := Lib.hid (by unfold capZ; rw [decide_eq_true ⟨h1, h2⟩]; rfl)
    obtain ⟨g1, g2⟩ := nb h3
    go_enter Tryz.func29, Tryz.ntmps29
    go_wp2_with fail
    exact HP.out _ HV.out
  · have HV : Hid (capZ p = false) := Lib.hid (by unfold capZ; rw [decide_eq_false (by omega), decide_eq_false h3]; rfl)
    obtain ⟨g1, g2⟩ := nb h3
    have g3 : decide (p ≤ 1071) = false := decide_eq_false (by omega)
    go_enter Tryz.func29, Tryz.ntmps29
    go_wp2_with fail
    exact HP.out _ HV.out
  · go_enter Tryz.func29, Tryz.ntmps29
    go_wp2_with fail
    exact HP.out _ rfl
/-- What Weight answers. -/
def WtP (c p : Int) (w : World) : Ending → World → Prop := fun e w' => e = .returned (.int .i64 (wtZ c p)) ∧ w = w'
theorem wtP {c p : Int} {w : World} {v : Int} (h : wtZ c p = v) : WtP c p w (.returned (.int .i64 v)) w := ⟨by rw [h], rfl⟩
set_option maxRecDepth 100000 in
set_option maxHeartbeats 2000000 in
theorem weight_low (c p : Int) (w : World) (h : p < 128) : Calls Tryz.prog 27 #[.int .i64 c, .int .i32 p] w (WtP c p w) := by
  obtain ⟨PP, hPP⟩ : ∃ PP, PP = WtP c p w := ⟨_, rfl⟩
  rw [← hPP]
  have HP : Hid (∀ v, wtZ c p = v → PP (.returned (.int .i64 v)) w) := Lib.hid (fun v h => by rw [hPP]; exact wtP h)
  clear hPP
  have hh : p = 127 ∨ p = 9 ∨ p = 10 ∨ p = 13 ∨ (¬ p = 127 ∧ p < 32 ∧ ¬ p = 9 ∧ ¬ p = 10 ∧ ¬ p = 13) ∨ (¬ p = 127 ∧ 32 ≤ p) := by omega
  rcases hh with rfl | rfl | rfl | rfl | ⟨h1, h2, h3, h4, h5⟩ | ⟨h1, h2⟩
  · go_enter Tryz.func27, Tryz.ntmps27
    go_wp2_with fail
    exact HP.out _ (by unfold wtZ; simp)
  · go_enter Tryz.func27, Tryz.ntmps27
    go_wp2_with fail
    exact HP.out _ (by unfold wtZ; simp)
  · go_enter Tryz.func27, Tryz.ntmps27
    go_wp2_with fail
    exact HP.out _ (by unfold wtZ; simp)
  · go_enter Tryz.func27, Tryz.ntmps27
    go_wp2_with fail
    exact HP.out _ (by unfold wtZ; simp)
  · have HV : Hid (wtZ c p = -6) := Lib.hid (by unfold wtZ; rw [if_pos h, if_pos (.inr ⟨h2, h3, h4, h5⟩)])
    obtain ⟨g1, _⟩ := nb h1
    obtain ⟨g3, g4⟩ := nb h3
    obtain ⟨g5, g6⟩ := nb h4
    obtain ⟨g7, g8⟩ := nb h5
    go_enter Tryz.func27, Tryz.ntmps27
    go_wp2_with fail
    exact HP.out _ HV.out
  · have HV : Hid (wtZ c p = 0) := Lib.hid (by unfold wtZ; rw [if_pos h, if_neg (by omega)])
    obtain ⟨g1, _⟩ := nb h1
    go_enter Tryz.func27, Tryz.ntmps27
    go_wp2_with fail
    exact HP.out _ HV.out
set_option maxRecDepth 100000 in
set_option maxHeartbeats 2000000 in
theorem weight_latin (p : Int) (w : World) (h : 128 ≤ p) : Calls Tryz.prog 27 #[.int .i64 0, .int .i32 p] w (WtP 0 p w) := by
  obtain ⟨PP, hPP⟩ : ∃ PP, PP = WtP 0 p w := ⟨_, rfl⟩
  rw [← hPP]
  have HP : Hid (∀ v, wtZ 0 p = v → PP (.returned (.int .i64 v)) w) := Lib.hid (fun v h => by rw [hPP]; exact wtP h)
  clear hPP
  have e0 : wtZ 0 p = if p < 160 then -8 else if p < 192 ∨ p = 215 ∨ p = 247 then -1 else 1 := by unfold wtZ; rw [if_neg (by omega), if_pos rfl]
  have hh : p < 160 ∨ (160 ≤ p ∧ p < 192) ∨ (160 ≤ p ∧ 192 ≤ p ∧ p = 215) ∨ (160 ≤ p ∧ 192 ≤ p ∧ ¬ p = 215 ∧ p = 247) ∨ (160 ≤ p ∧ 192 ≤ p ∧ ¬ p = 215 ∧ ¬ p = 247) := by omega
  rcases hh with h1 | ⟨h1, h2⟩ | ⟨h1, h2, rfl⟩ | ⟨h1, h2, h3, rfl⟩ | ⟨h1, h2, h3, h4⟩
  · have HV : Hid (wtZ 0 p = -8) := Lib.hid (by rw [e0, if_pos h1])
    clear e0
    go_enter Tryz.func27, Tryz.ntmps27
    go_wp2_with fail
    exact HP.out _ HV.out
  · have HV : Hid (wtZ 0 p = -1) := Lib.hid (by rw [e0, if_neg (by omega), if_pos (.inl h2)])
    clear e0
    go_enter Tryz.func27, Tryz.ntmps27
    go_wp2_with fail
    exact HP.out _ HV.out
  · have HV : Hid (wtZ 0 215 = -1) := Lib.hid (by rw [e0]; decide)
    clear e0
    go_enter Tryz.func27, Tryz.ntmps27
    go_wp2_with fail
    exact HP.out _ HV.out
  · have HV : Hid (wtZ 0 247 = -1) := Lib.hid (by rw [e0]; decide)
    clear e0
    go_enter Tryz.func27, Tryz.ntmps27
    go_wp2_with fail
    exact HP.out _ HV.out
  · have HV : Hid (wtZ 0 p = 1) := Lib.hid (by rw [e0, if_neg (by omega), if_neg (by omega)])
    clear e0
    obtain ⟨g1, _⟩ := nb h3
    obtain ⟨g3, _⟩ := nb h4
    go_enter Tryz.func27, Tryz.ntmps27
    go_wp2_with fail
    exact HP.out _ HV.out
set_option maxRecDepth 100000 in
set_option maxHeartbeats 2000000 in
theorem weight_cyr (c p : Int) (w : World) (h : 128 ≤ p) (c1 : 1 ≤ c) (c3 : c ≤ 3) : Calls Tryz.prog 27 #[.int .i64 c, .int .i32 p] w (WtP c p w) := by
  obtain ⟨PP, hPP⟩ : ∃ PP, PP = WtP c p w := ⟨_, rfl⟩
  rw [← hPP]
  have HP : Hid (∀ v, wtZ c p = v → PP (.returned (.int .i64 v)) w) := Lib.hid (fun v h => by rw [hPP]; exact wtP h)
  clear hPP
  have e0 : wtZ c p = if smallZ p = true then 4 else if capZ p = true then 2 else -4 := by unfold wtZ; rw [if_neg (by omega), if_neg (by omega), if_pos c3]
  have HS := Lib.hid (fun W => Small_any p W)
  have HC := Lib.hid (fun W => Capital_any p W)
  have n0 : ¬ c = 0 := by omega
  cases hs : smallZ p with
  | true =>
    rw [hs] at HS
    have HV : Hid (wtZ c p = 4) := Lib.hid (by rw [e0, hs]; rfl)
    clear e0 hs
    go_enter Tryz.func27, Tryz.ntmps27
    go_wp2_with (go_at_call 28; refine (HS.out _).mono ?_; rintro e1 w1 ⟨rfl, rfl⟩)
    exact HP.out _ HV.out
  | false =>
    rw [hs] at HS
    cases hc : capZ p with
    | true =>
      rw [hc] at HC
      have HV : Hid (wtZ c p = 2) := Lib.hid (by rw [e0, hs, hc]; rfl)
      clear e0 hs hc
      go_enter Tryz.func27, Tryz.ntmps27
      go_wp2_with (first | (go_at_call 28; refine (HS.out _).mono ?_; rintro e1 w1 ⟨rfl, rfl⟩) | (go_at_call 29; refine (HC.out _).mono ?_; rintro e1 w1 ⟨rfl, rfl⟩))
      exact HP.out _ HV.out
    | false =>
      rw [hc] at HC
      have HV : Hid (wtZ c p = -4) := Lib.hid (by rw [e0, hs, hc]; rfl)
      clear e0 hs hc
      go_enter Tryz.func27, Tryz.ntmps27
      go_wp2_with (first | (go_at_call 28; refine (HS.out _).mono ?_; rintro e1 w1 ⟨rfl, rfl⟩) | (go_at_call 29; refine (HC.out _).mono ?_; rintro e1 w1 ⟨rfl, rfl⟩))
      exact HP.out _ HV.out
set_option maxRecDepth 100000 in
set_option maxHeartbeats 2000000 in
theorem weight_kor (c p : Int) (w : World) (h : 128 ≤ p) (hp : p ≤ 1114111) (c1 : 4 ≤ c) (c3 : c ≤ 5) : Calls Tryz.prog 27 #[.int .i64 c, .int .i32 p] w (WtP c p w) := by
  obtain ⟨PP, hPP⟩ : ∃ PP, PP = WtP c p w := ⟨_, rfl⟩
  rw [← hPP]
  have HP : Hid (∀ v, wtZ c p = v → PP (.returned (.int .i64 v)) w) := Lib.hid (fun v h => by rw [hPP]; exact wtP h)
  clear hPP
  have e0 : wtZ c p = if 44032 ≤ p ∧ p ≤ 55203 then (if wa.inB (p - 44032).toNat = true then 6 else 2) else if 12593 ≤ p ∧ p ≤ 12686 then -2 else 1 := by unfold wtZ; rw [if_neg (by omega), if_neg (by omega), if_neg (by omega), if_pos c3]
  have n0 : ¬ c = 0 := by omega
  have n1 : ¬ c ≤ 3 := by omega
  by_cases hy : 44032 ≤ p ∧ p ≤ 55203
  · obtain ⟨y1, y2⟩ := hy
    have HI := Lib.hid (fun W => wa.in_any (p - 44032).toNat W (by omega))
    rw [if_pos ⟨y1, y2⟩] at e0
    have k0 : (((p - 44032).toNat : Nat) : Int) = p - 44032 := by omega
    rw [k0] at HI
    have k1 : IntKind.i64.wrap p = p := by simp [IntKind.wrap, IntKind.bits, IntKind.signed]; omega
    have k2 : IntKind.i64.wrap (p - 44032) = p - 44032 := by simp [IntKind.wrap, IntKind.bits, IntKind.signed]; omega
    cases hi : wa.inB (p - 44032).toNat with
    | true =>
      rw [hi] at HI
      have HV : Hid (wtZ c p = 6) := Lib.hid (by rw [e0, hi]; rfl)
      clear e0 hi k0
      go_enter Tryz.func27, Tryz.ntmps27
      go_wp2_with (go_at_call 48; refine (HI.out _).mono ?_; rintro e1 w1 ⟨rfl, rfl⟩)
      exact HP.out _ HV.out
    | false =>
      rw [hi] at HI
      have HV : Hid (wtZ c p = 2) := Lib.hid (by rw [e0, hi]; rfl)
      clear e0 hi k0
      go_enter Tryz.func27, Tryz.ntmps27
      go_wp2_with (go_at_call 48; refine (HI.out _).mono ?_; rintro e1 w1 ⟨rfl, rfl⟩)
      exact HP.out _ HV.out
  · rw [if_neg hy] at e0
    have hh : (p < 44032 ∧ 12593 ≤ p ∧ p ≤ 12686) ∨ (p < 44032 ∧ p < 12593) ∨ (p < 44032 ∧ 12593 ≤ p ∧ 12686 < p) ∨ (44032 ≤ p ∧ 55203 < p ∧ 12593 ≤ p ∧ 12686 < p) := by omega
    rcases hh with ⟨y1, y2, y3⟩ | ⟨y1, y2⟩ | ⟨y1, y2, y3⟩ | ⟨y1, y2, y3, y4⟩
    · have HV : Hid (wtZ c p = -2) := Lib.hid (by rw [e0, if_pos ⟨y2, y3⟩])
      clear e0 hy
      go_enter Tryz.func27, Tryz.ntmps27
      go_wp2_with fail
      exact HP.out _ HV.out
    all_goals
      have HV : Hid (wtZ c p = 1) := Lib.hid (by rw [e0, if_neg (by omega)])
      clear e0 hy
      go_enter Tryz.func27, Tryz.ntmps27
      go_wp2_with fail
      exact HP.out _ HV.out
set_option maxRecDepth 100000 in
set_option maxHeartbeats 2000000 in
theorem weight_big (p : Int) (w : World) (h : 128 ≤ p) : Calls Tryz.prog 27 #[.int .i64 6, .int .i32 p] w (WtP 6 p w) := by
  obtain ⟨PP, hPP⟩ : ∃ PP, PP = WtP 6 p w := ⟨_, rfl⟩
  rw [← hPP]
  have HP : Hid (∀ v, wtZ 6 p = v → PP (.returned (.int .i64 v)) w) := Lib.hid (fun v h => by rw [hPP]; exact wtP h)
  clear hPP
  have e0 : wtZ 6 p = if 19968 ≤ p ∧ p ≤ 40959 then 5 else 1 := by unfold wtZ; rw [if_neg (by omega), if_neg (by omega), if_neg (by omega), if_neg (by omega)]
  have hh : (19968 ≤ p ∧ p ≤ 40959) ∨ p < 19968 ∨ (19968 ≤ p ∧ 40959 < p) := by omega
  rcases hh with ⟨y1, y2⟩ | y1 | ⟨y1, y2⟩
  · have HV : Hid (wtZ 6 p = 5) := Lib.hid (by rw [e0, if_pos ⟨y1, y2⟩])
    clear e0
    go_enter Tryz.func27, Tryz.ntmps27
    go_wp2_with fail
    exact HP.out _ HV.out
  all_goals
    have HV : Hid (wtZ 6 p = 1) := Lib.hid (by rw [e0, if_neg (by omega)])
    clear e0
    go_enter Tryz.func27, Tryz.ntmps27
    go_wp2_with fail
    exact HP.out _ HV.out
theorem Weight_any (c p : Int) (w : World) (c0 : 0 ≤ c) (c6 : c ≤ 6) (hp : p ≤ 1114111) : Calls Tryz.prog 27 #[.int .i64 c, .int .i32 p] w (WtP c p w) := by
  by_cases h : p < 128
  · exact weight_low c p w h
  by_cases h0 : c = 0
  · subst h0; exact weight_latin p w (by omega)
  by_cases h3 : c ≤ 3
  · exact weight_cyr c p w (by omega) (by omega) h3
  by_cases h5 : c ≤ 5
  · exact weight_kor c p w (by omega) hp (by omega) h5
  · obtain rfl : c = 6 := by omega
    exact weight_big p w (by omega)
end Go.Proofs.YtiigknimfibdpaaGreatDoor.de
namespace Go.Proofs.YtiigknimfibdpaaGreatDoor.de
open Go.RowKit Go.Lib
set_option linter.unusedVariables false
open Go.Proofs.YtiigknimfibdpaaGreatDoor.ch
/-- What Score answers. -/
def ScP (c : Int) (s : ByteArray) (w : World) : Ending → World → Prop := fun e w' => e = .returned (.tuple #[.int .i64 (scV c s), .bool (scO c s)]) ∧ Below w.heap.size w w'
theorem scP {c : Int} {s : ByteArray} {w w' : World} {v : Int} {o : Bool} (h1 : scV c s = v) (h2 : scO c s = o) (hb : Below w.heap.size w w') : ScP c s w (.returned (.tuple #[.int .i64 v, .bool o])) w' := ⟨by rw [h1, h2], hb⟩
theorem sc_none {c : Int} {s : ByteArray} (h : ¬ (0 ≤ c ∧ c ≤ 6 ∧ (dz c s).2 = none)) : scV c s = 0 ∧ scO c s = false := by
  unfold scV scO scZ
  rw [if_neg h]
  exact ⟨rfl, rfl⟩
theorem sc_some {c : Int} {s : ByteArray} (h : 0 ≤ c ∧ c ≤ 6 ∧ (dz c s).2 = none) : scV c s = scL c (dz c s).1 ∧ scO c s = true := by
  unfold scV scO scZ
  rw [if_pos h]
  exact ⟨rfl, rfl⟩
theorem dz_len {c : Int} {s : ByteArray} (h0 : 0 ≤ c) (h6 : c ≤ 6) : (dz c s).1.length ≤ s.size := by
  unfold dz
  split
  · have : (sg.sdec c s.data.toList).length = s.data.toList.length := by simp [sg.sdec]
    show (sg.sdec c s.data.toList).length ≤ _
    rw [this, size_list]; omega
  · split
    · omega
    · split
      · omega
      · have := tb_len c s s.size 0; omega
theorem cost_two' (q p : Int) : cost q p = if smallZ q = true ∧ capZ p = true then 3 else 0 := rfl
set_option maxRecDepth 100000 in
set_option maxHeartbeats 2000000 in
theorem score_none (c : Int) (s : ByteArray) (w : World) (h : c < 0 ∨ 6 < c) : Calls Tryz.prog 11 #[.int .i64 c, .string s] w (ScP c s w) := by
  obtain ⟨PP, hPP⟩ : ∃ PP, PP = ScP c s w := ⟨_, rfl⟩
  rw [← hPP]
  obtain ⟨e1, e2⟩ := sc_none (c := c) (s := s) (by omega)
  have HP : Hid (PP (.returned (.tuple #[.int .i64 0, .bool false])) w) := Lib.hid (by rw [hPP]; exact scP e1 e2 (Below.refl _ _))
  clear hPP e1 e2
  have hh : c < 0 ∨ (¬ c < 0 ∧ 6 < c) := by omega
  clear h
  rcases hh with h | ⟨h, h2⟩
  all_goals
    go_enter Tryz.func11, Tryz.ntmps11
    go_wp2_with fail
    first | exact HP.out | (go_ret2; exact HP.out)
set_option maxRecDepth 100000 in
set_option maxHeartbeats 2000000 in
theorem score_bad (c : Int) (s : ByteArray) (w : World) (h0 : 0 ≤ c) (h6 : c ≤ 6) (hs : s.size ≤ 900) (p : Nat) (hd : (dz c s).2 = some p) : Calls Tryz.prog 11 #[.int .i64 c, .string s] w (ScP c s w) := by
  obtain ⟨PP, hPP⟩ : ∃ PP, PP = ScP c s w := ⟨_, rfl⟩
  rw [← hPP]
  obtain ⟨e1, e2⟩ := sc_none (c := c) (s := s) (by rw [hd]; simp)
  have HP : Hid (∀ W', Below w.heap.size w W' → PP (.returned (.tuple #[.int .i64 0, .bool false])) W') := Lib.hid (fun W' hb => by rw [hPP]; exact scP e1 e2 hb)
  obtain ⟨d1, d2, d3⟩ := dc_bad (in07 h0 (by omega)) hd
  have HD := Lib.hid (fun W => refDecode9_any c s W (by omega))
  unfold DcP at HD
  rw [d1, d2, d3] at HD
  clear hPP e1 e2 d1 d2 d3 hd
  have n0 : ¬ c < 0 := by omega
  have n1 : ¬ 6 < c := by omega
  go_enter Tryz.func11, Tryz.ntmps11
  go_wp2_with (go_at_call 20; refine (HD.out _).mono ?_; rintro e1 w1 ⟨rfl, hb1⟩)
  first | exact HP.out _ hb1 | (go_ret2; exact HP.out _ hb1)
set_option maxRecDepth 100000 in
set_option maxHeartbeats 1000000 in
theorem score_good (c : Int) (s : ByteArray) (w : World) (h0 : 0 ≤ c) (h6 : c ≤ 6) (hs : s.size ≤ 900) (hd : (dz c s).2 = none) : Calls Tryz.prog 11 #[.int .i64 c, .string s] w (ScP c s w) := by
  obtain ⟨PP, hPP⟩ : ∃ PP, PP = ScP c s w := ⟨_, rfl⟩
  rw [← hPP]
  obtain ⟨e1, e2⟩ := sc_some (c := c) (s := s) ⟨h0, h6, hd⟩
  obtain ⟨d1, d2, d3⟩ := dc_ok (in07 h0 (by omega)) hd
  obtain ⟨b1, b2⟩ := dz_back s (in07 h0 (show c ≤ 7 by omega))
  have hmost := dz_most (s := s) (show c ≤ 7 by omega) hd
  have hval := dz_valid s (in07 h0 (show c ≤ 7 by omega))
  have hlen := dz_len (s := s) h0 h6
  have HD := Lib.hid (fun W => refDecode9_any c s W (by omega))
  unfold DcP at HD
  rw [d1, d2, d3] at HD
  generalize (dz c s).1 = l at *
  have HR := Lib.hid (fun W => pt.refPoints_row (pt.txt l) l.length W (by omega) b1 (by rw [b2]))
  rw [b2] at HR
  have HP : Hid (∀ v W', scL c l = v → Below w.heap.size w W' → PP (.returned (.tuple #[.int .i64 v, .bool true])) W') := Lib.hid (fun v W' hv hb => by rw [hPP]; exact scP (e1.trans hv) e2 hb)
  have HSC := Lib.hid (fun j hj => sc_take c l j hj)
  have HRG := Lib.hid (fun j => scB_range c (l.take j) 0)
  have HVL := Lib.hid (fun j (hj : j < l.length) => wd.valid_range (List.all_eq_true.1 hval (l.getD j 0) (by rw [List.getD_eq_getElem?_getD, List.getElem?_eq_getElem hj]; exact List.getElem_mem hj)))
  clear hPP e1 e2 d1 d2 d3 hd b1 b2 hval
  have n0 : ¬ c < 0 := by omega
  have n1 : ¬ 6 < c := by omega
  generalize pt.txt l = T at *
  go_enter Tryz.func11, Tryz.ntmps11
  go_wp2_with (first
    | (go_at_call 20; refine (HD.out _).mono ?_; rintro e1 w1 ⟨rfl, hb1⟩; have B1 := Lib.hid hb1; clear hb1)
    | (go_at_call 26; refine (HR.out _).mono ?_; rintro e2 w2 ⟨q, d, rfl, r2, hb2⟩; have R2 := Lib.hid r2; have B2 := Lib.hid (B1.out.trans (hb2.mono B1.out.size)); clear r2 hb2))
  go_loopw [11, 12] (fun t i wr => ∃ j : Nat, j ≤ l.length ∧ i = .int .i64 j ∧ t = .int .i64 (scL c (l.take j)) ∧ Below w2.heap.size w2 wr) (fun _ i _ => l.length - (RowKit.intOf i).toNat)
  case atStart => exact ⟨0, Nat.zero_le _, rfl, rfl, Below.refl _ _⟩
  case round =>
    obtain ⟨j, hj, rfl, rfl, hB⟩ := hrel
    have HB := Lib.hid hB
    clear hB
    by_cases hlt : j < l.length
    · obtain ⟨a, rfl, a1, a2, a3⟩ := (R2.out.below HB.out).at j hlt
      unfold maxLen at a2
      have hS := HSC.out j hlt
      have hG := HRG.out j
      rw [List.length_take] at hG
      have hW := wt_range c (l.getD j 0)
      have HWT := Lib.hid (fun W => Weight_any c (l.getD j 0) W h0 h6 (HVL.out j hlt).2)
      unfold WtP at HWT
      have HCP := Lib.hid (fun W => Capital_any (l.getD j 0) W)
      have hG2 : -11 * (min j l.length : Nat) ≤ scL c (l.take j) ∧ scL c (l.take j) ≤ 6 * ((min j l.length : Nat) : Int) := hG
      by_cases hj0 : j = 0
      · rw [if_pos hj0] at hS
        have p0 : ¬ (0 : Int) < (j : Int) := by omega
        generalize l.getD j 0 = X at *
        generalize scL c (l.take j) = S at *
        generalize wtZ c X = V at *
        have w1 : IntKind.i64.wrap (S + V) = S + V := by simp [IntKind.wrap, IntKind.bits, IntKind.signed]; omega
        have HS1 : Hid (scL c (l.take (j + 1)) = S + V) := Lib.hid (by rw [hS]; omega)
        clear hS hG hj0
        go_wp2_with (go_at_call 27; refine (HWT.out _).mono ?_; rintro e3 w3 ⟨rfl, rfl⟩)
        go_roundw
        case rel => exact ⟨j + 1, by omega, by go_num, by rw [HS1.out], HB.out⟩
        case measure => simp [RowKit.intOf]; omega
      · obtain ⟨k, hk⟩ : ∃ k, j = k + 1 := ⟨j - 1, by omega⟩
        obtain ⟨a', ha', _, _, c3⟩ := (R2.out.below HB.out).at k (by omega)
        cases ha'
        rw [if_neg hj0, show j - 1 = k by omega] at hS
        have HSM := Lib.hid (fun W => Small_any (l.getD k 0) W)
        have q3 : IntKind.i64.wrap ((j : Int) - 1) = (k : Int) := by simp [IntKind.wrap, IntKind.bits, IntKind.signed]; omega
        have q4 : k < l.length := by omega
        rw [cost_two'] at hS
        generalize l.getD k 0 = Q at *
        generalize l.getD j 0 = X at *
        generalize scL c (l.take j) = S at *
        generalize wtZ c X = V at *
        have w1 : IntKind.i64.wrap (S + V) = S + V := by simp [IntKind.wrap, IntKind.bits, IntKind.signed]; omega
        have w2' : IntKind.i64.wrap (S + V - 3) = S + V - 3 := by simp [IntKind.wrap, IntKind.bits, IntKind.signed]; omega
        have p0 : (0 : Int) < (j : Int) := by omega
        clear hj0 hk
        cases hq : smallZ Q with
        | false =>
          rw [hq] at HSM hS
          have HS1 : Hid (scL c (l.take (j + 1)) = S + V) := Lib.hid (by rw [hS, if_neg (by simp)]; omega)
          clear hS hG hG2 hq
          go_wp2_with (first
            | (go_at_call 27; refine (HWT.out _).mono ?_; rintro e3 w3 ⟨rfl, rfl⟩)
            | (go_at_call 28; refine (HSM.out _).mono ?_; rintro e3 w3 ⟨rfl, rfl⟩))
          go_roundw
          case rel => exact ⟨j + 1, by omega, by go_num, by rw [HS1.out], HB.out⟩
          case measure => simp [RowKit.intOf]; omega
        | true =>
          rw [hq] at HSM hS
          cases hx : capZ X with
          | false =>
            rw [hx] at HCP hS
            have HS1 : Hid (scL c (l.take (j + 1)) = S + V) := Lib.hid (by rw [hS, if_neg (by simp)]; omega)
            clear hS hG hG2 hq hx
            go_wp2_with (first
              | (go_at_call 27; refine (HWT.out _).mono ?_; rintro e3 w3 ⟨rfl, rfl⟩)
              | (go_at_call 28; refine (HSM.out _).mono ?_; rintro e3 w3 ⟨rfl, rfl⟩)
              | (go_at_call 29; refine (HCP.out _).mono ?_; rintro e3 w3 ⟨rfl, rfl⟩))
            go_roundw
            case rel => exact ⟨j + 1, by omega, by go_num, by rw [HS1.out], HB.out⟩
            case measure => simp [RowKit.intOf]; omega
          | true =>
            rw [hx] at HCP hS
            have HS1 : Hid (scL c (l.take (j + 1)) = S + V - 3) := Lib.hid (by rw [hS, if_pos ⟨rfl, rfl⟩]; omega)
            clear hS hG hG2 hq hx
            go_wp2_with (first
              | (go_at_call 27; refine (HWT.out _).mono ?_; rintro e3 w3 ⟨rfl, rfl⟩)
              | (go_at_call 28; refine (HSM.out _).mono ?_; rintro e3 w3 ⟨rfl, rfl⟩)
              | (go_at_call 29; refine (HCP.out _).mono ?_; rintro e3 w3 ⟨rfl, rfl⟩))
            go_roundw
            case rel => exact ⟨j + 1, by omega, by go_num, by rw [HS1.out], HB.out⟩
            case measure => simp [RowKit.intOf]; omega
    · obtain rfl : j = l.length := by omega
      have HE : Hid (scL c l = scL c (l.take l.length)) := Lib.hid (by rw [List.take_length])
      go_wp2_with fail
      first | exact HP.out _ _ HE.out (B2.out.trans (HB.out.mono B2.out.size)) | (go_ret2; exact HP.out _ _ HE.out (B2.out.trans (HB.out.mono B2.out.size)))
theorem Score_any (c : Int) (s : ByteArray) (w : World) (hs : s.size ≤ 900) : Calls Tryz.prog 11 #[.int .i64 c, .string s] w (ScP c s w) := by
  by_cases h : c < 0 ∨ 6 < c
  · exact score_none c s w h
  cases hd : (dz c s).2 with
  | none => exact score_good c s w (by omega) (by omega) hs hd
  | some p => exact score_bad c s w (by omega) (by omega) hs p hd
end Go.Proofs.YtiigknimfibdpaaGreatDoor.de
