/- Several texts in one. -/
import Derived.Test.YtiigknimfibdpaaGreatDoorZ23
import Derived.Lib.Join
import Derived.Deep.RegionHeld3
import Derived.Deep.AppendLies
namespace Go.Proofs.YtiigknimfibdpaaGreatDoor.wd
open Go.RowKit Go.Lib
set_option linter.unusedVariables false
theorem int_info : (Tryz.prog.info? 3).map (fun i => (i.zero, i.size, i.bytes)) = some (some (.int .i64 0), 1, 8) := by kernel_rfl
theorem Unit_any (x y : UInt8) (big : Bool) (w : World) : Calls Tryz.prog 84 #[.int .u8 x.toNat, .int .u8 y.toNat, .bool big] w fun e w' => e = .returned (.int .i64 (if big then (x.toNat : Int) * 256 + y.toNat else (y.toNat : Int) * 256 + x.toNat)) ∧ w = w' := by
  have hx := x.toNat_lt
  have hy := y.toNat_lt
  cases big
  all_goals
    go_enter Tryz.func84, Tryz.ntmps84
    go_wp2
    go_ret
    exact ⟨ret_int (by first | rfl | simp), rfl⟩
/-- The units of the first k places. -/
def ul (s : ByteArray) (big : Bool) (k : Nat) : List Value := (List.range k).map fun j => Value.int .i64 (un s big (2 * j))
theorem ul_succ (s : ByteArray) (big : Bool) (k : Nat) : ul s big (k + 1) = ul s big k ++ [.int .i64 (un s big (2 * k))] := by simp [ul, List.range_succ]
theorem un_get (s : ByteArray) (big : Bool) (m : Nat) (h : m + 1 < s.size) : (if big then ((s[m]'(by omega)).toNat : Int) * 256 + (s[m + 1]).toNat else ((s[m + 1]).toNat : Int) * 256 + (s[m]'(by omega)).toNat) = (un s big m : Int) := by
  have hl : s.data.toList.length = s.size := by rw [Array.length_toList]; rfl
  have e1 : s.data.toList.getD m 0 = s[m]'(by omega) := by
    simp only [List.getD, List.getElem?_eq_getElem (show m < s.data.toList.length by omega), Option.getD_some]; rfl
  have e2 : s.data.toList.getD (m + 1) 0 = s[m + 1] := by
    simp only [List.getD, List.getElem?_eq_getElem (show m + 1 < s.data.toList.length by omega), Option.getD_some]; rfl
  unfold un
  rw [e1, e2]
  cases big <;> simp
set_option maxRecDepth 100000 in
set_option maxHeartbeats 2000000 in
theorem Units_any (s : ByteArray) (big : Bool) (w : World) (hs : s.size ≤ 8000) :
    Calls Tryz.prog 56 #[.string s, .bool big] w fun e w' => ∃ v, e = .returned v ∧ w'.ownsRow w.heap.size 3 1 v (s.size / 2) (ul s big (s.size / 2)) ∧ Below w.heap.size w w' := by
  obtain ⟨i0, hi0, hzz⟩ := Option.map_eq_some_iff.1 int_info
  simp only [Prod.mk.injEq] at hzz
  obtain ⟨hz, hsi, hby⟩ := hzz
  go_enter Tryz.func56, Tryz.ntmps56
  go_wp2_with fail
  go_loopw [5, 6] (fun v i wr => ∃ k j m : Nat, m = 2 * k ∧ j = m + 1 ∧ m ≤ s.size ∧ i = .int .i64 j ∧ wr.ownsRow w.heap.size 3 1 v k (ul s big k) ∧ Below w.heap.size w wr) (fun _ i _ => s.size + 1 - (RowKit.intOf i).toNat)
  case atStart => exact ⟨0, 1, 0, rfl, rfl, Nat.zero_le _, rfl, World.ownsRow_nil _ _ _ _, Below.refl _ _⟩
  case round =>
    obtain ⟨k, j, m, hm, hj, hms, rfl, hown, hB⟩ := hrel
    have HOW := Lib.hid hown; have HB := Lib.hid hB; have HM := Lib.hid hm; have HJ := Lib.hid hj
    have hk4 : k ≤ 4000 := by omega
    clear hown hB
    by_cases hlt : j < s.size
    · have hmlt : m < s.size := by omega
      have hU := un_get s big m (by omega)
      have hUU := Unit_any (s[m]'hmlt) (s[j]'hlt) big
      have hjj : s[j]'hlt = s[m + 1]'(by omega) := by subst hj; rfl
      rw [hjj, hU] at hUU
      rw [← hjj] at hUU
      have w1 : IntKind.i64.wrap ((j : Int) - 1) = (m : Int) := by rw [IntKind.wrap_i64]; omega
      have w2 : wrap64 ((j : Int) - 1) = (m : Int) := by rw [← IntWalk.i64_left]; exact w1
      have b0 : (0 : Int) ≤ (j : Int) := by omega
      have b1 : (j : Int) < (s.size : Int) := by omega
      have b2 : (0 : Int) ≤ (m : Int) := by omega
      have b3 : (m : Int) < (s.size : Int) := by omega
      obtain ⟨U, hUe⟩ : ∃ U : Int, U = (un s big m : Int) := ⟨_, rfl⟩
      rw [← hUe] at hUU
      have HUU := Lib.hid hUU; have HUE := Lib.hid hUe
      clear hU hUU hjj hUe hm hj
      go_wp2_with fail
      go_region_held3 (fun _ => True) (trivial) ((first
        | (go_at_call 84; refine (HUU.out _).mono ?_; rintro e1 w1 ⟨rfl, rfl⟩)
        | (refine step_append_lies _ (by rfl) _ _ _ (by rfl) w.heap.size 3 i0 _ 1 8 Tryz.underlying28 hi0 hz hsi hby rfl (by decide) u5 k (ul s big k) (by rfl) ((HOW.out.alloc _).drew) ⟨wr.heap.size, 0, none⟩ 1 1 [.int .i64 U] (by rfl) (by rfl) (World.news_of_block (cs := #[.int .i64 U]) (t := 3) (fr := (0, 0)) (heap_alloc_new wr _)) (by simp [Value.oneCell']) (by omega) (by unfold maxLen; omega) (by omega) (by have := HB.out.size; simp; omega) (wr.heap.size + 1) (by simp) ?_; intro gg cap w5 hown5 hgrow hat hlt5)))
      go_wp2_with fail
      all_goals
        have HO5 := Lib.hid hown5
        have B5 := Lib.hid (below_grown0 ((HB.out.alloc HB.out.size (.cells #[.int .i64 U] 3)).drew) (by have := HB.out.size; simp; omega) ((HOW.out.alloc _).drew) hgrow)
        clear hown5 hgrow
        go_roundw
        case rel => exact ⟨k + 1, j + 2, m + 2, by have := HM.out; omega, by have := HJ.out; omega, by have := HJ.out; omega, by go_num, by rw [ul_succ, ← HM.out, ← HUE.out]; exact HO5.out, B5.out⟩
        case measure => simp [RowKit.intOf]; omega
    · have hk2 : k = s.size / 2 := by have := HM.out; have := HJ.out; omega
      go_wp2_with fail
      go_ret
      exact ⟨_, rfl, by rw [← hk2]; exact HOW.out, HB.out⟩
end Go.Proofs.YtiigknimfibdpaaGreatDoor.wd
namespace Go.Proofs.YtiigknimfibdpaaGreatDoor.wd
open Go.RowKit Go.Lib
set_option linter.unusedVariables false
/-- A slice of units as ints, none or a row. -/
def RowN (w : World) (p : Option Addr) (n c : Nat) (s : ByteArray) (big : Bool) : Prop :=
  (p = none ∧ n = 0 ∧ c = 0) ∨ ∃ a, p = some a ∧ n ≤ c ∧ c ≤ maxLen ∧ ∀ i, i < n → w.cell? (a.add i) = some (.int .i64 (un s big (2 * i)))
theorem RowN.below {w w' : World} {p : Option Addr} {n c : Nat} {s : ByteArray} {big : Bool} (h : RowN w p n c s big) (hb : Below w.heap.size w w') : RowN w' p n c s big := by
  rcases h with h | ⟨a, h1, h2, h3, h5⟩
  · exact .inl h
  · exact .inr ⟨a, h1, h2, h3, fun i hi => (hb.cell (World.block_lt_of_cell? w _ (h5 i hi))).trans (h5 i hi)⟩
theorem RowN.at {w : World} {p : Option Addr} {n c : Nat} {s : ByteArray} {big : Bool} (h : RowN w p n c s big) (i : Nat) (hi : i < n) : ∃ a, p = some a ∧ n ≤ c ∧ c ≤ maxLen ∧ ∀ i, i < n → w.cell? (a.add i) = some (.int .i64 (un s big (2 * i))) := by
  rcases h with ⟨_, h1, _⟩ | ⟨a, h1, h2, h3, h5⟩
  · omega
  · exact ⟨a, h1, h2, h3, h5⟩
theorem rowN_of {B n : Nat} {v : Value} {s : ByteArray} {big : Bool} {w : World} (h : w.ownsRow B 3 1 v n (ul s big n)) : ∃ p c, v = .slice p n c ∧ RowN w p n c s big := by
  obtain ⟨hl, ⟨rfl, h0⟩ | ⟨g, cap, cur, rfl, hB, hg, h1, h2, h3, h4⟩⟩ := h
  · exact ⟨none, 0, by rw [h0], .inl ⟨rfl, h0, rfl⟩⟩
  · refine ⟨_, _, rfl, .inr ⟨_, rfl, h1, h2, fun i hi => ?_⟩⟩
    rw [pt.add_zero]
    have h5 := congrArg (·[i]?) h4
    simp only [Nat.mul_one] at h5
    rw [List.getElem?_take_of_lt hi, Array.getElem?_toList] at h5
    simp only [World.cell?, hg]
    simp [h5, ul, hi]
/-- The answer's place. -/
def rat : Option Nat → Int
  | none => -1
  | some a => (a : Int)
theorem data_app (t s : ByteArray) : (t ++ s).data.toList = t.data.toList ++ s.data.toList := by simp
theorem ret_si {s : ByteArray} {a b : Int} (h : a = b) : Ending.returned (.tuple #[.string s, .int .i64 a]) = .returned (.tuple #[.string s, .int .i64 b]) := by rw [h]
theorem txt_snoc (zs : List Int) (p : Int) : pt.txt zs ++ strOfNums (encodeRuneZ p) = pt.txt (zs ++ [p]) := by
  apply ByteArray.ext
  apply Array.ext'
  show (pt.txt zs ++ strOfNums (encodeRuneZ p)).data.toList = (pt.txt (zs ++ [p])).data.toList
  rw [data_app, pt.txt_data, pt.txt_data, strOfNums_data]
  simp [pt.nums]
set_option maxRecDepth 100000 in
set_option maxHeartbeats 4000000 in
theorem refDecode_any (s : ByteArray) (big : Bool) (w : World) (hs : s.size ≤ 8000) :
    Calls Tryz.prog 35 #[.string s, .bool big] w fun e w' => e = .returned (.tuple #[.string (wt (wscan s big)), .int .i64 (rat (wscan s big).2)]) ∧ Below w.heap.size w w' := by
  obtain ⟨L, hL⟩ : ∃ L, L = (wscan s big).1 := ⟨_, rfl⟩
  obtain ⟨D, hD⟩ : ∃ D, D = (wscan s big).2 := ⟨_, rfl⟩
  have hLD : wscan s big = (L, D) := by rw [hL, hD]
  rw [hLD]
  have hL1 : (wd s big s.size 0).1 = L := hL.symm
  have hD1 : (wd s big s.size 0).2 = D := hD.symm
  have HL1 := Lib.hid hL1; have HD1 := Lib.hid hD1
  obtain ⟨N, hN⟩ : ∃ N, N = s.size / 2 := ⟨_, rfl⟩
  have hun : Hid (∀ w2, Calls Tryz.prog 56 #[.string s, .bool big] w2 fun e w' => ∃ p c, e = .returned (.slice p N c) ∧ RowN w' p N c s big ∧ Below w2.heap.size w2 w') := Lib.hid (fun w2 => by
    refine (Units_any s big w2 hs).mono ?_
    rintro e w' ⟨v, rfl, ho, hb⟩
    rw [← hN] at ho
    obtain ⟨p, c, rfl, hr⟩ := rowN_of ho
    exact ⟨p, c, rfl, hr, hb⟩)
  have HN := Lib.hid hN
  clear hL hD hLD hL1 hD1 hN
  go_enter Tryz.func35, Tryz.ntmps35
  go_wp2_with (go_at_call 56; refine (hun.out _).mono ?_; rintro e1 w1 ⟨p, c, rfl, hr1, hb1⟩; have HR1 := Lib.hid hr1; have HB1 := Lib.hid hb1; clear hr1 hb1)
  go_loopw [7, 8] (fun t i wr => ∃ (k f m : Nat) (pre : List Int), m = 2 * k ∧ k ≤ N ∧ i = .int .i64 k ∧ s.size ≤ m + f ∧ pre.length ≤ k ∧ t = .string (pt.txt pre) ∧ pre ++ (wd s big f m).1 = L ∧ (wd s big f m).2 = D ∧ RowN wr p N c s big ∧ Below w.heap.size w wr) (fun _ i _ => N - (RowKit.intOf i).toNat)
  case atStart => exact ⟨0, s.size, 0, [], rfl, Nat.zero_le _, rfl, by omega, Nat.le_refl _, rfl, HL1.out, HD1.out, HR1.out, HB1.out⟩
  case round =>
    obtain ⟨k, f, m, pre, hm, hkN, rfl, hf, hpl, rfl, hpre, hsc, hR, hB⟩ := hrel
    have HPR := Lib.hid hpre; have HSC := Lib.hid hsc; have HR := Lib.hid hR; have HB := Lib.hid hB; have HM := Lib.hid hm
    clear hpre hsc hR hB hm
    have hN4 : N ≤ 4000 := by have := HN.out; omega
    by_cases hlt : k < N
    · obtain ⟨a, rfl, a1, a2, hcells⟩ := HR.out.at k hlt
      unfold maxLen at a2
      have hms : m + 2 ≤ s.size := by have := HN.out; have := HM.out; omega
      have hmp : m < s.size := by omega
      have c0 := hcells k hlt
      rw [← HM.out] at c0
      have hU := un_lt s big m
      cases hw : wn s big m with
      | none =>
        have hsc1 := HSC.out
        rw [wd_bad s big f m hmp hf hw] at hsc1
        have hDe : D = some m := hsc1.symm
        subst hDe
        have hn := un_none hw hms
        clear hsc1 hw
        by_cases h1 : un s big m < 56320
        · by_cases h2 : k + 1 < N
          · have c1 := hcells (k + 1) h2
            rw [show 2 * (k + 1) = m + 2 by have := HM.out; omega] at c1
            have hV := hn.2.2 h1 (by have := HN.out; have := HM.out; omega)
            have hV2 := un_lt s big (m + 2)
            have d0 : 55296 ≤ (un s big m : Int) := by omega
            have d1 : (un s big m : Int) ≤ 56319 := by omega
            have d2 : (k : Int) + 1 < (N : Int) := by omega
            have d4 : (0 : Int) ≤ (k : Int) + 1 := by omega
            have d5 : ((k : Int) + 1).toNat = k + 1 := by omega
            have d8 : decide (56319 < (un s big m : Int)) = false := by simp; omega
            have d9 : decide ((N : Int) ≤ (k : Int) + 1) = false := by simp; omega
            have c2 : wr.cell? ⟨a.block, a.off + (k + 1), none⟩ = some (.int .i64 (un s big (m + 2))) := by rw [← c1]; rfl
            have hV3 : (un s big (m + 2) : Int) < 56320 ∨ ((un s big (m + 2) : Int) > 57343) := by omega
            have hV4 : 0 ≤ (un s big (m + 2) : Int) := by omega
            clear hV hV2 hU h1 hn hms hmp hcells
            generalize (un s big m : Int) = U at *
            generalize (un s big (m + 2) : Int) = V at *
            rcases hV3 with hV3 | hV3
            · go_wp2_with fail
              go_ret2
              exact ⟨ret_si (by show _ = (m : Int); have := HM.out; omega), HB.out⟩
            · have hV5 : ¬ V < 56320 := by omega
              go_wp2_with fail
              go_ret2
              exact ⟨ret_si (by show _ = (m : Int); have := HM.out; omega), HB.out⟩
          · have d0 : 55296 ≤ (un s big m : Int) := by omega
            have d1 : (un s big m : Int) ≤ 56319 := by omega
            have d2 : (N : Int) ≤ (k : Int) + 1 := by omega
            clear hU h1 hn hms hmp hcells
            generalize (un s big m : Int) = U at *
            go_wp2_with fail
            go_ret2
            exact ⟨ret_si (by show _ = (m : Int); have := HM.out; omega), HB.out⟩
        · have d0 : 56319 < (un s big m : Int) := by omega
          have d1 : (un s big m : Int) ≤ 57343 := by omega
          clear hU h1 hn hms hmp hcells
          generalize (un s big m : Int) = U at *
          go_wp2_with fail
          go_ret2
          exact ⟨ret_si (by show _ = (m : Int); have := HM.out; omega), HB.out⟩
      | some d =>
        obtain ⟨q, n⟩ := d
        obtain ⟨f1, rfl⟩ : ∃ f1, f = f1 + 1 := ⟨f - 1, by omega⟩
        have hsc1 := HSC.out
        have hpr1 := HPR.out
        rw [wd_good s big f1 m hmp _ hw] at hsc1 hpr1
        have HS1 := Lib.hid hsc1; have HP1 := Lib.hid hpr1
        have HBY := Lib.hid (fun w2 => pt.bytes_any q w2 (wn_valid hw))
        have HTS := Lib.hid (txt_snoc pre q)
        have hk2 := (wn_two hw).2.1
        have hBs : (strOfNums (encodeRuneZ q)).size ≤ 4 := by rw [strOfNums_size]; exact (encodeRuneZ_length q).2
        have hTs : (pt.txt pre).size ≤ 16000 := by
          have := pt.txt_size pre
          have := pt.nums_len pre
          omega
        clear hsc1 hpr1
        by_cases h1 : un s big m < 55296 ∨ 57344 ≤ un s big m
        · unfold wn at hw
          rw [if_neg (by omega), if_pos h1] at hw
          obtain ⟨rfl, rfl⟩ : (un s big m : Int) = q ∧ 2 = n := by simpa using hw
          have h2 : (un s big m : Int) < 55296 ∨ (un s big m : Int) > 57343 := by omega
          have h3 : (un s big m : Int) ≤ 65535 := by omega
          have h4 : 0 ≤ (un s big m : Int) := by omega
          clear hw h1 hU hcells hms hmp
          generalize (un s big m : Int) = U at *
          generalize strOfNums (encodeRuneZ U) = B at *
          obtain ⟨T0, hT0⟩ : ∃ T0, T0 = pt.txt pre := ⟨_, rfl⟩
          rw [← hT0] at HTS hTs ⊢
          clear hT0
          have hcat : ¬ 9223372036854775807 < T0.size + B.size := by omega
          rcases h2 with h2 | h2
          · go_wp2_with (go_at_call 54; refine (HBY.out _).mono ?_; rintro e3 w3 ⟨rfl, hb3⟩)
            go_roundw
            case rel => exact ⟨k + 1, f1, m + 2, pre ++ [U], by have := HM.out; omega, by omega, by go_num, by omega, by simp; omega, by rw [HTS.out], by rw [List.append_assoc]; exact HP1.out, HS1.out, HR.out.below hb3, HB.out.trans (hb3.mono HB.out.size)⟩
            case measure => simp [RowKit.intOf]; omega
          · have h5 : ¬ U ≤ 57343 := by omega
            go_wp2_with (go_at_call 54; refine (HBY.out _).mono ?_; rintro e3 w3 ⟨rfl, hb3⟩)
            go_roundw
            case rel => exact ⟨k + 1, f1, m + 2, pre ++ [U], by have := HM.out; omega, by omega, by go_num, by omega, by simp; omega, by rw [HTS.out], by rw [List.append_assoc]; exact HP1.out, HS1.out, HR.out.below hb3, HB.out.trans (hb3.mono HB.out.size)⟩
            case measure => simp [RowKit.intOf]; omega
        · unfold wn at hw
          rw [if_neg (by omega), if_neg h1] at hw
          have h2 : un s big m < 56320 ∧ m + 4 ≤ s.size ∧ 56320 ≤ un s big (m + 2) ∧ un s big (m + 2) < 57344 := by
            by_cases c : un s big m < 56320 ∧ m + 4 ≤ s.size ∧ 56320 ≤ un s big (m + 2) ∧ un s big (m + 2) < 57344
            · exact c
            · rw [if_neg c] at hw; cases hw
          rw [if_pos h2] at hw
          obtain ⟨e1, rfl⟩ : 65536 + ((un s big m : Int) - 55296) * 1024 + (un s big (m + 2) : Int) - 56320 = q ∧ 4 = n := by simpa using hw
          have hkN1 : k + 1 < N := by have := HM.out; have := HN.out; omega
          have c1 := hcells (k + 1) hkN1
          rw [show 2 * (k + 1) = m + 2 by have := HM.out; omega] at c1
          have d0 : 55296 ≤ (un s big m : Int) := by omega
          have d1 : (un s big m : Int) ≤ 56319 := by omega
          have d2 : (k : Int) + 1 < (N : Int) := by omega
          have d4 : (0 : Int) ≤ (k : Int) + 1 := by omega
          have d5 : ((k : Int) + 1).toNat = k + 1 := by omega
          have d8 : decide (56319 < (un s big m : Int)) = false := by simp; omega
          have d9 : decide ((N : Int) ≤ (k : Int) + 1) = false := by simp; omega
          have c2 : wr.cell? ⟨a.block, a.off + (k + 1), none⟩ = some (.int .i64 (un s big (m + 2))) := by rw [← c1]; rfl
          have d6 : 56320 ≤ (un s big (m + 2) : Int) := by omega
          have d7 : (un s big (m + 2) : Int) ≤ 57343 := by omega
          rw [← e1] at HBY HTS HP1 hBs
          clear hw h1 hU hcells hms h2 e1 hk2
          generalize (un s big m : Int) = U at *
          generalize (un s big (m + 2) : Int) = V at *
          generalize strOfNums (encodeRuneZ (65536 + (U - 55296) * 1024 + V - 56320)) = B at *
          obtain ⟨T0, hT0⟩ : ∃ T0, T0 = pt.txt pre := ⟨_, rfl⟩
          rw [← hT0] at HTS hTs ⊢
          clear hT0
          have hcat : ¬ 9223372036854775807 < T0.size + B.size := by omega
          go_wp2_with (go_at_call 54; refine (HBY.out _).mono ?_; rintro e3 w3 ⟨rfl, hb3⟩)
          go_roundw
          case rel => exact ⟨k + 2, f1, m + 4, pre ++ [65536 + (U - 55296) * 1024 + V - 56320], by have := HM.out; omega, by omega, by go_num, by omega, by simp; omega, by rw [HTS.out], by rw [List.append_assoc]; exact HP1.out, HS1.out, HR.out.below hb3, HB.out.trans (hb3.mono HB.out.size)⟩
          case measure => simp [RowKit.intOf]; omega
    · obtain rfl : k = N := by omega
      have hsz0 : (0 : Int) ≤ (s.size : Int) := by omega
      by_cases hodd : s.size % 2 = 1
      · have hmp : m < s.size := by have := HM.out; have := HN.out; omega
        have hw : wn s big m = none := by unfold wn; rw [if_pos (by have := HM.out; have := HN.out; omega)]
        have hsc1 := HSC.out
        rw [wd_bad s big f m hmp hf hw] at hsc1
        have hDe : D = some m := hsc1.symm
        subst hDe
        have hm1 : (s.size : Int) % 2 = 1 := by omega
        have hz1 : 1 ≤ (s.size : Int) := by omega
        clear hsc1 hw hodd
        go_wp2_with fail
        go_ret2
        exact ⟨ret_si (by show _ = (m : Int); have := HM.out; have := HN.out; omega), HB.out⟩
      · have hmp : ¬ m < s.size := by have := HM.out; have := HN.out; omega
        have hsc1 := HSC.out
        have hpr1 := HPR.out
        rw [wd_end s big f m hmp] at hsc1 hpr1
        simp only [List.append_nil] at hpr1
        have hDe : D = none := hsc1.symm
        subst hDe
        subst hpr1
        have hm1 : ((s.size : Int) % 2 == 1) = false := by
          rw [beq_eq_false_iff_ne]; omega
        have hm2 : ¬ (s.size : Int) % 2 = 1 := by omega
        have e : wt (pre, none) = pt.txt pre := rfl
        clear hsc1 hodd
        go_wp2_with fail
        go_ret2
        exact ⟨by rw [e]; rfl, HB.out⟩
end Go.Proofs.YtiigknimfibdpaaGreatDoor.wd
