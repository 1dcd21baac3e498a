/- Several texts in one. -/
import Derived.Test.YtiigknimfibdpaaGreatDoorZ27
import Derived.Test.YtiigknimfibdpaaGreatDoorZ13
import Derived.Test.YtiigknimfibdpaaGreatDoorZ25
import Derived.Test.YtiigknimfibdpaaGreatDoorZ20
import Derived.Test.YtiigknimfibdpaaGreatDoorCh1
namespace Go.Proofs.YtiigknimfibdpaaGreatDoor.ch
open Go.RowKit Go.Lib
set_option linter.unusedVariables false
/-- What the charsets of two bytes a sign ask of the world: the tables of layers 2, 6 and 8. -/
structure K9 (w : World) : Prop where
  t : pt.Tabs w
  j : jo.KD w
  d : bp.DD w
theorem textOf_no (p : Int) (w : World) : Calls Tryz.prog 148 #[.int .i32 p, .bool false] w fun e w' => e = .returned (.tuple #[.string ⟨#[]⟩, .bool false]) ∧ Below w.heap.size w w' := by
  go_enter Tryz.func148, Tryz.ntmps148
  go_wp2_with fail
  go_ret2
  exact ⟨rfl, Below.refl _ _⟩
theorem textOf_yes {p : Int} (h : validRune p = true) (w : World) : Calls Tryz.prog 148 #[.int .i32 p, .bool true] w fun e w' => e = .returned (.tuple #[.string (pt.txt [p]), .bool true]) ∧ Below w.heap.size w w' := by
  have HX := Lib.hid (fun W => bp.txt_one h W)
  generalize pt.txt [p] = T at *
  clear h
  go_enter Tryz.func148, Tryz.ntmps148
  go_wp2_with (go_at_call 73; refine (HX.out _).mono ?_; rintro e2 w2 ⟨rfl, hb2⟩; have B2 := Lib.hid hb2; clear hb2)
  go_ret2
  exact ⟨rfl, B2.out⟩
/-- What two bytes come to. -/
def s2V (c : Int) (l b : Nat) : Value := .tuple #[.string (s2T c l b), .bool (!(sg2 c l b).isEmpty)]
theorem s2V_none {c : Int} {l b : Nat} (h : sg2 c l b = []) : s2V c l b = .tuple #[.string ⟨#[]⟩, .bool false] := by unfold s2V s2T; rw [h]; rfl
theorem s2V_one {c : Int} {l b S : Nat} (h : sg2 c l b = [S]) : s2V c l b = .tuple #[.string (pt.txt [(S : Int)]), .bool true] := by unfold s2V s2T; rw [h]; rfl
set_option maxRecDepth 100000 in
set_option maxHeartbeats 2000000 in
theorem two_any (c : Int) (l b : Nat) (w : World) (hK : K9 w) (hc : c = 4 ∨ c = 5 ∨ c = 6) (hl : l < 256) (hb : b < 256) : Calls Tryz.prog 107 #[.int .i64 c, .int .u8 l, .int .u8 b] w fun e w' => e = .returned (s2V c l b) ∧ Below w.heap.size w w' := by
  obtain ⟨PP, hPP⟩ : ∃ PP, PP = s2V c l b := ⟨_, rfl⟩
  rw [← hPP]
  have HPP := Lib.hid hPP
  clear hPP
  rcases hc with rfl | rfl | rfl
  · have HS := Lib.hid (wr.signL_any l b w hK.t hl hb)
    by_cases hz : wa.sgW l b = 0
    · have e : wa.sgV (wa.sgW l b) = .tuple #[.int .i32 0, .bool false] := by rw [hz]; rfl
      have HV : Hid (PP = .tuple #[.string ⟨#[]⟩, .bool false]) := Lib.hid (by rw [HPP.out]; exact s2V_none (by unfold sg2; rw [if_pos rfl, if_pos hz]))
      have HS2 : Hid (Calls Tryz.prog 98 #[.int .u8 l, .int .u8 b] w fun e w' => e = .returned (.tuple #[.int .i32 0, .bool false]) ∧ Below w.heap.size w w') := Lib.hid (by rw [← e]; exact HS.out)
      have HT := Lib.hid (fun W => textOf_no 0 W)
      clear HS e hz hK
      generalize (l : Int) = L at *
      generalize (b : Int) = B at *
      clear hl hb
      go_enter Tryz.func107, Tryz.ntmps107
      go_wp2_with (first | (go_at_call 98; refine (HS2.out).mono ?_; rintro e1 w1 ⟨rfl, hb1⟩; have B1 := Lib.hid hb1; clear hb1) | (go_at_call 148; refine (HT.out _).mono ?_; rintro e2 w2 ⟨rfl, hb2⟩; have B2 := Lib.hid (B1.out.trans (hb2.mono B1.out.size)); clear hb2))
      go_ret2
      exact ⟨congrArg Ending.returned HV.out.symm, B2.out⟩
    · have e : wa.sgV (wa.sgW l b) = .tuple #[.int .i32 ((wa.sgW l b : Nat) : Int), .bool true] := by unfold wa.sgV; rw [decide_eq_true hz]
      have HV : Hid (PP = .tuple #[.string (pt.txt [((wa.sgW l b : Nat) : Int)]), .bool true]) := Lib.hid (by rw [HPP.out]; exact s2V_one (by unfold sg2; rw [if_pos rfl, if_neg hz]))
      have HS2 : Hid (Calls Tryz.prog 98 #[.int .u8 l, .int .u8 b] w fun e w' => e = .returned (.tuple #[.int .i32 ((wa.sgW l b : Nat) : Int), .bool true]) ∧ Below w.heap.size w w') := Lib.hid (by rw [← e]; exact HS.out)
      have HT := Lib.hid (fun W => textOf_yes (sgW_valid hl hb hz) W)
      clear HS e hz hK
      generalize pt.txt [((wa.sgW l b : Nat) : Int)] = T at *
      generalize ((wa.sgW l b : Nat) : Int) = S at *
      generalize (l : Int) = L at *
      generalize (b : Int) = B at *
      clear hl hb
      go_enter Tryz.func107, Tryz.ntmps107
      go_wp2_with (first | (go_at_call 98; refine (HS2.out).mono ?_; rintro e1 w1 ⟨rfl, hb1⟩; have B1 := Lib.hid hb1; clear hb1) | (go_at_call 148; refine (HT.out _).mono ?_; rintro e2 w2 ⟨rfl, hb2⟩; have B2 := Lib.hid (B1.out.trans (hb2.mono B1.out.size)); clear hb2))
      go_ret2
      exact ⟨congrArg Ending.returned HV.out.symm, B2.out⟩
  · have HS := Lib.hid (jo.sign_any l b w hl hb hK.j)
    by_cases hz : jo.sg (l * 256 + b) = 0
    · have e : jo.sV (jo.sg (l * 256 + b)) = .tuple #[.int .i32 0, .bool false] := by rw [hz]; rfl
      have HV : Hid (PP = .tuple #[.string ⟨#[]⟩, .bool false]) := Lib.hid (by rw [HPP.out]; exact s2V_none (by unfold sg2; rw [if_neg (by omega), if_pos rfl, if_pos hz]))
      have HS2 : Hid (Calls Tryz.prog 96 #[.int .u8 l, .int .u8 b] w fun e w' => e = .returned (.tuple #[.int .i32 0, .bool false]) ∧ Below w.heap.size w w') := Lib.hid (by rw [← e]; exact HS.out)
      have HT := Lib.hid (fun W => textOf_no 0 W)
      clear HS e hz hK
      generalize (l : Int) = L at *
      generalize (b : Int) = B at *
      clear hl hb
      go_enter Tryz.func107, Tryz.ntmps107
      go_wp2_with (first | (go_at_call 96; refine (HS2.out).mono ?_; rintro e1 w1 ⟨rfl, hb1⟩; have B1 := Lib.hid hb1; clear hb1) | (go_at_call 148; refine (HT.out _).mono ?_; rintro e2 w2 ⟨rfl, hb2⟩; have B2 := Lib.hid (B1.out.trans (hb2.mono B1.out.size)); clear hb2))
      go_ret2
      exact ⟨congrArg Ending.returned HV.out.symm, B2.out⟩
    · have e : jo.sV (jo.sg (l * 256 + b)) = .tuple #[.int .i32 ((jo.sg (l * 256 + b) : Nat) : Int), .bool true] := by unfold jo.sV; rw [decide_eq_true hz]
      have HV : Hid (PP = .tuple #[.string (pt.txt [((jo.sg (l * 256 + b) : Nat) : Int)]), .bool true]) := Lib.hid (by rw [HPP.out]; exact s2V_one (by unfold sg2; rw [if_neg (by omega), if_pos rfl, if_neg hz]))
      have HS2 : Hid (Calls Tryz.prog 96 #[.int .u8 l, .int .u8 b] w fun e w' => e = .returned (.tuple #[.int .i32 ((jo.sg (l * 256 + b) : Nat) : Int), .bool true]) ∧ Below w.heap.size w w') := Lib.hid (by rw [← e]; exact HS.out)
      have HT := Lib.hid (fun W => textOf_yes (sgJ_valid (show l * 256 + b < 65536 by omega) hz) W)
      clear HS e hz hK
      generalize pt.txt [((jo.sg (l * 256 + b) : Nat) : Int)] = T at *
      generalize ((jo.sg (l * 256 + b) : Nat) : Int) = S at *
      generalize (l : Int) = L at *
      generalize (b : Int) = B at *
      clear hl hb
      go_enter Tryz.func107, Tryz.ntmps107
      go_wp2_with (first | (go_at_call 96; refine (HS2.out).mono ?_; rintro e1 w1 ⟨rfl, hb1⟩; have B1 := Lib.hid hb1; clear hb1) | (go_at_call 148; refine (HT.out _).mono ?_; rintro e2 w2 ⟨rfl, hb2⟩; have B2 := Lib.hid (B1.out.trans (hb2.mono B1.out.size)); clear hb2))
      go_ret2
      exact ⟨congrArg Ending.returned HV.out.symm, B2.out⟩
  · have HS := bp.signsL_any l b w hK.d hl hb
    have e : bg.sgV l b = .tuple #[.string (s2T 6 l b), .bool (!(sg2 6 l b).isEmpty)] := by
      unfold bg.sgV bg.sgT s2T sg2
      rw [if_neg (by omega), if_neg (by omega)]
    rw [e] at HS
    have HV : Hid (PP = .tuple #[.string (s2T 6 l b), .bool (!(sg2 6 l b).isEmpty)]) := Lib.hid HPP.out
    generalize s2T 6 l b = T at *
    generalize (!(sg2 6 l b).isEmpty) = O at *
    generalize (l : Int) = L at *
    generalize (b : Int) = B at *
    have HS2 := Lib.hid HS
    clear HS e hK hl hb
    go_enter Tryz.func107, Tryz.ntmps107
    go_wp2_with (first | (go_at_call 100; refine (HS2.out).mono ?_; rintro e1 w1 ⟨rfl, hb1⟩; have B1 := Lib.hid hb1; clear hb1))
    go_ret2
    exact ⟨congrArg Ending.returned HV.out.symm, B1.out⟩
/-- One byte, read. -/
theorem big1_ok (t : ByteArray) (k b : Nat) (bs at' : Int) (w : World) (h : oct.Rd w b t k bs 0 at') (hk : k + 1 ≤ t.size) (ht : t.size ≤ maxLen) :
    Calls Tryz.prog 105 #[.pointer (some ⟨b, 0, none⟩), .int .i64 1] w fun e w' => e = .returned (.int .u64 ((bt t k : Nat) : Int)) ∧ oct.Rd w' b t ((k + 1 : Nat) : Int) bs 0 at' ∧ oct.Upd b w w' := by
  have htk := oct.take_ok w b t k 1 (t.size - k) bs at' h (by omega) (by omega) ht
  have hsz : (t.extract k (k + 1)).size ≤ 8 := by rw [ByteArray.size_extract]; omega
  have e2 : (t.extract k (k + 1)).data.toList = [t.data.toList.getD k 0] := by
    have hl : t.data.toList.length = t.size := by rw [Array.length_toList]; rfl
    have e : (t.extract k (k + 1)).data.toList = (t.data.toList.drop k).take 1 := by simp [ByteArray.extract, ByteArray.copySlice]
    rw [e, List.drop_eq_getElem_cons (by omega)]
    simp [List.getD, List.getElem?_eq_getElem (show k < t.data.toList.length by omega)]
  have hc := oct.rbig_of (.pointer (some ⟨b, 0, none⟩)) 1 1 (t.extract k (k + 1)) _ w (by omega) (by omega) rfl hsz htk
  have e : (oct.num (t.extract k (k + 1)).data.toList : Int) = ((bt t k : Nat) : Int) := by rw [e2]; simp [oct.num, bt]
  rw [e] at hc
  exact hc
/-- One byte that isn't there. -/
theorem big1_short (t : ByteArray) (b : Nat) (bs at' : Int) (w : World) (h : oct.Rd w b t t.size bs 0 at') (ht : t.size ≤ maxLen) (z0 : 0 ≤ bs) (z1 : bs ≤ 9223372036854775807) :
    Calls Tryz.prog 105 #[.pointer (some ⟨b, 0, none⟩), .int .i64 1] w fun e w' => e = .returned (.int .u64 0) ∧ oct.Rd w' b t t.size bs 1 (oct.plc bs t.size) ∧ oct.Upd b w w' := by
  have htk := oct.take_short w b t t.size 0 1 bs at' h (by omega) (by omega) ht z0 z1
  exact oct.rbig_of (.pointer (some ⟨b, 0, none⟩)) 1 1 ⟨#[]⟩ _ w (by omega) (by omega) rfl (by decide) htk
end Go.Proofs.YtiigknimfibdpaaGreatDoor.ch
namespace Go.Proofs.YtiigknimfibdpaaGreatDoor.ch
open Go.RowKit Go.Lib
set_option linter.unusedVariables false
theorem K9.below {w w' : World} (h : K9 w) (hb : Below w.heap.size w w') : K9 w' := ⟨h.t.below hb, h.j.stay hb, h.d.stay hb⟩
set_option maxRecDepth 100000 in
set_option maxHeartbeats 2000000 in
theorem next_low (c : Int) (t : ByteArray) (k b : Nat) (bs at' : Int) (w : World) (h : oct.Rd w b t k bs 0 at') (hk : k < t.size) (ht : t.size ≤ 8000) (hl : bt t k < 128) :
    Calls Tryz.prog 68 #[.pointer (some ⟨b, 0, none⟩), .int .i64 c] w fun e w' => e = .returned (.tuple #[.string (pt.txt [((bt t k : Nat) : Int)]), .bool true]) ∧ oct.Rd w' b t ((k + 1 : Nat) : Int) bs 0 at' ∧ oct.Upd b w w' := by
  have HC := Lib.hid (big1_ok t k b bs at' w h (by omega) (by unfold maxLen; omega))
  have hv : validRune ((bt t k : Nat) : Int) = true := vr_of (.inl (by omega))
  have HX := Lib.hid (fun W => bp.txt_one hv W)
  have u0 : 0 ≤ ((bt t k : Nat) : Int) := by omega
  have u1 : ((bt t k : Nat) : Int) < 128 := by omega
  have hlt := h.lt
  clear h hv hl
  generalize pt.txt [((bt t k : Nat) : Int)] = T at *
  generalize ((bt t k : Nat) : Int) = U at *
  go_enter Tryz.func68, Tryz.ntmps68
  go_wp2_with (first
    | (go_at_call 105; refine HC.out.mono ?_; rintro e1 w1 ⟨rfl, hR, hU⟩; have R1 := Lib.hid hR; have U1 := Lib.hid hU; clear hR hU)
    | (go_at_call 73; refine (HX.out _).mono ?_; rintro e2 w2 ⟨rfl, hb2⟩; have R2 := Lib.hid (R1.out.below hb2 R1.out.lt); have U2 := Lib.hid (U1.out.trans (oct.Upd.of hb2 (Nat.le_refl _))); clear hb2))
  go_ret2
  exact ⟨rfl, R2.out, U2.out⟩
set_option maxRecDepth 100000 in
set_option maxHeartbeats 2000000 in
theorem next_two (c : Int) (t : ByteArray) (k b : Nat) (bs at' : Int) (w0 w : World) (hK : K9 w0) (hB : Below w0.heap.size w0 w) (hb0 : w0.heap.size ≤ b) (hc : c = 4 ∨ c = 5 ∨ c = 6) (h : oct.Rd w b t k bs 0 at') (hk : k + 1 < t.size) (ht : t.size ≤ 8000) (hl : ¬ bt t k < 128) :
    Calls Tryz.prog 68 #[.pointer (some ⟨b, 0, none⟩), .int .i64 c] w fun e w' => e = .returned (s2V c (bt t k) (bt t (k + 1))) ∧ oct.Rd w' b t ((k + 2 : Nat) : Int) bs 0 at' ∧ oct.Upd b w w' := by
  have HC := Lib.hid (big1_ok t k b bs at' w h (by omega) (by unfold maxLen; omega))
  have HC2 := Lib.hid (fun W hR => big1_ok t (k + 1) b bs at' W hR (by omega) (by unfold maxLen; omega))
  have l1 := bt_lt t k
  have l2 := bt_lt t (k + 1)
  have HT : Hid (∀ W, Below w0.heap.size w0 W → Calls Tryz.prog 107 #[.int .i64 c, .int .u8 ((bt t k : Nat) : Int), .int .u8 ((bt t (k + 1) : Nat) : Int)] W fun e w' => e = .returned (.tuple #[.string (s2T c (bt t k) (bt t (k + 1))), .bool (!(sg2 c (bt t k) (bt t (k + 1))).isEmpty)]) ∧ Below W.heap.size W w') := Lib.hid (fun W hW => two_any c _ _ W (hK.below hW) hc l1 l2)
  have B0 := Lib.hid hB
  have hs0 := hB.size
  have u0 : 0 ≤ ((bt t k : Nat) : Int) := by omega
  have u1 : ((bt t k : Nat) : Int) < 256 := by omega
  have u2 : ¬ ((bt t k : Nat) : Int) < 128 := by omega
  have v0 : 0 ≤ ((bt t (k + 1) : Nat) : Int) := by omega
  have v1 : ((bt t (k + 1) : Nat) : Int) < 256 := by omega
  have HV : Hid (s2V c (bt t k) (bt t (k + 1)) = .tuple #[.string (s2T c (bt t k) (bt t (k + 1))), .bool (!(sg2 c (bt t k) (bt t (k + 1))).isEmpty)]) := Lib.hid rfl
  clear h hl hK hB l1 l2
  generalize s2V c (bt t k) (bt t (k + 1)) = PP at *
  generalize s2T c (bt t k) (bt t (k + 1)) = T at *
  generalize (!(sg2 c (bt t k) (bt t (k + 1))).isEmpty) = O at *
  generalize ((bt t k : Nat) : Int) = U at *
  generalize ((bt t (k + 1) : Nat) : Int) = V at *
  go_enter Tryz.func68, Tryz.ntmps68
  go_wp2_with (first
    | (go_at_call 105; (with_reducible refine (HC2.out _ R1.out).mono ?_); rintro e2 w2 ⟨rfl, hR2, hU2⟩; have R2 := Lib.hid hR2; have U2 := Lib.hid (U1.out.trans hU2); clear hR2 hU2)
    | (go_at_call 105; (with_reducible refine HC.out.mono ?_); rintro e1 w1 ⟨rfl, hR1, hU1⟩; have R1 := Lib.hid hR1; have U1 := Lib.hid hU1; clear hR1 hU1)
    | (go_at_call 106; refine (oct.fault_some _ _ _ _ R2.out.lt R2.out.c3 R2.out.c4).mono ?_; rintro e3 w3 ⟨rfl, hb3⟩; have R3 := Lib.hid (R2.out.below hb3 R2.out.lt); have U3 := Lib.hid (U2.out.trans (oct.Upd.of hb3 (Nat.le_refl _))); clear hb3)
    | (go_at_call 24; refine (oct.bad_any _ _ _).mono ?_; rintro e4 w4 ⟨rfl, hb4⟩; have R4 := Lib.hid (R3.out.below hb4 R3.out.lt); have U4 := Lib.hid (U3.out.trans (oct.Upd.of hb4 (Nat.le_refl _))); clear hb4)
    | (go_at_call 107; refine (HT.out _ (oct.Upd.below B0.out U4.out hb0 hs0)).mono ?_; rintro e5 w5 ⟨rfl, hb5⟩; have R5 := Lib.hid (R4.out.below hb5 R4.out.lt); have U5 := Lib.hid (U4.out.trans (oct.Upd.of hb5 (Nat.le_refl _))); clear hb5))
  go_ret2
  exact ⟨congrArg Ending.returned HV.out.symm, R5.out, U5.out⟩
set_option maxRecDepth 100000 in
set_option maxHeartbeats 2000000 in
theorem next_one (c : Int) (t : ByteArray) (k b : Nat) (bs at' : Int) (w : World) (h : oct.Rd w b t k bs 0 at') (hk : k + 1 = t.size) (ht : t.size ≤ 8000) (z0 : 0 ≤ bs) (z1 : bs ≤ 1000000) (hl : ¬ bt t k < 128) :
    Calls Tryz.prog 68 #[.pointer (some ⟨b, 0, none⟩), .int .i64 c] w fun e w' => e = .returned (.tuple #[.string ⟨#[]⟩, .bool false]) ∧ oct.Upd b w w' := by
  have HC := Lib.hid (big1_ok t k b bs at' w h (by omega) (by unfold maxLen; omega))
  rw [hk] at HC
  have HC2 := Lib.hid (fun W hR => big1_short t b bs at' W hR (by unfold maxLen; omega) z0 (by omega))
  have l1 := bt_lt t k
  have u0 : 0 ≤ ((bt t k : Nat) : Int) := by omega
  have u1 : ((bt t k : Nat) : Int) < 256 := by omega
  have u2 : ¬ ((bt t k : Nat) : Int) < 128 := by omega
  clear h hl l1 hk
  generalize ((bt t k : Nat) : Int) = U at *
  go_enter Tryz.func68, Tryz.ntmps68
  go_wp2_with (first
    | (go_at_call 105; (with_reducible refine (HC2.out _ R1.out).mono ?_); rintro e2 w2 ⟨rfl, hR2, hU2⟩; have R2 := Lib.hid hR2; have U2 := Lib.hid (U1.out.trans hU2); clear hR2 hU2)
    | (go_at_call 105; (with_reducible refine HC.out.mono ?_); rintro e1 w1 ⟨rfl, hR1, hU1⟩; have R1 := Lib.hid hR1; have U1 := Lib.hid hU1; clear hR1 hU1)
    | (go_at_call 106; refine (oct.fault_some _ _ _ _ R2.out.lt R2.out.c3 R2.out.c4).mono ?_; rintro e3 w3 ⟨rfl, hb3⟩; have U3 := Lib.hid (U2.out.trans (oct.Upd.of hb3 (Nat.le_refl _))); clear hb3)
    | (go_at_call 24; refine (oct.bad_any _ _ _).mono ?_; rintro e4 w4 ⟨rfl, hb4⟩; have U4 := Lib.hid (U3.out.trans (oct.Upd.of hb4 (Nat.le_refl _))); clear hb4))
  go_ret2
  exact ⟨rfl, U4.out⟩
end Go.Proofs.YtiigknimfibdpaaGreatDoor.ch
