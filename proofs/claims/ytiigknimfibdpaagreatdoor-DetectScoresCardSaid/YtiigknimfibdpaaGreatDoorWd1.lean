/- Units of two bytes: unit, pair, next, undecodable, bytesOf of layer 3: contracts. -/
import Derived.Test.YtiigknimfibdpaaGreatDoorZ3
import Derived.Test.YtiigknimfibdpaaGreatDoorOctA
namespace Go.Proofs.YtiigknimfibdpaaGreatDoor.wd
open Go.RowKit Go.Lib
set_option linter.unusedVariables false
theorem ret_int {k : IntKind} {a b : Int} (h : a = b) : Ending.returned (.int k a) = .returned (.int k b) := by rw [h]
theorem ext_two (t : ByteArray) (k : Nat) (h : k + 2 ≤ t.size) : (t.extract k (k + 2)).data.toList = [t.data.toList.getD k 0, t.data.toList.getD (k + 1) 0] := by
  have hl : t.data.toList.length = t.size := by rw [Array.length_toList]; rfl
  have e : (t.extract k (k + 2)).data.toList = (t.data.toList.drop k).take 2 := by
    simp [ByteArray.extract, ByteArray.copySlice]
  rw [e, List.drop_eq_getElem_cons (by omega), List.drop_eq_getElem_cons (i := k + 1) (by omega)]
  simp [List.getD, List.getElem?_eq_getElem (show k < t.data.toList.length by omega), List.getElem?_eq_getElem (show k + 1 < t.data.toList.length by omega)]
theorem unit_ok (t : ByteArray) (big : Bool) (k b : Nat) (bs at' : Int) (w : World) (h : oct.Rd w b t k bs 0 at') (hk : k + 2 ≤ t.size) (ht : t.size ≤ maxLen) :
    Calls Tryz.prog 150 #[.pointer (some ⟨b, 0, none⟩), .bool big] w fun e w' => e = .returned (.int .i32 (un t big k)) ∧ oct.Rd w' b t ((k + 2 : Nat) : Int) bs 0 at' ∧ oct.Upd b w w' := by
  have htk := oct.take_ok w b t k 2 (t.size - k) bs at' h (by omega) (by omega) ht
  have hsz : (t.extract k (k + 2)).size ≤ 8 := by rw [ByteArray.size_extract]; omega
  have hU := un_lt t big k
  have e2 := ext_two t k hk
  cases big with
  | true =>
    have hc := oct.rbig_of (.pointer (some ⟨b, 0, none⟩)) 2 2 (t.extract k (k + 2)) _ w (by omega) (by omega) rfl hsz htk
    have e : (oct.num (t.extract k (k + 2)).data.toList : Int) = (un t true k : Int) := by rw [e2]; simp [oct.num, un]
    rw [e] at hc
    generalize un t true k = U at hU hc ⊢
    have HC := Lib.hid hc
    clear hc htk e e2 hsz
    go_enter Tryz.func150, Tryz.ntmps150
    go_wp2_with (go_at_call 105; refine HC.out.mono ?_; rintro e1 w1 ⟨rfl, hR, hUp⟩)
    go_ret
    exact ⟨rfl, hR, hUp⟩
  | false =>
    have hc := oct.rsmall_of (.pointer (some ⟨b, 0, none⟩)) 2 2 (t.extract k (k + 2)) _ w (by omega) (by omega) rfl hsz htk
    have e : (oct.num (t.extract k (k + 2)).data.toList.reverse : Int) = (un t false k : Int) := by rw [e2]; simp [oct.num, un]
    rw [e] at hc
    generalize un t false k = U at hU hc ⊢
    have HC := Lib.hid hc
    clear hc htk e e2 hsz
    go_enter Tryz.func150, Tryz.ntmps150
    go_wp2_with (go_at_call 194; refine HC.out.mono ?_; rintro e1 w1 ⟨rfl, hR, hUp⟩)
    go_ret
    exact ⟨rfl, hR, hUp⟩
theorem unit_short (t : ByteArray) (big : Bool) (k b : Nat) (bs at' : Int) (w : World) (h : oct.Rd w b t k bs 0 at') (hk : k ≤ t.size) (hs : t.size < k + 2) (ht : t.size ≤ maxLen) (z0 : 0 ≤ bs) (z1 : bs ≤ 9223372036854775807) :
    Calls Tryz.prog 150 #[.pointer (some ⟨b, 0, none⟩), .bool big] w fun e w' => e = .returned (.int .i32 0) ∧ oct.Rd w' b t k bs 1 (oct.plc bs t.size) ∧ oct.Upd b w w' := by
  have htk := oct.take_short w b t k (t.size - k) 2 bs at' h (by omega) (by omega) ht z0 z1
  cases big with
  | true =>
    have hc := oct.rbig_of (.pointer (some ⟨b, 0, none⟩)) 2 2 ⟨#[]⟩ _ w (by omega) (by omega) rfl (by decide) htk
    have e : (oct.num (⟨#[]⟩ : ByteArray).data.toList : Int) = 0 := rfl
    rw [e] at hc
    have HC := Lib.hid hc
    clear hc htk e
    go_enter Tryz.func150, Tryz.ntmps150
    go_wp2_with (go_at_call 105; refine HC.out.mono ?_; rintro e1 w1 ⟨rfl, hR, hUp⟩)
    go_ret
    exact ⟨rfl, hR, hUp⟩
  | false =>
    have hc := oct.rsmall_of (.pointer (some ⟨b, 0, none⟩)) 2 2 ⟨#[]⟩ _ w (by omega) (by omega) rfl (by decide) htk
    have e : (oct.num (⟨#[]⟩ : ByteArray).data.toList.reverse : Int) = 0 := rfl
    rw [e] at hc
    have HC := Lib.hid hc
    clear hc htk e
    go_enter Tryz.func150, Tryz.ntmps150
    go_wp2_with (go_at_call 194; refine HC.out.mono ?_; rintro e1 w1 ⟨rfl, hR, hUp⟩)
    go_ret
    exact ⟨rfl, hR, hUp⟩
theorem pair_no (a c : Int) (w : World) (h : c < 56320 ∨ 57344 ≤ c) : Calls Tryz.prog 151 #[.int .i32 a, .int .i32 c] w fun e w' => e = .returned (.int .i32 a) ∧ w = w' := by
  rcases h with h | h
  · go_enter Tryz.func151, Tryz.ntmps151
    go_wp2
    go_ret
    exact ⟨rfl, rfl⟩
  · have h2 : ¬ c < 56320 := by omega
    go_enter Tryz.func151, Tryz.ntmps151
    go_wp2
    go_ret
    exact ⟨rfl, rfl⟩
theorem pair_yes (a c : Int) (w : World) (a0 : 55296 ≤ a) (a1 : a < 56320) (c0 : 56320 ≤ c) (c1 : c < 57344) : Calls Tryz.prog 151 #[.int .i32 a, .int .i32 c] w fun e w' => e = .returned (.int .i32 (65536 + (a - 55296) * 1024 + c - 56320)) ∧ w = w' := by
  have h2 : ¬ c < 56320 := by omega
  go_enter Tryz.func151, Tryz.ntmps151
  go_wp2
  go_ret
  exact ⟨ret_int (by omega), rfl⟩
theorem undec_any (n : Int) (w : World) : Calls Tryz.prog 110 #[.int .i64 n] w fun e w' => e = .returned (.agg #[.int .i64 2, .int .i64 n]) ∧ Below w.heap.size w w' := by
  go_enter Tryz.func110, Tryz.ntmps110
  go_wp2
  exact bodyPost_ret (v := .agg #[.int .i64 2, .int .i64 n]) (by simp [results, Tryz.results110, go_sem]) rfl ⟨rfl, by repeat (first | (with_reducible exact Below.refl _ _) | (with_reducible refine Below.setCell ?_ (by simp) _) | (with_reducible refine Below.alloc ?_ (by simp) _))⟩
theorem valid_bad {a : Int} (h0 : 55296 ≤ a) (h1 : a < 57344) : validRune a = false := by
  unfold validRune
  rw [Bool.eq_false_iff]
  simp
  omega
theorem scalar_any (r : Int) (v : Bool) (hr : validRune r = v) (hs : ∀ w, Calls Tryz.prog 119 #[.int .i32 r] w fun e w' => e = .returned (.bool (validRune r)) ∧ w = w') : ∀ w, Calls Tryz.prog 119 #[.int .i32 r] w fun e w' => e = .returned (.bool v) ∧ w = w' := by
  rw [hr] at hs; exact hs
/-- What Scalar answers, as a premise: it is proved beside the shelf. -/
def Scal : Prop := ∀ (r : Int) (w : World), Calls Tryz.prog 119 #[.int .i32 r] w fun e w' => e = .returned (.bool (validRune r)) ∧ w = w'
set_option maxRecDepth 100000 in
/-- Where there is a sign. -/
theorem next_ok (hSc : Scal) (t : ByteArray) (big : Bool) (k b : Nat) (bs at' : Int) (w : World) (h : oct.Rd w b t k bs 0 at') (ht : t.size ≤ maxLen) (p : Int) (n : Nat) (hw : wn t big k = some (p, n)) :
    Calls Tryz.prog 109 #[.pointer (some ⟨b, 0, none⟩), .bool big] w fun e w' => e = .returned (.tuple #[.int .i32 p, .bool true]) ∧ oct.Rd w' b t ((k + n : Nat) : Int) bs 0 at' ∧ oct.Upd b w w' := by
  have hv := wn_valid hw
  have hk := wn_two hw
  have hU := un_lt t big k
  have hU2 := un_lt t big (k + 2)
  have hsc := scalar_any p true hv (hSc p)
  have hu := unit_ok t big k b bs at' w h (by omega) ht
  unfold wn at hw
  rw [if_neg (by omega)] at hw
  by_cases c1 : un t big k < 55296 ∨ 57344 ≤ un t big k
  · rw [if_pos c1] at hw
    obtain ⟨rfl, rfl⟩ : (un t big k : Int) = p ∧ 2 = n := by simpa using hw
    have c2 : (un t big k : Int) < 55296 ∨ 57344 ≤ (un t big k : Int) := by omega
    clear hU hU2 c1 hw
    generalize (un t big k : Int) = U at *
    have HU := Lib.hid hu; have HS := Lib.hid hsc
    clear hu hsc hv hk
    rcases c2 with c1 | c1
    · go_enter Tryz.func109, Tryz.ntmps109
      go_wp2_with (first | (go_at_call 150; refine HU.out.mono ?_; rintro e1 w1 ⟨rfl, hR, hUp⟩) | (go_at_call 106; refine (oct.fault_some _ _ _ _ hR.lt hR.c3 hR.c4).mono ?_; rintro e2 w2 ⟨rfl, hb2⟩; have R2 := Lib.hid (hR.below hb2 hR.lt)) | (go_at_call 24; refine (oct.bad_any _ _ _).mono ?_; rintro e3 w3 ⟨rfl, hb3⟩; have R3 := Lib.hid (R2.out.below hb3 R2.out.lt)) | (go_at_call 119; refine (HS.out _).mono ?_; rintro e4 w4 ⟨rfl, rfl⟩))
      go_ret2
      exact ⟨rfl, R3.out, (hUp.trans (oct.Upd.of hb2 (Nat.le_refl _))).trans (oct.Upd.of hb3 (Nat.le_refl _))⟩
    · have c2 : ¬ U < 56320 := by omega
      have c3 : 55296 ≤ U := by omega
      go_enter Tryz.func109, Tryz.ntmps109
      go_wp2_with (first | (go_at_call 150; refine HU.out.mono ?_; rintro e1 w1 ⟨rfl, hR, hUp⟩) | (go_at_call 106; refine (oct.fault_some _ _ _ _ hR.lt hR.c3 hR.c4).mono ?_; rintro e2 w2 ⟨rfl, hb2⟩; have R2 := Lib.hid (hR.below hb2 hR.lt)) | (go_at_call 24; refine (oct.bad_any _ _ _).mono ?_; rintro e3 w3 ⟨rfl, hb3⟩; have R3 := Lib.hid (R2.out.below hb3 R2.out.lt)) | (go_at_call 119; refine (HS.out _).mono ?_; rintro e4 w4 ⟨rfl, rfl⟩))
      go_ret2
      exact ⟨rfl, R3.out, (hUp.trans (oct.Upd.of hb2 (Nat.le_refl _))).trans (oct.Upd.of hb3 (Nat.le_refl _))⟩
  · rw [if_neg c1] at hw
    have c2 : un t big k < 56320 ∧ k + 4 ≤ t.size ∧ 56320 ≤ un t big (k + 2) ∧ un t big (k + 2) < 57344 := by
      by_cases c : un t big k < 56320 ∧ k + 4 ≤ t.size ∧ 56320 ≤ un t big (k + 2) ∧ un t big (k + 2) < 57344
      · exact c
      · rw [if_neg c] at hw; cases hw
    rw [if_pos c2] at hw
    have hu2 : ∀ w2, oct.Rd w2 b t ((k + 2 : Nat) : Int) bs 0 at' → Calls Tryz.prog 150 #[.pointer (some ⟨b, 0, none⟩), .bool big] w2 fun e w' => e = .returned (.int .i32 (un t big (k + 2))) ∧ oct.Rd w' b t ((k + 2 + 2 : Nat) : Int) bs 0 at' ∧ oct.Upd b w2 w' := fun w2 h2 => unit_ok t big (k + 2) b bs at' w2 h2 (by omega) ht
    have hp2 := fun w2 => pair_yes (un t big k) (un t big (k + 2)) w2 (by omega) (by omega) (by omega) (by omega)
    obtain ⟨e1, rfl⟩ : 65536 + ((un t big k : Int) - 55296) * 1024 + (un t big (k + 2) : Int) - 56320 = p ∧ 4 = n := by simpa using hw
    rw [e1] at hp2
    have d0 : 55296 ≤ (un t big k : Int) := by omega
    have d1 : (un t big k : Int) < 56320 := by omega
    clear hU hU2 hw c1 c2
    generalize (un t big k : Int) = U at *
    generalize (un t big (k + 2) : Int) = V at *
    have HU := Lib.hid hu; have HS := Lib.hid hsc; have HU2 := Lib.hid hu2; have HP := Lib.hid hp2
    clear hu hsc hv hk hu2 hp2 e1
    go_enter Tryz.func109, Tryz.ntmps109
    go_wp2_with (first | (go_at_call 150; with_reducible refine (HU2.out _ hR.out).mono ?_; rintro e6 w6 ⟨rfl, hR', hUp'⟩) | (go_at_call 150; with_reducible refine HU.out.mono ?_; rintro e1 w1 ⟨rfl, hR, hUp⟩; replace hR := Lib.hid hR) | (go_at_call 151; refine (HP.out _).mono ?_; rintro e5 w5 ⟨rfl, rfl⟩) | (go_at_call 106; refine (oct.fault_some _ _ _ _ hR'.lt hR'.c3 hR'.c4).mono ?_; rintro e2 w2 ⟨rfl, hb2⟩; have R2 := Lib.hid (hR'.below hb2 hR'.lt)) | (go_at_call 24; refine (oct.bad_any _ _ _).mono ?_; rintro e3 w3 ⟨rfl, hb3⟩; have R3 := Lib.hid (R2.out.below hb3 R2.out.lt)) | (go_at_call 119; refine (HS.out _).mono ?_; rintro e4 w4 ⟨rfl, rfl⟩))
    go_ret2
    exact ⟨rfl, R3.out, ((hUp.trans hUp').trans (oct.Upd.of hb2 (Nat.le_refl _))).trans (oct.Upd.of hb3 (Nat.le_refl _))⟩
theorem un_none {s : ByteArray} {big : Bool} {k : Nat} (h : wn s big k = none) (hk : k + 2 ≤ s.size) : 55296 ≤ un s big k ∧ un s big k < 57344 ∧ (un s big k < 56320 → k + 4 ≤ s.size → un s big (k + 2) < 56320 ∨ 57344 ≤ un s big (k + 2)) := by
  unfold wn at h
  rw [if_neg (by omega)] at h
  split at h
  · cases h
  split at h
  · cases h
  · refine ⟨by omega, by omega, fun _ _ => by omega⟩
set_option maxRecDepth 100000 in
/-- Where there is none. -/
theorem next_no (hSc : Scal) (t : ByteArray) (big : Bool) (k b : Nat) (bs at' : Int) (w : World) (h : oct.Rd w b t k bs 0 at') (hk : k ≤ t.size) (ht : t.size ≤ maxLen) (z0 : 0 ≤ bs) (z1 : bs ≤ 9223372036854775807) (hw : wn t big k = none) :
    Calls Tryz.prog 109 #[.pointer (some ⟨b, 0, none⟩), .bool big] w fun e w' => e = .returned (.tuple #[.int .i32 0, .bool false]) ∧ oct.Upd b w w' := by
  by_cases hs : t.size < k + 2
  · have HU := Lib.hid (unit_short t big k b bs at' w h hk hs ht z0 z1)
    have HS : Hid (∀ w2 : World, True) := Lib.hid (fun _ => trivial)
    clear hw hs
    go_enter Tryz.func109, Tryz.ntmps109
    go_wp2_with (first | (go_at_call 150; refine HU.out.mono ?_; rintro e1 w1 ⟨rfl, hR, hUp⟩) | (go_at_call 106; refine (oct.fault_some _ _ _ _ hR.lt hR.c3 hR.c4).mono ?_; rintro e2 w2 ⟨rfl, hb2⟩; have R2 := Lib.hid (hR.below hb2 hR.lt)) | (go_at_call 24; refine (oct.bad_any _ _ _).mono ?_; rintro e3 w3 ⟨rfl, hb3⟩; have R3 := Lib.hid (R2.out.below hb3 R2.out.lt)) | (go_at_call 119; refine (HS.out _).mono ?_; rintro e4 w4 ⟨rfl, rfl⟩))
    go_ret2
    exact ⟨rfl, (hUp.trans (oct.Upd.of hb2 (Nat.le_refl _))).trans (oct.Upd.of hb3 (Nat.le_refl _))⟩
  · have hn := un_none hw (by omega)
    have hu := unit_ok t big k b bs at' w h (by omega) ht
    have hsc := scalar_any (un t big k) false (valid_bad (by omega) (by omega)) (hSc _)
    by_cases hlo : un t big k < 56320
    · by_cases h4 : k + 4 ≤ t.size
      · have hu2 : ∀ w2, oct.Rd w2 b t ((k + 2 : Nat) : Int) bs 0 at' → Calls Tryz.prog 150 #[.pointer (some ⟨b, 0, none⟩), .bool big] w2 fun e w' => e = .returned (.int .i32 (un t big (k + 2))) ∧ oct.Rd w' b t ((k + 2 + 2 : Nat) : Int) bs 0 at' ∧ oct.Upd b w2 w' := fun w2 h2 => unit_ok t big (k + 2) b bs at' w2 h2 (by omega) ht
        have hV := hn.2.2 hlo h4
        have hp2 := fun w2 => pair_no (un t big k) (un t big (k + 2)) w2 (by omega)
        have d0 : 55296 ≤ (un t big k : Int) := by omega
        have d1 : (un t big k : Int) < 56320 := by omega
        clear hw hs hn hlo hV
        generalize (un t big k : Int) = U at *
        generalize (un t big (k + 2) : Int) = V at *
        have HU := Lib.hid hu; have HS := Lib.hid hsc; have HU2 := Lib.hid hu2; have HP := Lib.hid hp2
        clear hu hsc hu2 hp2 h4
        go_enter Tryz.func109, Tryz.ntmps109
        go_wp2_with (first | (go_at_call 150; with_reducible refine (HU2.out _ hR.out).mono ?_; rintro e6 w6 ⟨rfl, hR', hUp'⟩) | (go_at_call 150; with_reducible refine HU.out.mono ?_; rintro e1 w1 ⟨rfl, hR, hUp⟩; replace hR := Lib.hid hR) | (go_at_call 151; refine (HP.out _).mono ?_; rintro e5 w5 ⟨rfl, rfl⟩) | (go_at_call 106; refine (oct.fault_some _ _ _ _ hR'.lt hR'.c3 hR'.c4).mono ?_; rintro e2 w2 ⟨rfl, hb2⟩; have R2 := Lib.hid (hR'.below hb2 hR'.lt)) | (go_at_call 24; refine (oct.bad_any _ _ _).mono ?_; rintro e3 w3 ⟨rfl, hb3⟩; have R3 := Lib.hid (R2.out.below hb3 R2.out.lt)) | (go_at_call 119; refine (HS.out _).mono ?_; rintro e4 w4 ⟨rfl, rfl⟩))
        go_ret2
        exact ⟨rfl, ((hUp.trans hUp').trans (oct.Upd.of hb2 (Nat.le_refl _))).trans (oct.Upd.of hb3 (Nat.le_refl _))⟩
      · have hu2 : ∀ w2, oct.Rd w2 b t ((k + 2 : Nat) : Int) bs 0 at' → Calls Tryz.prog 150 #[.pointer (some ⟨b, 0, none⟩), .bool big] w2 fun e w' => e = .returned (.int .i32 0) ∧ oct.Rd w' b t ((k + 2 : Nat) : Int) bs 1 (oct.plc bs t.size) ∧ oct.Upd b w2 w' := fun w2 h2 => unit_short t big (k + 2) b bs at' w2 h2 (by omega) (by omega) ht z0 z1
        have hp2 := fun w2 => pair_no (un t big k) 0 w2 (by omega)
        have d0 : 55296 ≤ (un t big k : Int) := by omega
        have d1 : (un t big k : Int) < 56320 := by omega
        clear hw hs hn hlo
        generalize (un t big k : Int) = U at *
        have HU := Lib.hid hu; have HS := Lib.hid hsc; have HU2 := Lib.hid hu2; have HP := Lib.hid hp2
        clear hu hsc hu2 hp2 h4
        go_enter Tryz.func109, Tryz.ntmps109
        go_wp2_with (first | (go_at_call 150; with_reducible refine (HU2.out _ hR.out).mono ?_; rintro e6 w6 ⟨rfl, hR', hUp'⟩) | (go_at_call 150; with_reducible refine HU.out.mono ?_; rintro e1 w1 ⟨rfl, hR, hUp⟩; replace hR := Lib.hid hR) | (go_at_call 151; refine (HP.out _).mono ?_; rintro e5 w5 ⟨rfl, rfl⟩) | (go_at_call 106; refine (oct.fault_some _ _ _ _ hR'.lt hR'.c3 hR'.c4).mono ?_; rintro e2 w2 ⟨rfl, hb2⟩; have R2 := Lib.hid (hR'.below hb2 hR'.lt)) | (go_at_call 24; refine (oct.bad_any _ _ _).mono ?_; rintro e3 w3 ⟨rfl, hb3⟩; have R3 := Lib.hid (R2.out.below hb3 R2.out.lt)) | (go_at_call 119; refine (HS.out _).mono ?_; rintro e4 w4 ⟨rfl, rfl⟩))
        go_ret2
        exact ⟨rfl, ((hUp.trans hUp').trans (oct.Upd.of hb2 (Nat.le_refl _))).trans (oct.Upd.of hb3 (Nat.le_refl _))⟩
    · have d0 : 55296 ≤ (un t big k : Int) := by omega
      have d1 : ¬ (un t big k : Int) < 56320 := by omega
      clear hw hs hn hlo
      generalize (un t big k : Int) = U at *
      have HU := Lib.hid hu; have HS := Lib.hid hsc
      clear hu hsc
      go_enter Tryz.func109, Tryz.ntmps109
      go_wp2_with (first | (go_at_call 150; refine HU.out.mono ?_; rintro e1 w1 ⟨rfl, hR, hUp⟩) | (go_at_call 106; refine (oct.fault_some _ _ _ _ hR.lt hR.c3 hR.c4).mono ?_; rintro e2 w2 ⟨rfl, hb2⟩; have R2 := Lib.hid (hR.below hb2 hR.lt)) | (go_at_call 24; refine (oct.bad_any _ _ _).mono ?_; rintro e3 w3 ⟨rfl, hb3⟩; have R3 := Lib.hid (R2.out.below hb3 R2.out.lt)) | (go_at_call 119; refine (HS.out _).mono ?_; rintro e4 w4 ⟨rfl, rfl⟩))
      go_ret2
      exact ⟨rfl, (hUp.trans (oct.Upd.of hb2 (Nat.le_refl _))).trans (oct.Upd.of hb3 (Nat.le_refl _))⟩
end Go.Proofs.YtiigknimfibdpaaGreatDoor.wd
