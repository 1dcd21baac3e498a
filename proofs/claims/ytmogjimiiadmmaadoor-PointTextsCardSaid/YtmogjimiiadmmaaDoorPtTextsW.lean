/- The walk of the law PointTexts of layer 2. -/
import Derived.Test.YtmogjimiiadmmaaDoorPt13
import Derived.Test.YtmogjimiiadmmaaDoorPtReadsW
namespace Go.Proofs.YtmogjimiiadmmaaDoor.pt
open Go.RowKit Go.Lib
set_option linter.unusedVariables false
theorem txt_snoc (zs : List Int) (p : Int) : txt zs ++ strOfNums (encodeRuneZ p) = txt (zs ++ [p]) := by
  apply ByteArray.ext
  apply Array.ext'
  have e : ∀ t s : ByteArray, (t ++ s).data.toList = t.data.toList ++ s.data.toList := fun t s => by simp
  show (txt zs ++ strOfNums (encodeRuneZ p)).data.toList = (txt (zs ++ [p])).data.toList
  rw [e, txt_data, txt_data, strOfNums_data]
  simp [nums]
set_option maxRecDepth 100000 in
set_option maxHeartbeats 1000000 in
theorem refText_any (p : Option Addr) (n c : Nat) (zs : List Int) (w : World) (h : RowI w p n c zs) (hn : n ≤ 2000) (hv : zs.all validRune = true) :
    Calls Tryd.prog 13 #[.slice p n c] w fun e w' => e = .returned (.string (txt zs)) ∧ Below w.heap.size w w' := by
  obtain ⟨T, hT⟩ : ∃ T, T = txt zs := ⟨_, rfl⟩
  rw [← hT]
  have HT := Lib.hid hT
  have HLN := Lib.hid h.len; have R0 := Lib.hid h; have HV := Lib.hid hv
  clear h hv hT
  go_enter Tryd.func13, Tryd.ntmps13
  go_wp2_with fail
  go_loopw [3, 4] (fun t i wr => ∃ j : Nat, j ≤ n ∧ i = .int .i64 j ∧ t = .string (txt (zs.take j)) ∧ Below w.heap.size w wr) (fun _ i _ => n - (RowKit.intOf i).toNat)
  case atStart => exact ⟨0, Nat.zero_le _, rfl, by simp [txt, nums, strOfNums], Below.refl _ _⟩
  case round =>
    obtain ⟨j, hj, rfl, rfl, hB⟩ := hrel
    have HR := Lib.hid (R0.out.below hB); have HB := Lib.hid hB
    clear hB
    by_cases hlt : j < n
    · obtain ⟨a, rfl, a1, a2, a3⟩ := HR.out.at j hlt
      unfold maxLen at a2
      have hjl : j < zs.length := by have := HLN.out; omega
      have htk : Hid (zs.take (j + 1) = zs.take j ++ [zs.getD j 0]) := Lib.hid (by rw [List.take_add_one, List.getElem?_eq_getElem hjl]; simp [List.getD, List.getElem?_eq_getElem hjl])
      have hvj : validRune (zs.getD j 0) = true := List.all_eq_true.1 HV.out _ (by simp [List.getD, List.getElem?_eq_getElem hjl])
      have hTs : (txt (zs.take j)).size ≤ 8000 := by
        have := txt_size (zs.take j)
        have := nums_len (zs.take j)
        have : (zs.take j).length ≤ j := List.length_take_le _ _
        omega
      generalize zs.getD j 0 = x at *
      have HBY := Lib.hid (fun w2 => bytes_any x w2 hvj)
      have HTS := Lib.hid (txt_snoc (zs.take j) x)
      have hBs : (strOfNums (encodeRuneZ x)).size ≤ 4 := by rw [strOfNums_size]; exact (encodeRuneZ_length x).2
      generalize strOfNums (encodeRuneZ x) = B at *
      obtain ⟨T0, hT0⟩ : ∃ T0, T0 = txt (zs.take j) := ⟨_, rfl⟩
      rw [← hT0] at HTS hTs ⊢
      have hcat : ¬ 9223372036854775807 < T0.size + B.size := by omega
      clear hT0 hvj hjl
      go_wp2_with (go_at_call 32; refine (HBY.out _).mono ?_; rintro e3 w3 ⟨rfl, hb3⟩)
      go_roundw
      case rel => exact ⟨j + 1, by omega, by go_num, by rw [HTS.out, htk.out], HB.out.trans (hb3.mono HB.out.size)⟩
      case measure => simp [RowKit.intOf]; omega
    · obtain rfl : j = n := by omega
      have htk : zs.take j = zs := by rw [← HLN.out]; exact List.take_length
      go_wp2
      go_ret
      exact ⟨by rw [HT.out, htk]; rfl, HB.out⟩
set_option maxRecDepth 100000 in
theorem texts_big (p : Option Addr) (n c : Nat) (w : World) (hbig : 500 < n) (hn : n ≤ 9223372036854775807) (hT : Tabs w) : Calls Tryd.prog 3 #[.slice p n c] w fun e w' => e = .returned (.bool true) ∧ Below w.heap.size w w' := by
  have HA := Lib.hid (awake_any w hT)
  clear hT
  go_enter Tryd.func3, Tryd.ntmps3
  go_wp2_with (go_at_call 9; refine HA.out.mono ?_; rintro e1 w1 ⟨rfl, hb1⟩)
  go_ret
  exact ⟨rfl, hb1⟩
theorem scal_of (r : Int) (v : Bool) (hr : validRune r = v) : ∀ w, Calls Tryd.prog 11 #[.int .i32 r] w fun e w' => e = .returned (.bool v) ∧ w = w' := fun w => by
  have := refScalar_any r w
  rwa [hr] at this
set_option maxRecDepth 100000 in
set_option maxHeartbeats 1000000 in
theorem texts_bad (p : Option Addr) (n c : Nat) (zs : List Int) (w : World) (hr : RowI w p n c zs) (hn : n ≤ 500) (hT : Tabs w) (hv : zs.all validRune = false) : Calls Tryd.prog 3 #[.slice p n c] w fun e w' => e = .returned (.bool true) ∧ Below w.heap.size w w' := by
  have htx := text_row p n c zs w hr (by omega)
  rw [hv] at htx
  have HTX := Lib.hid htx; have HT := Lib.hid hT; have HLN := Lib.hid hr.len; have R0 := Lib.hid hr; have HV := Lib.hid hv
  clear htx hT hr hv
  go_enter Tryd.func3, Tryd.ntmps3
  go_wp2_with (go_at_call 10; refine HTX.out.mono ?_; rintro e1 w1 ⟨rfl, hb1⟩; have R1 := Lib.hid (R0.out.below hb1); have B1 := Lib.hid hb1; clear hb1)
  go_loop [20] (fun i => ∃ j : Nat, j ≤ n ∧ i = .int .i64 j ∧ (zs.take j).all validRune = true) (fun i => n - (RowKit.intOf i).toNat)
  case atStart => exact ⟨0, Nat.zero_le _, rfl, by simp⟩
  case round =>
    obtain ⟨j, hj, rfl, hall⟩ := hrel
    have HAL := Lib.hid hall
    clear hall
    by_cases hlt : j < n
    · obtain ⟨a, rfl, a1, a2, a3⟩ := R1.out.at j hlt
      unfold maxLen at a2
      have hjl : j < zs.length := by have := HLN.out; omega
      have htk : Hid (zs.take (j + 1) = zs.take j ++ [zs.getD j 0]) := Lib.hid (by rw [List.take_add_one, List.getElem?_eq_getElem hjl]; simp [List.getD, List.getElem?_eq_getElem hjl])
      generalize zs.getD j 0 = x at *
      clear hjl
      cases hx : validRune x with
      | true =>
        have HSC := Lib.hid (scal_of x true hx)
        have HX := Lib.hid hx
        clear hx
        go_wp2_with (go_at_call 11; refine (HSC.out _).mono ?_; rintro e2 w2 ⟨rfl, rfl⟩)
        go_round
        case rel => exact ⟨j + 1, by omega, by go_num, by rw [htk.out, List.all_append, HAL.out]; simp [HX.out]⟩
        case measure => simp [RowKit.intOf]; omega
      | false =>
        have HSC := Lib.hid (scal_of x false hx)
        clear hx
        go_wp2_with (first | (go_at_call 11; refine (HSC.out _).mono ?_; rintro e2 w2 ⟨rfl, rfl⟩) | (go_at_call 9; refine (awake_any _ (HT.out.below B1.out)).mono ?_; rintro e3 w3 ⟨rfl, hb3⟩))
        go_ret
        exact ⟨rfl, B1.out.trans (hb3.mono B1.out.size)⟩
    · exfalso
      have htk : zs.take j = zs := by rw [show j = n by omega, ← HLN.out]; exact List.take_length
      have h1 := HAL.out
      rw [htk, HV.out] at h1
      cases h1
/-- What holds while the law compares. -/
structure Gx (w : World) (X : Nat) (p q : Option Addr) (n c d : Nat) (zs : List Int) (W : World) : Prop where
  r1 : RowI W p n c zs
  r2 : RowI W q n d zs
  f : F2 W X 0 0
  t : Tabs W
  bel : Below w.heap.size w W
theorem Gx.below {w : World} {X : Nat} {p q : Option Addr} {n c d : Nat} {zs : List Int} {W W' : World} (h : Gx w X p q n c d zs W) (hb : Below W.heap.size W W') : Gx w X p q n c d zs W' :=
  ⟨h.r1.below hb, h.r2.below hb, h.f.below hb h.f.lt, h.t.below hb, h.bel.trans (hb.mono h.bel.size)⟩
set_option maxRecDepth 100000 in
set_option maxHeartbeats 1000000 in
theorem texts_good (p : Option Addr) (n c : Nat) (zs : List Int) (w : World) (hr : RowI w p n c zs) (hn : n ≤ 500) (hT : Tabs w) (hv : zs.all validRune = true) : Calls Tryd.prog 3 #[.slice p n c] w fun e w' => e = .returned (.bool true) ∧ Below w.heap.size w w' := by
  have htx := text_row p n c zs w hr (by omega)
  rw [hv, if_pos rfl] at htx
  have hln := hr.len
  have hsz : (txt zs).size ≤ 2000 := by
    have := txt_size zs
    have := nums_len zs
    omega
  have hzt := zsOf_txt zs hv
  have hst := scan_txt zs hv
  have hP := fun w2 hT2 => points_row (txt zs) n w2 (by omega) hT2 hst.1 (by rw [hzt]; exact hln)
  rw [hzt] at hP
  have hRT := fun w2 h2 => refText_any p n c zs w2 h2 (by omega) hv
  have hva := fun w2 hT2 => valid_any (txt zs) w2 (by omega) hT2
  have hco := fun w2 hT2 => count_any (txt zs) w2 (by omega) hT2
  rw [hst.1] at hva hco
  rw [hst.2, List.length_map, hln] at hco
  simp only [Option.isNone_none, if_true] at hva hco
  generalize txt zs = T at *
  have HTX := Lib.hid htx; have HT := Lib.hid hT; have HLN := Lib.hid hln; have R0 := Lib.hid hr; have HV := Lib.hid hv; have HP := Lib.hid hP; have HRT := Lib.hid hRT; have HVA := Lib.hid hva; have HCO := Lib.hid hco
  clear htx hT hr hv hP hRT hva hco hzt hst hln hsz
  go_enter Tryd.func3, Tryd.ntmps3
  go_wp2_with (go_at_call 10; refine HTX.out.mono ?_; rintro e1 w1 ⟨rfl, hb1⟩; have R1 := Lib.hid (R0.out.below hb1); have B1 := Lib.hid hb1; clear hb1)
  go_loop [20] (fun i => ∃ j : Nat, j ≤ n ∧ i = .int .i64 j) (fun i => n - (RowKit.intOf i).toNat)
  case atStart => exact ⟨0, Nat.zero_le _, rfl⟩
  case round =>
    obtain ⟨j, hj, rfl⟩ := hrel
    by_cases hlt : j < n
    · obtain ⟨a, rfl, a1, a2, a3⟩ := R1.out.at j hlt
      unfold maxLen at a2
      have hvj : validRune (zs.getD j 0) = true := List.all_eq_true.1 HV.out _ (by simp [List.getD, List.getElem?_eq_getElem (show j < zs.length by have := HLN.out; omega)])
      generalize zs.getD j 0 = x at *
      have HSC := Lib.hid (scal_of x true hvj)
      clear hvj
      go_wp2_with (go_at_call 11; refine (HSC.out _).mono ?_; rintro e2 w2 ⟨rfl, rfl⟩)
      go_round
      case rel => exact ⟨j + 1, by omega, by go_num⟩
      case measure => simp [RowKit.intOf]; omega
    · obtain rfl : j = n := by omega
      clear hlt
      go_wp2_with (first
        | (go_at_call 12; refine (HP.out _ (HT.out.below B1.out)).mono ?_; rintro e2 w2 ⟨q, d, rfl, hr2, hb2⟩; have G2 : Hid (Gx w w2.heap.size p q j c d zs (w2.alloc (.cells #[.int .i64 0, .int .i64 0] 29))) := Lib.hid (by
            have hB := B1.out.trans (hb2.mono B1.out.size)
            have hA : Below w2.heap.size w2 (w2.alloc (.cells #[.int .i64 0, .int .i64 0] 29)) := (Below.refl _ _).alloc (Nat.le_refl _) _
            exact ⟨(R1.out.below hb2).below hA, hr2.below hA, f2_new w2 0 0 _, HT.out.below (hB.trans (hA.mono hB.size)), hB.trans (hA.mono hB.size)⟩); clear hr2 hb2)
        | (go_at_call 9; refine (awake_any _ G2.out.t).mono ?_; rintro e3 w3 ⟨rfl, hb3⟩; have G3 := Lib.hid (G2.out.below hb3); clear hb3)
        | (go_at_call 13; refine (HRT.out _ G3.out.r1).mono ?_; rintro e4 w4 ⟨rfl, hb4⟩; have G4 := Lib.hid (G3.out.below hb4); clear hb4)
        | (go_at_call 14; refine (same_any _ _ _ _ _ _ _ G4.out.r2 G4.out.r1 (by omega)).mono ?_; rintro e5 w5 ⟨rfl, hb5⟩; have G5 := Lib.hid (G4.out.below hb5); obtain ⟨_, c0, c1, _, _⟩ := G5.out.f; clear hb5)
        | (go_at_call 15; refine (bad_any _ 0 0).mono ?_; rintro e6 w6 ⟨rfl, hb6⟩; have G6 := Lib.hid (G5.out.below hb6); clear hb6)
        | (go_at_call 16; refine (HCO.out _ G6.out.t).mono ?_; rintro e7 w7 ⟨rfl, hb7⟩; have G7 := Lib.hid (G6.out.below hb7); clear hb7)
        | (go_at_call 17; refine (HVA.out _ G7.out.t).mono ?_; rintro e8 w8 ⟨rfl, hb8⟩; have G8 := Lib.hid (G7.out.below hb8); clear hb8))
      go_ret
      exact ⟨rfl, G8.out.bel⟩
theorem texts_walk (p : Option Addr) (n c : Nat) (zs : List Int) (w : World) (hr : RowI w p n c zs) (hn : n ≤ 9223372036854775807) (hT : Tabs w) : Calls Tryd.prog 3 #[.slice p n c] w fun e w' => e = .returned (.bool true) ∧ Below w.heap.size w w' := by
  by_cases h1 : 500 < n
  · exact texts_big p n c w h1 hn hT
  cases hv : zs.all validRune with
  | false => exact texts_bad p n c zs w hr (by omega) hT hv
  | true => exact texts_good p n c zs w hr (by omega) hT hv
end Go.Proofs.YtmogjimiiadmmaaDoor.pt
