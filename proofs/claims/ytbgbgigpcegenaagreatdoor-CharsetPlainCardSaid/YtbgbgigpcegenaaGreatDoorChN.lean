/- The landed charset: Try: a contract. -/
import Derived.Test.YtbgbgigpcegenaaGreatDoorZ41
import Derived.Test.YtbgbgigpcegenaaGreatDoorZ30
namespace Go.Proofs.YtbgbgigpcegenaaGreatDoor.ch
open Go.RowKit Go.Lib
set_option linter.unusedVariables false
theorem take_snocZ (zs : List Int) (j : Nat) (h : j < zs.length) : zs.take (j + 1) = zs.take j ++ [zs.getD j 0] := by
  rw [List.take_add_one, List.getElem?_eq_getElem h]
  simp [List.getD, List.getElem?_eq_getElem h]
set_option maxRecDepth 100000 in
set_option maxHeartbeats 4000000 in
theorem Try_any (s : ByteArray) (zs : List Int) (A : Option Addr) (n c : Nat) (w : World) (hK : K9 w) (hs : s.size ≤ 4000) (hn : n ≤ 100) (hr : RowZ w A n c zs) :
    Calls Tryz.prog 8 #[.string s, .slice A n c] w fun e w' => ∃ A' c', e = .returned (.slice A' (tryZ s zs).length c') ∧ RowZ w' A' (tryZ s zs).length c' (tryZ s zs) ∧ Below w.heap.size w w' := by
  have hlen := hr.len
  have HK := Lib.hid hK
  have HR := Lib.hid hr
  have HLN := Lib.hid hlen
  have HD := Lib.hid (fun c W h => Decode_any c s W h hs)
  obtain ⟨PP, hPP⟩ : ∃ PP : Ending → World → Prop, PP = fun e w' => ∃ A' c', e = .returned (.slice A' (tryZ s zs).length c') ∧ RowZ w' A' (tryZ s zs).length c' (tryZ s zs) ∧ Below w.heap.size w w' := ⟨_, rfl⟩
  rw [← hPP]
  have HPP := Lib.hid hPP
  clear hK hr hlen hPP
  go_enter Tryz.func8, Tryz.ntmps8
  go_wp2_with fail
  go_loopw [5, 12] (fun v i wr => ∃ j : Nat, j ≤ n ∧ i = .int .i64 j ∧ Two w wr v (tryZ s (zs.take j)) (.slice none 0 0) []) (fun _ i _ => n - (RowKit.intOf i).toNat)
  case atStart => exact ⟨0, Nat.zero_le _, rfl, two_nil w⟩
  case round =>
    obtain ⟨j, hj, rfl, hT⟩ := hrel
    have T0 := Lib.hid hT
    have R0 := Lib.hid (HR.out.below hT.lt)
    clear hT
    by_cases hlt : j < n
    · obtain ⟨a, rfl, a1, a2, a3⟩ := R0.out.at j hlt
      unfold maxLen at a2
      have HTK : Hid (tryZ s (zs.take (j + 1)) = if dcE (zs.getD j 0) s = 0 then tryZ s (zs.take j) ++ [zs.getD j 0] else tryZ s (zs.take j)) := Lib.hid (by rw [take_snocZ zs j (by rw [HLN.out]; exact hlt), tryZ_snoc])
      have HLE : Hid ((tryZ s (zs.take j)).length ≤ 100) := Lib.hid (by have := tryZ_le s (zs.take j); rw [List.length_take] at this; omega)
      generalize zs.getD j 0 = z at *
      have HDZ := Lib.hid (fun W hW => HD.out z W hW)
      have HBD := Lib.hid (fun W => pt.bad_any W (dcE z s) (dcA z s))
      generalize dcT z s = DT at *
      generalize dcA z s = DA at *
      by_cases hz : dcE z s = 0
      · rw [if_pos hz] at HTK
        rw [hz] at HDZ HBD
        clear hz
        go_wp2_with (first
          | (go_at_call 9; refine (HDZ.out _ (HK.out.below T0.out.lt)).mono ?_; rintro e1 w1 ⟨rfl, hb1⟩; have T1 := Lib.hid (T0.out.below hb1); have hA : Below w1.heap.size w1 (w1.alloc (.cells #[.int .i64 0, .int .i64 DA] 32)) := (Below.refl _ _).alloc (Nat.le_refl _) _; have T2 := Lib.hid (T1.out.below hA); have F1 := Lib.hid (pt.f2_new w1 0 DA 32); obtain ⟨_, p1, q1, r1, s1⟩ := F1.out; clear hb1 hA)
          | (go_at_call 11; refine (HBD.out _).mono ?_; rintro e2 w2 ⟨rfl, hb2⟩; have T3 := Lib.hid (T2.out.below hb2); clear hb2)
          | (at_builtin; (refine append_z rfl _ _ rfl _ _ _ _ rfl T3.out z rfl (by have := HLE.out; omega) ?_); intro v' w5 hT5; have T5 := Lib.hid hT5; clear hT5))
        go_roundw
        case rel => exact ⟨j + 1, by omega, by go_num, by rw [HTK.out]; exact T5.out⟩
        case measure => simp [RowKit.intOf]; omega
      · rw [if_neg hz] at HTK
        have HB2 : Hid (∀ W, Calls Tryz.prog 11 #[.agg #[.int .i64 (dcE z s), .int .i64 DA]] W fun e w' => e = .returned (.bool true) ∧ Below W.heap.size W w') := Lib.hid (fun W => (HBD.out W).mono fun e w' h => ⟨by rw [h.1]; simp [hz], h.2⟩)
        clear HBD hz
        generalize dcE z s = E at *
        go_wp2_with (first
          | (go_at_call 9; refine (HDZ.out _ (HK.out.below T0.out.lt)).mono ?_; rintro e1 w1 ⟨rfl, hb1⟩; have T1 := Lib.hid (T0.out.below hb1); have hA : Below w1.heap.size w1 (w1.alloc (.cells #[.int .i64 E, .int .i64 DA] 32)) := (Below.refl _ _).alloc (Nat.le_refl _) _; have T2 := Lib.hid (T1.out.below hA); have F1 := Lib.hid (pt.f2_new w1 E DA 32); obtain ⟨_, p1, q1, r1, s1⟩ := F1.out; clear hb1 hA)
          | (go_at_call 11; refine (HB2.out _).mono ?_; rintro e2 w2 ⟨rfl, hb2⟩; have T3 := Lib.hid (T2.out.below hb2); clear hb2))
        go_roundw
        case rel => exact ⟨j + 1, by omega, by go_num, by rw [HTK.out]; exact T3.out⟩
        case measure => simp [RowKit.intOf]; omega
    · obtain rfl : j = n := by omega
      have htk : zs.take j = zs := by rw [← HLN.out]; exact List.take_length
      rw [htk] at T0
      obtain ⟨A', c', rfl, hrow⟩ := T0.out.a.row
      have HRW := Lib.hid hrow
      clear htk hrow hlt
      go_wp2_with fail
      rw [HPP.out]
      exact ⟨A', c', rfl, HRW.out, T0.out.lt⟩
end Go.Proofs.YtbgbgigpcegenaaGreatDoor.ch
