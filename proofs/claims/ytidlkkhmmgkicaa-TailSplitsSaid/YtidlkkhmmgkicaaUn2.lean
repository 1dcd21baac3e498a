/- Layer 11: what the walks ask of the landed functions; the document's example; the walks of SyncPuts, SyncBack, SyncParts. -/
import Derived.Test.YtidlkkhmmgkicaaUn1
import Derived.WalkSmall
namespace Go.Proofs.Ytidlkkhmmgkicaa.un
open Go.RowKit Go.Lib
set_option linter.unusedVariables false
structure Un (K : World → Prop) : Prop where
  stay : ∀ w w', K w → Below w.heap.size w w' → K w'
  clean : ∀ (s : ByteArray) w, K w → s.size ≤ 4000 → Calls Try.prog 11 #[.string s] w fun e w' => e = .returned (.bool (extL s.data.toList == 0)) ∧ Below w.heap.size w w'
  put : ∀ (s : ByteArray) w, K w → s.size ≤ 4000 → Calls Try.prog 12 #[.string s] w fun e w' => e = .returned (.string (bs (putL s.data.toList))) ∧ Below w.heap.size w w'
  drop : ∀ (s : ByteArray) w, K w → s.size ≤ 4000 → Calls Try.prog 14 #[.string s] w fun e w' => e = .returned (.string (bs (drpL s.data.toList))) ∧ Below w.heap.size w w'
  extra : ∀ (s : ByteArray) w, K w → s.size ≤ 4000 → Calls Try.prog 16 #[.string s] w fun e w' => e = .returned (.int .i64 ((extL s.data.toList : Nat) : Int)) ∧ Below w.heap.size w w'
/-- The world so far. -/
structure Kb (K : World → Prop) (w W : World) : Prop where
  k : K W
  b : Below w.heap.size w W
theorem Kb.below {K : World → Prop} (L : ∀ w w', K w → Below w.heap.size w w' → K w') {w W W' : World} (h : Kb K w W) (hb : Below W.heap.size W W') : Kb K w W' := ⟨L _ _ h.k hb, h.b.trans (hb.mono h.b.size)⟩
set_option maxRecDepth 100000 in
set_option maxHeartbeats 2000000 in
theorem Awake_any {K : World → Prop} (L : Un K) (w : World) (hK : K w) : Calls Try.prog 27 #[] w fun e w' => e = .returned (.bool true) ∧ Below w.heap.size w w' := by
  have HP : Hid (∀ W, K W → Calls Try.prog 12 #[.string ⟨#[255, 224]⟩] W fun e w' => e = .returned (.string ⟨#[255, 0, 224]⟩) ∧ Below W.heap.size W w') := Lib.hid (fun W h => by
    have h2 := L.put ⟨#[255, 224]⟩ W h (by decide)
    rw [show bs (putL (⟨#[255, 224]⟩ : ByteArray).data.toList) = ⟨#[255, 0, 224]⟩ by decide +kernel] at h2
    exact h2)
  have HD : Hid (∀ W, K W → Calls Try.prog 14 #[.string ⟨#[255, 0, 0]⟩] W fun e w' => e = .returned (.string ⟨#[255, 0]⟩) ∧ Below W.heap.size W w') := Lib.hid (fun W h => by
    have h2 := L.drop ⟨#[255, 0, 0]⟩ W h (by decide)
    rw [show bs (drpL (⟨#[255, 0, 0]⟩ : ByteArray).data.toList) = ⟨#[255, 0]⟩ by decide +kernel] at h2
    exact h2)
  have HC : Hid (∀ W, K W → Calls Try.prog 11 #[.string ⟨#[255]⟩] W fun e w' => e = .returned (.bool false) ∧ Below W.heap.size W w') := Lib.hid (fun W h => L.clean ⟨#[255]⟩ W h (by decide))
  have HL := Lib.hid L.stay
  have K0 : Hid (Kb K w w) := Lib.hid ⟨hK, Below.refl _ _⟩
  clear L hK
  go_enter Try.func27, Try.ntmps27
  go_wp2_with (first
    | (go_at_call 11; refine (HC.out _ K2.out.k).mono ?_; rintro e3 w3 ⟨rfl, hb3⟩; have K3 := Lib.hid (K2.out.below HL.out hb3); clear hb3)
    | (go_at_call 14; refine (HD.out _ K1.out.k).mono ?_; rintro e2 w2 ⟨rfl, hb2⟩; have K2 := Lib.hid (K1.out.below HL.out hb2); clear hb2)
    | (go_at_call 12; refine (HP.out _ K0.out.k).mono ?_; rintro e1 w1 ⟨rfl, hb1⟩; have K1 := Lib.hid (K0.out.below HL.out hb1); clear hb1))
  go_ret
  exact ⟨rfl, K3.out.b⟩
theorem awake_any {K : World → Prop} (L : Un K) (w : World) (hK : K w) : Calls Try.prog 9 #[] w fun e w' => e = .returned (.bool true) ∧ Below w.heap.size w w' := by
  have HA := Lib.hid (Awake_any L w hK)
  clear L hK
  go_enter Try.func9, Try.ntmps9
  go_wp2_with (go_at_call 27; refine (HA.out).mono ?_; rintro e2 w2 ⟨rfl, hb2⟩)
  go_ret
  exact ⟨rfl, hb2⟩
set_option maxRecDepth 100000 in
set_option maxHeartbeats 4000000 in
theorem puts_walk {K : World → Prop} (L : Un K) (s : ByteArray) (w : World) (hK : K w) (hs : s.size ≤ maxLen) : Calls Try.prog 3 #[.string s] w fun e w' => e = .returned (.bool true) ∧ Below w.heap.size w w' := by
  have HAW := Lib.hid (fun w2 h2 => awake_any L w2 h2)
  have HL := Lib.hid L.stay
  have K0 : Hid (Kb K w w) := Lib.hid ⟨hK, Below.refl _ _⟩
  unfold maxLen at hs
  by_cases h : 1000 < s.size
  · have h1 : (1000 : Int) < s.size := by omega
    clear L hK h
    go_enter Try.func3, Try.ntmps3
    go_wp2_with (go_at_call 9; refine (HAW.out _ K0.out.k).mono ?_; rintro e2 w2 ⟨rfl, hb2⟩)
    go_ret
    exact ⟨rfl, hb2⟩
  · have h1 : ¬ (1000 : Int) < s.size := by omega
    have HC := Lib.hid (fun W h => L.clean s W h (by omega))
    have HP := Lib.hid (fun W h => L.put s W h (by omega))
    have HD := Lib.hid (fun W h => L.drop s W h (by omega))
    have HE := Lib.hid (fun W h => L.extra s W h (by omega))
    have HRP := Lib.hid (fun W => refPut_any s W (by omega))
    have HRD := Lib.hid (fun W => refDrop_any s W (by omega))
    have HLK := Lib.hid (fun i W h => Looks_any s i W h (by omega))
    have HX := Lib.hid (fun i h => ext_at s i h)
    have hle := ext_le s.data.toList
    rw [size_list] at hle
    clear L hK h
    go_enter Try.func3, Try.ntmps3
    go_wp2_with fail
    go_loopw [3, 4, 12] (fun c e i wr => ∃ j E : Nat, j ≤ s.size ∧ i = .int .i64 j ∧ c = .bool (E == 0) ∧ e = .int .i64 E ∧ Hid (E + extL (s.data.toList.drop j) = extL s.data.toList) ∧ Kb K w wr) (fun _ _ i _ => s.size - (RowKit.intOf i).toNat)
    case atStart => exact ⟨0, 0, by omega, rfl, rfl, rfl, Lib.hid (by simp), K0.out⟩
    case round =>
      obtain ⟨j, E, hj, rfl, rfl, rfl, hE, hkb⟩ := hrel
      have KX := Lib.hid hkb
      clear hkb
      by_cases hlt : j < s.size
      · have j0 : (0 : Int) ≤ (j : Int) := by omega
        have j1 : (j : Int) < (s.size : Int) := by omega
        have hx := HX.out j hlt
        have HK := Lib.hid (fun W => HLK.out j W hlt)
        have hE2 := hE.out
        have e0 : (E : Int) ≤ 1000 := by omega
        cases hk : lkA s j with
        | true =>
          rw [hk] at HK hx
          have HE2 : Hid ((E + 1) + extL (s.data.toList.drop (j + 1)) = extL s.data.toList) := Lib.hid (by rw [if_pos rfl] at hx; omega)
          have hz : ((E + 1) == 0) = false := by simp
          clear hk hx hE2
          go_wp2_with (go_at_call 10; refine (HK.out _).mono ?_; rintro e1 w1 ⟨rfl, rfl⟩)
          go_roundw
          case rel => exact ⟨j + 1, E + 1, by omega, by go_num, by rw [hz], by go_num, HE2, KX.out⟩
          case measure => simp [RowKit.intOf]; omega
        | false =>
          rw [hk] at HK hx
          have HE2 : Hid (E + extL (s.data.toList.drop (j + 1)) = extL s.data.toList) := Lib.hid (by rw [if_neg (by simp)] at hx; omega)
          clear hk hx hE2
          go_wp2_with (go_at_call 10; refine (HK.out _).mono ?_; rintro e1 w1 ⟨rfl, rfl⟩)
          go_roundw
          case rel => exact ⟨j + 1, E, by omega, by go_num, rfl, rfl, HE2, KX.out⟩
          case measure => simp [RowKit.intOf]; omega
      · obtain rfl : j = s.size := by omega
        have hEE : extL s.data.toList = E := by rw [← hE.out, drop_end s s.size (Nat.le_refl _)]; simp [extL]
        rw [hEE] at HC HE
        generalize bs (putL s.data.toList) = P at *
        generalize bs (drpL s.data.toList) = D at *
        clear hE hEE hle hlt
        go_wp2_with (first
          | (go_at_call 16; refine (HE.out _ Y4.out.k).mono ?_; rintro e7 w7 ⟨rfl, hb7⟩; have Y5 := Lib.hid (Y4.out.below HL.out hb7); clear hb7)
          | (go_at_call 15; refine (HRD.out _).mono ?_; rintro e6 w6 ⟨rfl, hb6⟩; have Y4 := Lib.hid (Y33.out.below HL.out hb6); clear hb6)
          | (go_at_call 14; refine (HD.out _ Y3.out.k).mono ?_; rintro e5 w5 ⟨rfl, hb5⟩; have Y33 := Lib.hid (Y3.out.below HL.out hb5); clear hb5)
          | (go_at_call 13; refine (HRP.out _).mono ?_; rintro e4 w4 ⟨rfl, hb4⟩; have Y3 := Lib.hid (Y22.out.below HL.out hb4); clear hb4)
          | (go_at_call 12; refine (HP.out _ Y2.out.k).mono ?_; rintro e3 w3 ⟨rfl, hb3⟩; have Y22 := Lib.hid (Y2.out.below HL.out hb3); clear hb3)
          | (go_at_call 11; refine (HC.out _ Y1.out.k).mono ?_; rintro e2 w2 ⟨rfl, hb2⟩; have Y2 := Lib.hid (Y1.out.below HL.out hb2); clear hb2)
          | (go_at_call 9; refine (HAW.out _ KX.out.k).mono ?_; rintro e1 w1 ⟨rfl, hb1⟩; have Y1 := Lib.hid (KX.out.below HL.out hb1); clear hb1))
        go_ret
        exact ⟨by simp, Y5.out.b⟩
end Go.Proofs.Ytidlkkhmmgkicaa.un
