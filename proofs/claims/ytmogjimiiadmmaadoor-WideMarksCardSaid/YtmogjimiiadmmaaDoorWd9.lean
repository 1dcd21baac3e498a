/- The document's answer of layer 3: two, Encode: contracts. -/
import Derived.Test.YtmogjimiiadmmaaDoorWd8
namespace Go.Proofs.YtmogjimiiadmmaaDoor.wd
open Go.RowKit Go.Lib
set_option linter.unusedVariables false
theorem two_bytes (u : Nat) (h : u < 65536) : strOfNums [(u : Int) / 256, (u : Int) % 256] = ⟨(ub true u).toArray⟩ ∧ strOfNums [(u : Int) % 256, (u : Int) / 256] = ⟨(ub false u).toArray⟩ := by
  have e1 : ((u : Int) / 256).toNat = u / 256 := by omega
  have e2 : ((u : Int) % 256).toNat = u % 256 := by omega
  unfold strOfNums ub
  simp [e1, e2]
set_option maxRecDepth 100000 in
theorem two_any (u : Nat) (big : Bool) (w : World) (h : u < 65536) : Calls Tryd.prog 43 #[.int .i32 u, .bool big] w fun e w' => e = .returned (.string ⟨(ub big u).toArray⟩) ∧ Below w.heap.size w w' := by
  have hb := two_bytes u h
  have h0 : (0 : Int) ≤ (u : Int) := by omega
  have h1 : (u : Int) ≤ 65535 := by omega
  have g0 : 0 ≤ (u : Int) / 256 := by omega
  have g1 : (u : Int) / 256 ≤ 255 := by omega
  have g2 : 0 ≤ (u : Int) % 256 := by omega
  have g3 : (u : Int) % 256 ≤ 255 := by omega
  have c1 := pt.conv_nums w [(u : Int) / 256, (u : Int) % 256] 2 #[.int .u8 ((u : Int) / 256), .int .u8 ((u : Int) % 256)] rfl (by decide) rfl
  have c2 := pt.conv_nums w [(u : Int) % 256, (u : Int) / 256] 2 #[.int .u8 ((u : Int) % 256), .int .u8 ((u : Int) / 256)] rfl (by decide) rfl
  rw [hb.1] at c1
  rw [hb.2] at c2
  cases big with
  | true =>
    generalize ub true u = T at *
    clear hb h c2
    generalize (u : Int) = U at *
    go_enter Tryd.func43, Tryd.ntmps43
    go_wp2
    go_ret
    exact ⟨rfl, by repeat (first | (with_reducible exact Below.refl _ _) | (with_reducible refine Below.setCell ?_ (by simp) _) | (with_reducible refine Below.alloc ?_ (by simp) _))⟩
  | false =>
    generalize ub false u = T at *
    clear hb h c1
    generalize (u : Int) = U at *
    go_enter Tryd.func43, Tryd.ntmps43
    go_wp2
    go_ret
    exact ⟨rfl, by repeat (first | (with_reducible exact Below.refl _ _) | (with_reducible refine Below.setCell ?_ (by simp) _) | (with_reducible refine Below.alloc ?_ (by simp) _))⟩
theorem wb_snoc (big : Bool) (zs : List Int) (p : Int) (u v : Nat) : (us p = [u] → (⟨(ubs big (uss zs)).toArray⟩ : ByteArray) ++ ⟨(ub big u).toArray⟩ = ⟨(ubs big (uss (zs ++ [p]))).toArray⟩) ∧ (us p = [u, v] → (⟨(ubs big (uss zs)).toArray⟩ : ByteArray) ++ ⟨(ub big u).toArray⟩ ++ ⟨(ub big v).toArray⟩ = ⟨(ubs big (uss (zs ++ [p]))).toArray⟩) := by
  constructor
  · intro h
    apply ByteArray.ext
    apply Array.ext'
    rw [uss_app, uss_one, h]
    simp [ubs]
  · intro h
    apply ByteArray.ext
    apply Array.ext'
    rw [uss_app, uss_one, h]
    simp [ubs]
set_option maxRecDepth 100000 in
set_option maxHeartbeats 2000000 in
theorem refEncode_any (big : Bool) (p : Option Addr) (n c : Nat) (zs : List Int) (w : World) (h : pt.RowI w p n c zs) (hn : n ≤ 8000) (hv : zs.all validRune = true) :
    Calls Tryd.prog 25 #[.slice p n c, .bool big] w fun e w' => e = .returned (.string (wb big zs)) ∧ Below w.heap.size w w' := by
  obtain ⟨T, hT⟩ : ∃ T, T = wb big zs := ⟨_, rfl⟩
  rw [← hT]
  have HT := Lib.hid hT
  have HLN := Lib.hid h.len; have R0 := Lib.hid h; have HV := Lib.hid hv
  clear h hv hT
  go_enter Tryd.func25, Tryd.ntmps25
  go_wp2_with fail
  go_loopw [5, 6] (fun t i wr => ∃ j : Nat, j ≤ n ∧ i = .int .i64 j ∧ t = .string ⟨(ubs big (uss (zs.take j))).toArray⟩ ∧ Below w.heap.size w wr) (fun _ i _ => n - (RowKit.intOf i).toNat)
  case atStart => exact ⟨0, Nat.zero_le _, rfl, by simp [uss, ubs], Below.refl _ _⟩
  case round =>
    obtain ⟨j, hj, rfl, rfl, hB⟩ := hrel
    have HR := Lib.hid (R0.out.below hB); have HB := Lib.hid hB
    clear hB
    by_cases hlt : j < n
    · obtain ⟨a, rfl, a1, a2, a3⟩ := HR.out.at j hlt
      unfold maxLen at a2
      have hjl : j < zs.length := by have := HLN.out; omega
      have htk : Hid (zs.take (j + 1) = zs.take j ++ [zs.getD j 0]) := Lib.hid (by rw [List.take_add_one, List.getElem?_eq_getElem hjl]; simp [List.getD, List.getElem?_eq_getElem hjl])
      have hvj : validRune (zs.getD j 0) = true := List.all_eq_true.1 HV.out _ (by simp [List.getD, List.getElem?_eq_getElem hjl])
      have hTs : (⟨(ubs big (uss (zs.take j))).toArray⟩ : ByteArray).size ≤ 32000 := by
        show (ubs big (uss (zs.take j))).toArray.size ≤ 32000
        have := uss_len (zs.take j)
        have : (zs.take j).length ≤ j := List.length_take_le _ _
        simp only [List.size_toArray, ubs_len]; omega
      have hr := valid_range hvj
      generalize zs.getD j 0 = x at *
      by_cases hx : x < 65536
      · obtain ⟨u, hu⟩ : ∃ u, u = x.toNat := ⟨_, rfl⟩
        have hus : us x = [u] := by unfold us; rw [if_pos hx, hu]
        have hux : x = (u : Int) := by omega
        have hul : u < 65536 := by omega
        have hcat := (wb_snoc big (zs.take j) x u 0).1 hus
        rw [← htk.out] at hcat
        have hTW := fun w2 => two_any u big w2 hul
        rw [← hux] at hTW
        have hBs := ub_size big u
        generalize (⟨(ub big u).toArray⟩ : ByteArray) = B at *
        obtain ⟨T0, hT0⟩ : ∃ T0 : ByteArray, T0 = ⟨(ubs big (uss (zs.take j))).toArray⟩ := ⟨_, rfl⟩
        rw [← hT0] at hTs hcat ⊢
        have HTW := Lib.hid hTW; have HCAT := Lib.hid hcat
        have hov : ¬ 9223372036854775807 < T0.size + B.size := by omega
        clear hTW hcat hT0 hu hus hux hul hvj hjl hBs
        go_wp2_with (go_at_call 43; refine (HTW.out _).mono ?_; rintro e3 w3 ⟨rfl, hb3⟩)
        go_roundw
        case rel => exact ⟨j + 1, by omega, by go_num, by rw [HCAT.out], HB.out.trans (hb3.mono HB.out.size)⟩
        case measure => simp [RowKit.intOf]; omega
      · obtain ⟨u, hu⟩ : ∃ u, u = 55296 + (x.toNat - 65536) / 1024 := ⟨_, rfl⟩
        obtain ⟨v, hv⟩ : ∃ v, v = 56320 + (x.toNat - 65536) % 1024 := ⟨_, rfl⟩
        have hus : us x = [u, v] := by unfold us; rw [if_neg hx, hu, hv]
        have hcat := (wb_snoc big (zs.take j) x u v).2 hus
        rw [← htk.out] at hcat
        have hTW := fun w2 => two_any u big w2 (by omega)
        have hTV := fun w2 => two_any v big w2 (by omega)
        have hux : (u : Int) = 55296 + (x - 65536) / 1024 := by omega
        have hvx : (v : Int) = 56320 + (x - 65536) % 1024 := by omega
        rw [hux] at hTW
        rw [hvx] at hTV
        have hBs := ub_size big u
        have hCs := ub_size big v
        have g0 : 65536 ≤ x := by omega
        have g1 : 0 ≤ (x - 65536) / 1024 := by omega
        have g2 : (x - 65536) / 1024 ≤ 1023 := by omega
        have g3 : 0 ≤ (x - 65536) % 1024 := by omega
        have g4 : (x - 65536) % 1024 ≤ 1023 := by omega
        generalize (⟨(ub big u).toArray⟩ : ByteArray) = B at *
        generalize (⟨(ub big v).toArray⟩ : ByteArray) = C at *
        obtain ⟨T0, hT0⟩ : ∃ T0 : ByteArray, T0 = ⟨(ubs big (uss (zs.take j))).toArray⟩ := ⟨_, rfl⟩
        rw [← hT0] at hTs hcat ⊢
        have HTW := Lib.hid hTW; have HTV := Lib.hid hTV; have HCAT := Lib.hid hcat
        have hov : ¬ 9223372036854775807 < T0.size + B.size := by omega
        have hov2 : ¬ 9223372036854775807 < (T0 ++ B).size + C.size := by rw [ByteArray.size_append]; omega
        have hov3 : ¬ 9223372036854775807 < T0.size + B.size + C.size := by omega
        clear hTW hTV hcat hT0 hu hv hus hux hvx hvj hjl hBs hCs
        go_wp2_with (first | (go_at_call 43; with_reducible refine (HTW.out _).mono ?_; rintro e3 w3 ⟨rfl, hb3⟩; have B3 := Lib.hid (HB.out.trans (hb3.mono HB.out.size)); clear hb3) | (go_at_call 43; with_reducible refine (HTV.out _).mono ?_; rintro e4 w4 ⟨rfl, hb4⟩; have B4 := Lib.hid (B3.out.trans (hb4.mono B3.out.size)); clear hb4))
        go_roundw
        case rel => exact ⟨j + 1, by omega, by go_num, by rw [HCAT.out], B4.out⟩
        case measure => simp [RowKit.intOf]; omega
    · obtain rfl : j = n := by omega
      have htk : zs.take j = zs := by rw [← HLN.out]; exact List.take_length
      go_wp2
      go_ret
      exact ⟨by rw [HT.out, htk]; rfl, HB.out⟩
end Go.Proofs.YtmogjimiiadmmaaDoor.wd
