/- The walk of the law OctetReads of layer 1. -/
import Derived.Test.YtkhcmgnempjjcaaOct20
import Derived.Test.YtkhcmgnempjjcaaOct5
import Derived.Deep.RegionHeld3
import Derived.Deep.DeepCutAuto
namespace Go.Proofs.Ytkhcmgnempjjcaa
open Go.RowKit Go.PlainAid
set_option linter.unusedVariables false
/-- Operation i of a list of operations. -/
structure OpAt (w : World) (a : Addr) (i : Nat) (q on oc : Int) (os : ByteArray) : Prop where
  c0 : w.cell? (a.add (i * 4)) = some (.int .i64 q)
  c1 : w.cell? ⟨(a.add (i * 4)).block, (a.add (i * 4)).off + 1, none⟩ = some (.int .i64 on)
  c2 : w.cell? ⟨(a.add (i * 4)).block, (a.add (i * 4)).off + 2, none⟩ = some (.int .i64 oc)
  c3 : w.cell? ⟨(a.add (i * 4)).block, (a.add (i * 4)).off + 3, none⟩ = some (.string os)
  n0 : -9223372036854775808 ≤ on
  n1 : on ≤ 9223372036854775807
theorem OpAt.below {w w' : World} {a : Addr} {i : Nat} {q on oc : Int} {os : ByteArray} (h : OpAt w a i q on oc os) (hb : Below w.heap.size w w') : OpAt w' a i q on oc os := by
  have H : ∀ (x : Addr) (v : Value), w.cell? x = some v → w'.cell? x = some v := fun x v hv => by
    rw [hb.cell (World.block_lt_of_cell? w _ hv)]; exact hv
  exact ⟨H _ _ h.c0, H _ _ h.c1, H _ _ h.c2, H _ _ h.c3, h.n0, h.n1⟩
theorem left_both (b : Nat) (t : ByteArray) (k : Nat) (bs e at' : Int) (hk : k ≤ t.size) (ht : t.size ≤ 2000) :
    ∃ lv : Int, (∀ w, Rd w b t k bs e at' → Calls Try.prog 19 #[.pointer (some ⟨b, 0, none⟩)] w fun e2 w' => e2 = .returned (.int .i64 lv) ∧ Below w.heap.size w w') ∧
      (∀ w, Calls Try.prog 27 #[.agg #[.string t, .int .i64 (k : Int), .int .i64 bs, .int .i64 e, .int .i64 at']] w fun e2 w' => e2 = .returned (.int .i64 lv) ∧ Below w.heap.size w w') := by
  obtain ⟨l, hl⟩ : ∃ l, k + l = t.size := ⟨t.size - k, by omega⟩
  by_cases he : e = 0
  · subst he
    exact ⟨l, fun w h => left_l w b t k l bs at' h hl (by unfold maxLen; omega), fun w => mLeft_on t k l bs at' w hl (by omega)⟩
  · have he' : (e != 0) = true := by simpa using he
    exact ⟨0, fun w h => left_off w b t k bs e at' h he', fun w => mLeft_off t k bs e at' w he'⟩
set_option maxRecDepth 100000 in
set_option maxHeartbeats 2000000 in
theorem reads_walk (t : ByteArray) (base : Int) (a : Addr) (len cap : Nat) (w : World) (b0 : -9223372036854775808 ≤ base) (b1 : base ≤ 9223372036854775807) (hlc : len ≤ cap) (hcap : cap ≤ maxLen) (hts : t.size ≤ maxLen)
    (hops : ∀ i, i < len → ∃ q on oc os, OpAt w a i q on oc os) :
    Calls Try.prog 5 #[.string t, .int .i64 base, .slice (some a) len cap] w fun e w' => e = .returned (.bool true) ∧ Below w.heap.size w w' := by
  unfold maxLen at hcap hts
  by_cases hbig : 2000 < t.size
  · go_enter Try.func5, Try.ntmps5
    go_wp2_with (go_at_call 16; refine (awake_any _).mono ?_; rintro e1 w1 ⟨rfl, hb1⟩)
    go_ret
    exact ⟨rfl, hb1⟩
  by_cases hmany : 100 < len
  · go_enter Try.func5, Try.ntmps5
    go_wp2_with (go_at_call 16; refine (awake_any _).mono ?_; rintro e1 w1 ⟨rfl, hb1⟩)
    go_ret
    exact ⟨rfl, hb1⟩
  by_cases hfar : 1099511627776 < base
  · go_enter Try.func5, Try.ntmps5
    go_wp2_with (go_at_call 16; refine (awake_any _).mono ?_; rintro e1 w1 ⟨rfl, hb1⟩)
    go_ret
    exact ⟨rfl, hb1⟩
  have HO := Lib.hid hops
  clear hops
  by_cases hneg : base < 0
  · have emx : max base 0 = 0 := by omega
    have HI0 : ∀ w, Calls Try.prog 25 #[.string t, .int .i64 base] w fun e' w' => e' = .returned (.pointer (some ⟨w.heap.size, 0, none⟩)) ∧ Rd w' w.heap.size t 0 0 0 0 ∧ Below w.heap.size w w' := fun w => (inner_any t base w).mono fun e' w' ⟨x, y, z⟩ => ⟨x, by rw [emx] at y; exact y, z⟩
    have HI := Lib.hid HI0
    clear HI0 emx
    have z0 : (0 : Int) ≤ 0 := by omega
    have z1 : (0 : Int) ≤ 1099511627776 := by omega
    go_enter Try.func5, Try.ntmps5
    go_wp2_with (go_at_call 25; refine (HI.out _).mono ?_; rintro e1 w1 ⟨rfl, hR, hb1⟩; have R1 := Lib.hid hR; clear hR)
    have R2 := Lib.hid (R1.out.below ((Below.refl _ w1).alloc (Nat.le_refl _) (.cells #[.string t, .int .i64 0, .int .i64 0, .int .i64 0, .int .i64 0] 43)) R1.out.lt)
    have M2 := Lib.hid (mb_new w1 t 0 0 0 0)
    have B2 : Below w.heap.size w (w1.alloc (.cells #[.string t, .int .i64 0, .int .i64 0, .int .i64 0, .int .i64 0] 43)) := hb1.alloc hb1.size _
    have hRM : w.heap.size < w1.heap.size := R1.out.lt
    obtain ⟨M, hM⟩ : ∃ M, M = w1.heap.size := ⟨_, rfl⟩
    rw [← hM] at M2 hRM ⊢
    generalize hW : w1.alloc (.cells #[.string t, .int .i64 0, .int .i64 0, .int .i64 0, .int .i64 0] 43) = W at *
    clear hW hM hb1 R1
    go_loopw [35] (fun i wr => ∃ (j k : Nat) (e a' : Int), j ≤ len ∧ i = .int .i64 j ∧ k ≤ t.size ∧ Rd wr w.heap.size t k 0 e a' ∧ Mb wr M t k 0 e a' ∧ Below w.heap.size w wr) (fun i _ => len - (intOf i).toNat)
    case atStart => exact ⟨0, 0, 0, 0, Nat.zero_le _, rfl, Nat.zero_le _, R2.out, M2.out, B2⟩
    case round =>
      obtain ⟨j, k, e, a', hj, rfl, hk, hR, hM, hB⟩ := hrel
      have HR := Lib.hid hR; have HM := Lib.hid hM; have HB := Lib.hid hB
      clear hR hM hB
      by_cases hlt : j < len
      · obtain ⟨q, on, oc, os, ho⟩ := HO.out j hlt
        have HOp := Lib.hid (ho.below HB.out)
        clear ho
        obtain ⟨o0, o1, o2, o3, _, _⟩ := HOp.out
        by_cases hos : 200 < os.size
        · go_wp2_with (go_at_call 16; refine (awake_any _).mono ?_; rintro e1 w2 ⟨rfl, hb2⟩)
          go_ret
          exact ⟨rfl, (HB.out.alloc HB.out.size _).trans (hb2.mono (by have := HB.out.size; simp; omega))⟩
        · obtain ⟨k', e', a2, hk', hdo⟩ := ends_any w.heap.size t k 0 e a' on oc os hk (by omega) z0 z1 q (by omega) HOp.out.n0 HOp.out.n1
          have HD := Lib.hid hdo
          clear hdo
          obtain ⟨lv, hL, hL'⟩ := left_both w.heap.size t k' 0 e' a2 hk' (by omega)
          have HL := Lib.hid hL; have HL' := Lib.hid hL'
          clear hL hL'
          have RA := Lib.hid (HR.out.below ((Below.refl _ wr).alloc (Nat.le_refl _) (.cells #[.int .i64 q, .int .i64 on, .int .i64 oc, .string os] 45)) HR.out.lt)
          have MA := Lib.hid (HM.out.alloc (.cells #[.int .i64 q, .int .i64 on, .int .i64 oc, .string os] 45))
          have BA : Below w.heap.size w (wr.alloc (.cells #[.int .i64 q, .int .i64 on, .int .i64 oc, .string os] 45)) := HB.out.alloc HB.out.size _
          have hMR : M ≠ w.heap.size := by omega
          have hRM' : w.heap.size ≠ M := by omega
          obtain ⟨lM, m0, m1, m2, m3, m4, mf⟩ := HM.out
          go_wp2_with (go_at_call 26; refine (HD.out _ RA.out).mono ?_; rintro e1 w2 ⟨rfl, hR2, hU2⟩; have R3 := Lib.hid hR2; clear hR2; have M3 := Lib.hid (MA.out.upd hU2 hMR); obtain ⟨lM3, m0, m1, m2, m3, m4, mf⟩ := M3.out)
          have S1 : Upd M w2 (((((w2.setCell ⟨M, 0, none⟩ (.string t)).setCell ⟨M, 1, none⟩ (.int .i64 k')).setCell ⟨M, 2, none⟩ (.int .i64 0)).setCell ⟨M, 3, none⟩ (.int .i64 e')).setCell ⟨M, 4, none⟩ (.int .i64 a2)) := by repeat (first | (with_reducible exact Upd.refl _ _) | (with_reducible refine Upd.setCell ?_ _ _) | (with_reducible refine Upd.drew ?_))
          have B3 : Below w.heap.size w w2 := Upd.below BA hU2 (Nat.le_refl _) BA.size
          have B4 := Upd.below B3 S1 (by omega) B3.size
          have N4 : Mb (((((w2.setCell ⟨M, 0, none⟩ (.string t)).setCell ⟨M, 1, none⟩ (.int .i64 k')).setCell ⟨M, 2, none⟩ (.int .i64 0)).setCell ⟨M, 3, none⟩ (.int .i64 e')).setCell ⟨M, 4, none⟩ (.int .i64 a2)) M t k' 0 e' a2 := mb_set M3.out
          have R4 := R3.out.upd S1 hRM'
          have B5 := B4.alloc B4.size (.cells #[.string t, .int .i64 k', .int .i64 0, .int .i64 e', .int .i64 a2] 43)
          have N5 := Lib.hid (N4.alloc (.cells #[.string t, .int .i64 k', .int .i64 0, .int .i64 e', .int .i64 a2] 43))
          have R5 := Lib.hid (R4.below ((Below.refl _ _).alloc (Nat.le_refl _) (.cells #[.string t, .int .i64 k', .int .i64 0, .int .i64 e', .int .i64 a2] 43)) R4.lt)
          have HB5 := Lib.hid B5
          clear S1 B3 B4 N4 R4 B5 m0 m1 m2 m3 m4 mf o0 o1 o2 o3
          generalize ((((((w2.setCell ⟨M, 0, none⟩ (.string t)).setCell ⟨M, 1, none⟩ (.int .i64 k')).setCell ⟨M, 2, none⟩ (.int .i64 0)).setCell ⟨M, 3, none⟩ (.int .i64 e')).setCell ⟨M, 4, none⟩ (.int .i64 a2)).alloc (.cells #[.string t, .int .i64 k', .int .i64 0, .int .i64 e', .int .i64 a2] 43)) = W3 at *
          obtain ⟨lM3, m0, m1, m2, m3, m4, mf⟩ := N5.out
          have R6 := Lib.hid (R5.out.below ((Below.refl _ W3).drew) R5.out.lt)
          have N6 := Lib.hid (N5.out.below ((Below.refl _ W3).drew) N5.out.lt)
          have B6 : Below w.heap.size w W3.drew := HB5.out.drew
          have HA : Hid (∀ w', Rd w' w.heap.size t k' 0 e' a2 → Calls Try.prog 28 #[.pointer (some ⟨w.heap.size, 0, none⟩)] w' fun e2 w2 => e2 = .returned (.int .i64 (k' : Int)) ∧ w' = w2) := Lib.hid (fun w' h => by
            have := at_on w' w.heap.size t k' 0 e' a2 h hk' (by unfold maxLen; omega) z0 (by omega)
            rwa [plc_small (by omega), Int.zero_add] at this)
          have e1 : IntKind.i64.wrap (k' : Int) = (k' : Int) := IntWalk.i64_in _ (by omega)
          go_region_held3 (fun w' => w'.cell? ⟨M, 0, none⟩ = some (.string t) ∧ w'.cell? ⟨M, 1, none⟩ = some (.int .i64 k') ∧ w'.cell? ⟨M, 2, none⟩ = some (.int .i64 0) ∧ w'.cell? ⟨M, 3, none⟩ = some (.int .i64 e') ∧ w'.cell? ⟨M, 4, none⟩ = some (.int .i64 a2)) (go_keep) (first
            | (go_at_call 19; refine (HL.out _ R6.out).mono ?_; rintro e3 w3 ⟨rfl, hb3⟩; have R7 := Lib.hid (R6.out.below hb3 R6.out.lt); have N7 := Lib.hid (N6.out.below hb3 N6.out.lt); have B7 := B6.trans (hb3.mono B6.size); obtain ⟨_, m0, m1, m2, m3, m4, mf⟩ := N7.out)
            | (go_at_call 27; refine (HL'.out _).mono ?_; rintro e4 w4 ⟨rfl, hb4⟩; have R8 := Lib.hid (R7.out.below hb4 R7.out.lt); have N8 := Lib.hid (N7.out.below hb4 N7.out.lt); have B8 := B7.trans (hb4.mono B7.size); obtain ⟨_, m0, m1, m2, m3, m4, mf⟩ := N8.out)
            | (go_at_call 28; refine (HA.out _ R8.out).mono ?_; rintro e5 w5 ⟨rfl, rfl⟩)
            | (go_at_call 20; refine (fault_some _ _ _ _ R8.out.lt R8.out.c3 R8.out.c4).mono ?_; rintro e6 w6 ⟨rfl, hb6⟩; have R9 := Lib.hid (R8.out.below hb6 R8.out.lt); have N9 := Lib.hid (N8.out.below hb6 N8.out.lt); have B9 := B8.trans (hb6.mono B8.size); obtain ⟨_, m0, m1, m2, m3, m4, mf⟩ := N9.out))
          all_goals clear e1
          all_goals go_wp2
          all_goals go_roundw
          case rel => exact ⟨j + 1, k', e', a2, by omega, by go_num, hk', R9.out, N9.out, B9⟩
          case measure => simp [intOf]; omega
      · go_wp2_with (go_at_call 16; refine (awake_any _).mono ?_; rintro e1 w2 ⟨rfl, hb2⟩)
        go_ret
        exact ⟨rfl, HB.out.trans (hb2.mono HB.out.size)⟩
  · have emx : max base 0 = base := by omega
    have HI0 : ∀ w, Calls Try.prog 25 #[.string t, .int .i64 base] w fun e' w' => e' = .returned (.pointer (some ⟨w.heap.size, 0, none⟩)) ∧ Rd w' w.heap.size t 0 base 0 0 ∧ Below w.heap.size w w' := fun w => (inner_any t base w).mono fun e' w' ⟨x, y, z⟩ => ⟨x, by rw [emx] at y; exact y, z⟩
    have HI := Lib.hid HI0
    clear HI0 emx
    have z0 : (0 : Int) ≤ base := by omega
    have z1 : (base : Int) ≤ 1099511627776 := by omega
    go_enter Try.func5, Try.ntmps5
    go_wp2_with (go_at_call 25; refine (HI.out _).mono ?_; rintro e1 w1 ⟨rfl, hR, hb1⟩; have R1 := Lib.hid hR; clear hR)
    have R2 := Lib.hid (R1.out.below ((Below.refl _ w1).alloc (Nat.le_refl _) (.cells #[.string t, .int .i64 0, .int .i64 base, .int .i64 0, .int .i64 0] 43)) R1.out.lt)
    have M2 := Lib.hid (mb_new w1 t 0 base 0 0)
    have B2 : Below w.heap.size w (w1.alloc (.cells #[.string t, .int .i64 0, .int .i64 base, .int .i64 0, .int .i64 0] 43)) := hb1.alloc hb1.size _
    have hRM : w.heap.size < w1.heap.size := R1.out.lt
    obtain ⟨M, hM⟩ : ∃ M, M = w1.heap.size := ⟨_, rfl⟩
    rw [← hM] at M2 hRM ⊢
    generalize hW : w1.alloc (.cells #[.string t, .int .i64 0, .int .i64 base, .int .i64 0, .int .i64 0] 43) = W at *
    clear hW hM hb1 R1
    go_loopw [35] (fun i wr => ∃ (j k : Nat) (e a' : Int), j ≤ len ∧ i = .int .i64 j ∧ k ≤ t.size ∧ Rd wr w.heap.size t k base e a' ∧ Mb wr M t k base e a' ∧ Below w.heap.size w wr) (fun i _ => len - (intOf i).toNat)
    case atStart => exact ⟨0, 0, 0, 0, Nat.zero_le _, rfl, Nat.zero_le _, R2.out, M2.out, B2⟩
    case round =>
      obtain ⟨j, k, e, a', hj, rfl, hk, hR, hM, hB⟩ := hrel
      have HR := Lib.hid hR; have HM := Lib.hid hM; have HB := Lib.hid hB
      clear hR hM hB
      by_cases hlt : j < len
      · obtain ⟨q, on, oc, os, ho⟩ := HO.out j hlt
        have HOp := Lib.hid (ho.below HB.out)
        clear ho
        obtain ⟨o0, o1, o2, o3, _, _⟩ := HOp.out
        by_cases hos : 200 < os.size
        · go_wp2_with (go_at_call 16; refine (awake_any _).mono ?_; rintro e1 w2 ⟨rfl, hb2⟩)
          go_ret
          exact ⟨rfl, (HB.out.alloc HB.out.size _).trans (hb2.mono (by have := HB.out.size; simp; omega))⟩
        · obtain ⟨k', e', a2, hk', hdo⟩ := ends_any w.heap.size t k base e a' on oc os hk (by omega) z0 z1 q (by omega) HOp.out.n0 HOp.out.n1
          have HD := Lib.hid hdo
          clear hdo
          obtain ⟨lv, hL, hL'⟩ := left_both w.heap.size t k' base e' a2 hk' (by omega)
          have HL := Lib.hid hL; have HL' := Lib.hid hL'
          clear hL hL'
          have RA := Lib.hid (HR.out.below ((Below.refl _ wr).alloc (Nat.le_refl _) (.cells #[.int .i64 q, .int .i64 on, .int .i64 oc, .string os] 45)) HR.out.lt)
          have MA := Lib.hid (HM.out.alloc (.cells #[.int .i64 q, .int .i64 on, .int .i64 oc, .string os] 45))
          have BA : Below w.heap.size w (wr.alloc (.cells #[.int .i64 q, .int .i64 on, .int .i64 oc, .string os] 45)) := HB.out.alloc HB.out.size _
          have hMR : M ≠ w.heap.size := by omega
          have hRM' : w.heap.size ≠ M := by omega
          obtain ⟨lM, m0, m1, m2, m3, m4, mf⟩ := HM.out
          go_wp2_with (go_at_call 26; refine (HD.out _ RA.out).mono ?_; rintro e1 w2 ⟨rfl, hR2, hU2⟩; have R3 := Lib.hid hR2; clear hR2; have M3 := Lib.hid (MA.out.upd hU2 hMR); obtain ⟨lM3, m0, m1, m2, m3, m4, mf⟩ := M3.out)
          have S1 : Upd M w2 (((((w2.setCell ⟨M, 0, none⟩ (.string t)).setCell ⟨M, 1, none⟩ (.int .i64 k')).setCell ⟨M, 2, none⟩ (.int .i64 base)).setCell ⟨M, 3, none⟩ (.int .i64 e')).setCell ⟨M, 4, none⟩ (.int .i64 a2)) := by repeat (first | (with_reducible exact Upd.refl _ _) | (with_reducible refine Upd.setCell ?_ _ _) | (with_reducible refine Upd.drew ?_))
          have B3 : Below w.heap.size w w2 := Upd.below BA hU2 (Nat.le_refl _) BA.size
          have B4 := Upd.below B3 S1 (by omega) B3.size
          have N4 : Mb (((((w2.setCell ⟨M, 0, none⟩ (.string t)).setCell ⟨M, 1, none⟩ (.int .i64 k')).setCell ⟨M, 2, none⟩ (.int .i64 base)).setCell ⟨M, 3, none⟩ (.int .i64 e')).setCell ⟨M, 4, none⟩ (.int .i64 a2)) M t k' base e' a2 := mb_set M3.out
          have R4 := R3.out.upd S1 hRM'
          have B5 := B4.alloc B4.size (.cells #[.string t, .int .i64 k', .int .i64 base, .int .i64 e', .int .i64 a2] 43)
          have N5 := Lib.hid (N4.alloc (.cells #[.string t, .int .i64 k', .int .i64 base, .int .i64 e', .int .i64 a2] 43))
          have R5 := Lib.hid (R4.below ((Below.refl _ _).alloc (Nat.le_refl _) (.cells #[.string t, .int .i64 k', .int .i64 base, .int .i64 e', .int .i64 a2] 43)) R4.lt)
          have HB5 := Lib.hid B5
          clear S1 B3 B4 N4 R4 B5 m0 m1 m2 m3 m4 mf o0 o1 o2 o3
          generalize ((((((w2.setCell ⟨M, 0, none⟩ (.string t)).setCell ⟨M, 1, none⟩ (.int .i64 k')).setCell ⟨M, 2, none⟩ (.int .i64 base)).setCell ⟨M, 3, none⟩ (.int .i64 e')).setCell ⟨M, 4, none⟩ (.int .i64 a2)).alloc (.cells #[.string t, .int .i64 k', .int .i64 base, .int .i64 e', .int .i64 a2] 43)) = W3 at *
          obtain ⟨lM3, m0, m1, m2, m3, m4, mf⟩ := N5.out
          have R6 := Lib.hid (R5.out.below ((Below.refl _ W3).drew) R5.out.lt)
          have N6 := Lib.hid (N5.out.below ((Below.refl _ W3).drew) N5.out.lt)
          have B6 : Below w.heap.size w W3.drew := HB5.out.drew
          have HA : Hid (∀ w', Rd w' w.heap.size t k' base e' a2 → Calls Try.prog 28 #[.pointer (some ⟨w.heap.size, 0, none⟩)] w' fun e2 w2 => e2 = .returned (.int .i64 (base + (k' : Int))) ∧ w' = w2) := Lib.hid (fun w' h => by
            have := at_on w' w.heap.size t k' base e' a2 h hk' (by unfold maxLen; omega) z0 (by omega)
            rwa [plc_small (by omega)] at this)
          have e1 : IntKind.i64.wrap (base + (k' : Int)) = (base + (k' : Int)) := IntWalk.i64_in _ (by omega)
          go_region_held3 (fun w' => w'.cell? ⟨M, 0, none⟩ = some (.string t) ∧ w'.cell? ⟨M, 1, none⟩ = some (.int .i64 k') ∧ w'.cell? ⟨M, 2, none⟩ = some (.int .i64 base) ∧ w'.cell? ⟨M, 3, none⟩ = some (.int .i64 e') ∧ w'.cell? ⟨M, 4, none⟩ = some (.int .i64 a2)) (go_keep) (first
            | (go_at_call 19; refine (HL.out _ R6.out).mono ?_; rintro e3 w3 ⟨rfl, hb3⟩; have R7 := Lib.hid (R6.out.below hb3 R6.out.lt); have N7 := Lib.hid (N6.out.below hb3 N6.out.lt); have B7 := B6.trans (hb3.mono B6.size); obtain ⟨_, m0, m1, m2, m3, m4, mf⟩ := N7.out)
            | (go_at_call 27; refine (HL'.out _).mono ?_; rintro e4 w4 ⟨rfl, hb4⟩; have R8 := Lib.hid (R7.out.below hb4 R7.out.lt); have N8 := Lib.hid (N7.out.below hb4 N7.out.lt); have B8 := B7.trans (hb4.mono B7.size); obtain ⟨_, m0, m1, m2, m3, m4, mf⟩ := N8.out)
            | (go_at_call 28; refine (HA.out _ R8.out).mono ?_; rintro e5 w5 ⟨rfl, rfl⟩)
            | (go_at_call 20; refine (fault_some _ _ _ _ R8.out.lt R8.out.c3 R8.out.c4).mono ?_; rintro e6 w6 ⟨rfl, hb6⟩; have R9 := Lib.hid (R8.out.below hb6 R8.out.lt); have N9 := Lib.hid (N8.out.below hb6 N8.out.lt); have B9 := B8.trans (hb6.mono B8.size); obtain ⟨_, m0, m1, m2, m3, m4, mf⟩ := N9.out))
          all_goals clear e1
          all_goals go_wp2
          all_goals go_roundw
          case rel => exact ⟨j + 1, k', e', a2, by omega, by go_num, hk', R9.out, N9.out, B9⟩
          case measure => simp [intOf]; omega
      · go_wp2_with (go_at_call 16; refine (awake_any _).mono ?_; rintro e1 w2 ⟨rfl, hb2⟩)
        go_ret
        exact ⟨rfl, HB.out.trans (hb2.mono HB.out.size)⟩
end Go.Proofs.Ytkhcmgnempjjcaa
