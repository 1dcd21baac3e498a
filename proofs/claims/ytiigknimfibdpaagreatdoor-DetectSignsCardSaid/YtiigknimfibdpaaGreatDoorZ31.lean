/- Several texts in one. -/
import Derived.Test.YtiigknimfibdpaaGreatDoorZ28
import Derived.Test.YtiigknimfibdpaaGreatDoorZ29
import Derived.Test.YtiigknimfibdpaaGreatDoorZ23
import Derived.Test.YtiigknimfibdpaaGreatDoorZ27
namespace Go.Proofs.YtiigknimfibdpaaGreatDoor.ch
open Go.RowKit Go.Lib
set_option linter.unusedVariables false
theorem txt_cons (l m : List Int) : pt.txt l ++ pt.txt m = pt.txt (l ++ m) := by
  apply ByteArray.ext
  apply Array.ext'
  show (pt.txt l ++ pt.txt m).data.toList = (pt.txt (l ++ m)).data.toList
  rw [pt.data_app, pt.txt_data, pt.txt_data, pt.txt_data]
  simp [pt.nums]
theorem str_app (P s : ByteArray) : strCells P ++ strCells s = strCells (P ++ s) := by
  unfold strCells
  rw [pt.data_app, List.map_append]
theorem str_nums (P : ByteArray) : strCells P = (P.data.toList.map fun (b : UInt8) => (b.toNat : Int)).map (Value.int .u8) := by simp [strCells]
theorem str_whole (P : ByteArray) : strOfNums (P.data.toList.map fun (b : UInt8) => (b.toNat : Int)) = P := pt.str_back P
theorem sg2_txt (c : Int) (l b : Nat) : (s2T c l b).size ≤ 8 := by
  have h1 := txt_most ((sg2 c l b).map Int.ofNat)
  have h2 := sg2_len c l b
  rw [List.length_map] at h1
  unfold s2T
  omega
theorem app_nil (P : ByteArray) : P ++ pt.txt [] = P := by
  apply ByteArray.ext
  apply Array.ext'
  show (P ++ pt.txt []).data.toList = P.data.toList
  rw [pt.data_app]
  simp [pt.txt, pt.nums, strOfNums]
theorem app_assoc (P a b : ByteArray) : P ++ (a ++ b) = (P ++ a) ++ b := by
  apply ByteArray.ext
  apply Array.ext'
  show (P ++ (a ++ b)).data.toList = ((P ++ a) ++ b).data.toList
  rw [pt.data_app, pt.data_app, pt.data_app, pt.data_app, List.append_assoc]
set_option maxRecDepth 100000 in
set_option maxHeartbeats 4000000 in
theorem dpairs_any (c : Int) (t : ByteArray) (w : World) (hK : K9 w) (hc : c = 4 ∨ c = 5 ∨ c = 6) (ht : t.size ≤ 4000) :
    Calls Tryz.prog 38 #[.int .i64 c, .string t] w fun e w' => e = .returned (.tuple #[.string (dcT c t), .agg #[.int .i64 (dcE c t), .int .i64 (dcA c t)]]) ∧ Below w.heap.size w w' := by
  have hz : dz c t = tb c t t.size 0 := by unfold dz; rw [if_neg (by omega), if_neg (by omega), if_neg (by omega)]
  have hin : inC c := ⟨by omega, by omega⟩
  obtain ⟨T, hT⟩ : ∃ T, T = pt.txt (tb c t t.size 0).1 := ⟨_, rfl⟩
  obtain ⟨D, hD⟩ : ∃ D, D = (tb c t t.size 0).2 := ⟨_, rfl⟩
  have HOK : Hid (D = none → dcT c t = T ∧ dcE c t = 0 ∧ dcA c t = 0) := Lib.hid (fun hd => by
    have := dok (s := t) hin (by rw [hz, ← hD]; exact hd)
    rw [hz, ← hT] at this
    exact this)
  have HBAD : Hid (∀ p : Nat, D = some p → dcT c t = ⟨#[]⟩ ∧ dcE c t = 2 ∧ dcA c t = (p : Int)) := Lib.hid (fun p hd => dbad (s := t) (p := p) hin (by rw [hz, ← hD]; exact hd))
  generalize dcT c t = RT at *
  generalize dcE c t = RE at *
  generalize dcA c t = RA at *
  obtain ⟨i0, hi0, hzz⟩ := Option.map_eq_some_iff.1 wd.u8_info
  simp only [Prod.mk.injEq] at hzz
  obtain ⟨hz0, hsi, hby⟩ := hzz
  have hrd := oct.read_any t (w.alloc (.cells #[.int .i64 0, .int .i64 0] 54))
  rw [World.size_alloc] at hrd
  have htm : t.size ≤ maxLen := by unfold maxLen; omega
  have hmk := fun w2 => wd.mk_bytes t.size (t.size : Int) rfl (by omega) w2
  have HRD := Lib.hid hrd; have HT := Lib.hid hT; have HD := Lib.hid hD
  have HK := Lib.hid hK
  clear hrd hT hD hz hin hK
  go_enter Tryz.func38, Tryz.ntmps38
  go_wp2_with (go_at_call 65; refine HRD.out.mono ?_; rintro e1 w1 ⟨rfl, hR, hb1⟩; have F1 := Lib.hid ((pt.f2_new w 0 0 54).below hb1 (by omega)); have R1 := Lib.hid hR; have B1 := Lib.hid (((Below.refl w.heap.size w).alloc (Nat.le_refl _) _).trans (hb1.mono (by omega))); have q1 := hR.lt; clear hR hb1)
  have hA : Below w1.heap.size w1 (w1.alloc (.cells (madeCells #[.int .u8 0] t.size) 5)) := (Below.refl _ _).alloc (Nat.le_refl _) _
  have F2 := Lib.hid (F1.out.below hA F1.out.lt)
  have R2 := Lib.hid (R1.out.below hA R1.out.lt)
  have B2 := Lib.hid (B1.out.trans (hA.mono (by omega)))
  clear hA F1 R1 B1 hmk HRD
  go_loopw [7] (fun v wr => ∃ (pos f : Nat) (P : ByteArray), pos ≤ t.size ∧ t.size ≤ pos + f ∧ P.size ≤ 4 * pos ∧ P ++ pt.txt (tb c t f pos).1 = T ∧ (tb c t f pos).2 = D ∧ wr.ownsRow (w.heap.size + 1 + 1) 5 1 v P.size (strCells P) ∧ oct.Rd wr (w.heap.size + 1) t pos 0 0 0 ∧ pt.F2 wr w.heap.size 0 0 ∧ w.heap.size + 1 + 1 ≤ wr.heap.size ∧ Below w.heap.size w wr) (fun _ wr => t.size - wd.posOf wr (w.heap.size + 1))
  case atStart => exact ⟨0, t.size, ⟨#[]⟩, Nat.zero_le _, by omega, Nat.le_refl _, by rw [HT.out]; exact ByteArray.empty_append, HD.out.symm, World.ownsRow_made w1 _ t.size (by omega) htm (by simp [madeCells]), R2.out, F2.out, by simp; omega, B2.out⟩
  case round =>
    obtain ⟨pos, f, P, hps, hf, hpl, hpre, hsc, hown, hR, hF, hz1, hU⟩ := hrel
    have HPR := Lib.hid hpre; have HSC := Lib.hid hsc; have HOW := Lib.hid hown; have HR := Lib.hid hR; have HF := Lib.hid hF; have HB := Lib.hid hU
    clear hpre hsc hown hR hF hU R2 F2 B2
    obtain ⟨l, hl⟩ : ∃ l, pos + l = t.size := ⟨t.size - pos, by omega⟩
    have HLq := Lib.hid hl
    have hll : l ≤ 4000 := by omega
    clear hl
    by_cases hp : 0 < l
    · have hpt : pos < t.size := by have := HLq.out; omega
      have HAT : Hid (∀ w2, oct.Rd w2 (w.heap.size + 1) t pos 0 0 0 → Calls Tryz.prog 67 #[.pointer (some ⟨w.heap.size + 1, 0, none⟩)] w2 fun e w' => e = .returned (.int .i64 (pos : Int)) ∧ w2 = w') := Lib.hid (fun w2 h2 => by
        have := oct.at_on w2 (w.heap.size + 1) t pos 0 0 0 h2 (by omega) htm (by omega) (by omega)
        rwa [oct.plc_small (by omega), Int.zero_add] at this)
      obtain ⟨f1, rfl⟩ : ∃ f1, f = f1 + 1 := ⟨f - 1, by omega⟩
      have good : ∀ (n : Nat) (s : ByteArray) (R : List Int), 0 < n → pos + n ≤ t.size → s.size ≤ 4 * n → tb c t (f1 + 1) pos = (R ++ (tb c t f1 (pos + n)).1, (tb c t f1 (pos + n)).2) → s = pt.txt R → P ++ s ++ pt.txt (tb c t f1 (pos + n)).1 = T ∧ (tb c t f1 (pos + n)).2 = D := fun n s R _ _ _ h1 h2 => by
        have hpr1 := HPR.out
        have hsc1 := HSC.out
        rw [h1] at hpr1 hsc1
        refine ⟨?_, hsc1⟩
        rw [h2, ← app_assoc, txt_cons]
        exact hpr1
      by_cases hsig : bt t pos < 128 ∨ (pos + 1 < t.size ∧ sg2 c (bt t pos) (bt t (pos + 1)) ≠ [])
      · obtain ⟨n, s, hn0, hn1, hs4, hs16, hg1, hg2, hnx⟩ : ∃ (n : Nat) (s : ByteArray), 0 < n ∧ pos + n ≤ t.size ∧ s.size ≤ 4 * n ∧ s.size ≤ 8 ∧ P ++ s ++ pt.txt (tb c t f1 (pos + n)).1 = T ∧ (tb c t f1 (pos + n)).2 = D ∧ ∀ w2, Below w.heap.size w w2 → oct.Rd w2 (w.heap.size + 1) t pos 0 0 0 → Calls Tryz.prog 68 #[.pointer (some ⟨w.heap.size + 1, 0, none⟩), .int .i64 c] w2 fun e w' => e = .returned (.tuple #[.string s, .bool true]) ∧ oct.Rd w' (w.heap.size + 1) t ((pos + n : Nat) : Int) 0 0 0 ∧ oct.Upd (w.heap.size + 1) w2 w' := by
          by_cases hl : bt t pos < 128
          · have h1 := tb_low c t f1 pos hpt hl
            have hsz : (pt.txt [((bt t pos : Nat) : Int)]).size ≤ 4 := by have := txt_most [((bt t pos : Nat) : Int)]; simpa using this
            obtain ⟨g1, g2⟩ := good 1 (pt.txt [((bt t pos : Nat) : Int)]) [((bt t pos : Nat) : Int)] (by omega) (by omega) (by omega) (by rw [h1]; rfl) rfl
            exact ⟨1, _, by omega, by omega, by omega, by omega, g1, g2, fun w2 _ h2 => next_low c t pos (w.heap.size + 1) 0 0 w2 h2 hpt (by omega) hl⟩
          · have h3 := hsig.resolve_left hl
            have h1 := tb_two c t f1 pos hpt hl h3
            have hsz := sg2_txt c (bt t pos) (bt t (pos + 1))
            obtain ⟨g1, g2⟩ := good 2 (s2T c (bt t pos) (bt t (pos + 1))) ((sg2 c (bt t pos) (bt t (pos + 1))).map Int.ofNat) (by omega) (by omega) (by omega) h1 rfl
            refine ⟨2, _, by omega, by omega, by omega, by omega, g1, g2, fun w2 hb2 h2 => ?_⟩
            have := next_two c t pos (w.heap.size + 1) 0 0 w w2 HK.out hb2 (by omega) hc h2 h3.1 (by omega) hl
            have e : (!(sg2 c (bt t pos) (bt t (pos + 1))).isEmpty) = true := by
              cases h : sg2 c (bt t pos) (bt t (pos + 1)) with
              | nil => exact absurd h h3.2
              | cons a l => rfl
            unfold s2V at this
            rwa [e] at this
        have HNX := Lib.hid hnx; have HG1 := Lib.hid hg1; have HG2 := Lib.hid hg2
        clear hnx hg1 hg2 good hsig
        go_wp2_with (first
          | (go_at_call 66; refine (oct.left_l _ _ _ pos l _ _ HR.out HLq.out htm).mono ?_; rintro e1 w2 ⟨rfl, hb2⟩; have R3 := Lib.hid (HR.out.below hb2 HR.out.lt); have F3 := Lib.hid (HF.out.below hb2 HF.out.lt); have B3 := Lib.hid (HB.out.trans (hb2.mono HB.out.size)); have O3 := Lib.hid (pt.owns_below HOW.out hb2); have q3 := Nat.le_trans hz1 hb2.size)
          | (go_at_call 67; refine (HAT.out _ R3.out).mono ?_; rintro e2 w3 ⟨rfl, rfl⟩)
          | (go_at_call 68; refine (HNX.out _ B3.out R3.out).mono ?_; rintro e3 w4 ⟨rfl, hr4, hu4⟩; have F4 := Lib.hid (wd.f2_upd F3.out hu4 (by omega)); have B4 := Lib.hid (oct.Upd.below B3.out hu4 (by omega) B3.out.size); have R4 := Lib.hid hr4; have O4 := Lib.hid (wd.owns_upd O3.out hu4 (by omega)); have q4 := Nat.le_trans q3 hu4.size; clear hr4 hu4 hb2)
          | (at_builtin; (refine wpList_append_own_string _ rfl _ _ 98 9 rfl (w.heap.size + 1 + 1) 5 i0 Tryz.underlying98 Tryz.underlying9 hi0 hz0 hsi hby _ _ _ rfl O4.out _ rfl ?c1 ?c2 ?c3 ?_)))
        case c1 => unfold maxLen; omega
        case c2 => omega
        case c3 => exact q4
        intro v' w5 hown5 hgrow _
        rw [str_app, ← ByteArray.size_append] at hown5
        have HO5 := Lib.hid hown5
        have hB5 := wd.below_grown0 (Below.refl (w.heap.size + 1 + 1) w4) q4 O4.out hgrow
        have R5 := Lib.hid (R4.out.below hB5 (by omega)); have F5 := Lib.hid (F4.out.below hB5 (by omega)); have B5 := Lib.hid (B4.out.trans (hB5.mono (by omega)))
        have q5 := Nat.le_trans q4 hB5.size
        clear hown5 hgrow hB5
        go_wp2
        go_roundw
        case rel => exact ⟨pos + n, f1, P ++ s, by omega, by omega, by rw [ByteArray.size_append]; omega, HG1.out, HG2.out, HO5.out, R5.out, F5.out, q5, B5.out⟩
        case measure => rw [wd.posOf_rd R5.out, wd.posOf_rd HR.out]; omega
      · have hl : ¬ bt t pos < 128 := fun h => hsig (.inl h)
        have h3 : ¬ (pos + 1 < t.size ∧ sg2 c (bt t pos) (bt t (pos + 1)) ≠ []) := fun h => hsig (.inr h)
        have hsc1 := HSC.out
        rw [tb_bad c t f1 pos hpt hl h3] at hsc1
        obtain ⟨e1, e2, e3⟩ := HBAD.out pos hsc1.symm
        have HNX : Hid (∀ w2, Below w.heap.size w w2 → oct.Rd w2 (w.heap.size + 1) t pos 0 0 0 → Calls Tryz.prog 68 #[.pointer (some ⟨w.heap.size + 1, 0, none⟩), .int .i64 c] w2 fun e w' => e = .returned (.tuple #[.string ⟨#[]⟩, .bool false]) ∧ oct.Upd (w.heap.size + 1) w2 w') := Lib.hid (fun w2 hb2 h2 => by
          by_cases h4 : pos + 1 < t.size
          · have h5 : sg2 c (bt t pos) (bt t (pos + 1)) = [] := by
              by_cases h6 : sg2 c (bt t pos) (bt t (pos + 1)) = []
              · exact h6
              · exact absurd ⟨h4, h6⟩ h3
            have := next_two c t pos (w.heap.size + 1) 0 0 w w2 HK.out hb2 (by omega) hc h2 h4 (by omega) hl
            rw [s2V_none h5] at this
            exact this.mono fun e w' h => ⟨h.1, h.2.2⟩
          · exact next_one c t pos (w.heap.size + 1) 0 0 w2 h2 (by omega) (by omega) (by omega) (by omega) hl)
        have HE := Lib.hid (And.intro e1 (And.intro e2 e3))
        clear hsc1 good hsig hl h3 e1 e2 e3 hpt
        go_wp2_with (first
          | (go_at_call 66; refine (oct.left_l _ _ _ pos l _ _ HR.out HLq.out htm).mono ?_; rintro e1 w2 ⟨rfl, hb2⟩; have R3 := Lib.hid (HR.out.below hb2 HR.out.lt); have F3 := Lib.hid (HF.out.below hb2 HF.out.lt); have B3 := Lib.hid (HB.out.trans (hb2.mono HB.out.size)); have q3 := Nat.le_trans hz1 hb2.size)
          | (go_at_call 67; refine (HAT.out _ R3.out).mono ?_; rintro e2 w3 ⟨rfl, rfl⟩)
          | (go_at_call 68; refine (HNX.out _ B3.out R3.out).mono ?_; rintro e3 w4 ⟨rfl, hu4⟩; obtain ⟨_, c0, c1, f0, f1⟩ := wd.f2_upd F3.out hu4 (by omega); have B4 := Lib.hid (oct.Upd.below B3.out hu4 (by omega) B3.out.size); clear hu4 hb2))
        obtain ⟨rfl, rfl, rfl⟩ := HE.out
        have HB4 := B4.out
        exact bodyPost_ret (v := .tuple #[.string ⟨#[]⟩, .agg #[.int .i64 2, .int .i64 (pos : Int)]]) (by simp [results, Tryz.results38, go_sem, c0, c1]) rfl ⟨rfl, by repeat (first | (with_reducible exact HB4) | (with_reducible exact Below.refl _ _) | (with_reducible refine Below.setCell ?_ (by simp) _) | (with_reducible refine Below.alloc ?_ (by simp; omega) _))⟩
    · have hpt : ¬ pos < t.size := by have := HLq.out; omega
      obtain rfl : l = 0 := by omega
      have hsc1 := HSC.out
      have hpr1 := HPR.out
      rw [tb_end c t f pos hpt] at hsc1 hpr1
      rw [app_nil] at hpr1
      obtain ⟨e1, e2, e3⟩ := HOK.out hsc1.symm
      have HE := Lib.hid (And.intro (e1.trans hpr1.symm) (And.intro e2 e3))
      clear hsc1 hpr1 e1 e2 e3
      have HCV : Hid (∀ w2, Below wr.heap.size wr w2 → (convert 98 9 u7).run Tryz.prog w2 = .ok (.string P) w2) := Lib.hid (fun w2 h2 => by
        have h := pt.owns_below HOW.out h2
        rw [str_nums] at h
        have := pt.conv_row w2 (w.heap.size + 1 + 1) u7 (P.data.toList.map fun (b : UInt8) => (b.toNat : Int)) (by rw [List.length_map, size_list]; exact h)
        rwa [str_whole] at this)
      go_wp2_with (go_at_call 66; refine (oct.left_l _ _ _ pos 0 _ _ HR.out HLq.out htm).mono ?_; rintro e1 w2 ⟨rfl, hb2⟩; obtain ⟨_, c0, c1, f0, f1⟩ := HF.out.below hb2 HF.out.lt; have B3 := Lib.hid (HB.out.trans (hb2.mono HB.out.size)); have hcv := HCV.out w2 hb2)
      obtain ⟨rfl, rfl, rfl⟩ := HE.out
      have HB3 := B3.out
      exact bodyPost_ret (v := .tuple #[.string RT, .agg #[.int .i64 0, .int .i64 0]]) (by simp [results, Tryz.results38, go_sem, c0, c1]) rfl ⟨rfl, by repeat (first | (with_reducible exact HB3) | (with_reducible exact Below.refl _ _) | (with_reducible refine Below.setCell ?_ (by simp) _) | (with_reducible refine Below.alloc ?_ (by simp; omega) _))⟩
end Go.Proofs.YtiigknimfibdpaaGreatDoor.ch
namespace Go.Proofs.YtiigknimfibdpaaGreatDoor.df
open Go.RowKit Go.Lib
set_option linter.unusedVariables false
open Go.Proofs.YtiigknimfibdpaaGreatDoor.ch
open Go.Proofs.YtiigknimfibdpaaGreatDoor.de
set_option maxRecDepth 100000 in
theorem isSmall_any (p : Int) (w : World) : Calls Tryz.prog 46 #[.int .i32 p] w fun e w' => e = .returned (.bool (smallZ p)) ∧ w = w' := by
  obtain ⟨PP, hPP⟩ : ∃ PP : Ending → World → Prop, PP = fun e w' => e = .returned (.bool (smallZ p)) ∧ w = w' := ⟨_, rfl⟩
  rw [← hPP]
  have HP : Hid (∀ v, smallZ p = v → PP (.returned (.bool v)) w) := Lib.hid (fun v h => by rw [hPP, h]; exact ⟨rfl, rfl⟩)
  clear hPP
  have hh : (p < 1072 ∧ ¬ p = 1169) ∨ (1072 ≤ p ∧ p ≤ 1119 ∧ ¬ p = 1169) ∨ (1072 ≤ p ∧ 1119 < p ∧ ¬ p = 1169) ∨ p = 1169 := by omega
  rcases hh with ⟨h1, h2⟩ | ⟨h1, h2, h3⟩ | ⟨h1, h2, h3⟩ | rfl
  · have HV : Hid (smallZ p = false) := Lib.hid (by unfold smallZ; rw [decide_eq_false (by omega), decide_eq_false h2]; rfl)
    obtain ⟨g1, g2⟩ := nb h2
    go_enter Tryz.func46, Tryz.ntmps46
    go_wp2_with fail
    exact HP.out _ HV.out
  · have HV : Hid (smallZ p = true) := Lib.hid (by unfold smallZ; rw [decide_eq_true ⟨h1, h2⟩]; rfl)
    obtain ⟨g1, g2⟩ := nb h3
    go_enter Tryz.func46, Tryz.ntmps46
    go_wp2_with fail
    exact HP.out _ HV.out
  · have HV : Hid (smallZ p = false) := Lib.hid (by unfold smallZ; rw [decide_eq_false (by omega), decide_eq_false h3]; rfl)
    obtain ⟨g1, g2⟩ := nb h3
    have g3 : decide (p ≤ 1119) = false := decide_eq_false (by omega)
    go_enter Tryz.func46, Tryz.ntmps46
    go_wp2_with fail
    exact HP.out _ HV.out
  · go_enter Tryz.func46, Tryz.ntmps46
    go_wp2_with fail
    exact HP.out _ rfl
set_option maxRecDepth 100000 in
theorem isCap_any (p : Int) (w : World) : Calls Tryz.prog 45 #[.int .i32 p] w fun e w' => e = .returned (.bool (capZ p)) ∧ w = w' := by
  obtain ⟨PP, hPP⟩ : ∃ PP : Ending → World → Prop, PP = fun e w' => e = .returned (.bool (capZ p)) ∧ w = w' := ⟨_, rfl⟩
  rw [← hPP]
  have HP : Hid (∀ v, capZ p = v → PP (.returned (.bool v)) w) := Lib.hid (fun v h => by rw [hPP, h]; exact ⟨rfl, rfl⟩)
  clear hPP
  have hh : (p < 1024 ∧ ¬ p = 1168) ∨ (1024 ≤ p ∧ p ≤ 1071 ∧ ¬ p = 1168) ∨ (1024 ≤ p ∧ 1071 < p ∧ ¬ p = 1168) ∨ p = 1168 := by omega
  rcases hh with ⟨h1, h2⟩ | ⟨h1, h2, h3⟩ | ⟨h1, h2, h3⟩ | rfl
  · have HV : Hid (capZ p = false) := Lib.hid (by unfold capZ; rw [decide_eq_false (by omega), decide_eq_false h2]; rfl)
    obtain ⟨g1, g2⟩ := nb h2
    go_enter Tryz.func45, Tryz.ntmps45
    go_wp2_with fail
    exact HP.out _ HV.out
  · have HV : Hid (capZ p = true) := Lib.hid (by unfold capZ; rw [decide_eq_true ⟨h1, h2⟩]; rfl)
    obtain ⟨g1, g2⟩ := nb h3
    go_enter Tryz.func45, Tryz.ntmps45
    go_wp2_with fail
    exact HP.out _ HV.out
  · have HV : Hid (capZ p = false) := Lib.hid (by unfold capZ; rw [decide_eq_false (by omega), decide_eq_false h3]; rfl)
    obtain ⟨g1, g2⟩ := nb h3
    have g3 : decide (p ≤ 1071) = false := decide_eq_false (by omega)
    go_enter Tryz.func45, Tryz.ntmps45
    go_wp2_with fail
    exact HP.out _ HV.out
  · go_enter Tryz.func45, Tryz.ntmps45
    go_wp2_with fail
    exact HP.out _ rfl
set_option maxRecDepth 100000 in
set_option maxHeartbeats 2000000 in
theorem plain_any (c p : Int) (w : World) (h : p < 128) : Calls Tryz.prog 74 #[.int .i32 p] w (WtP c p w) := by
  obtain ⟨PP, hPP⟩ : ∃ PP, PP = WtP c p w := ⟨_, rfl⟩
  rw [← hPP]
  have HP : Hid (∀ v, wtZ c p = v → PP (.returned (.int .i64 v)) w) := Lib.hid (fun v h => by rw [hPP]; exact wtP h)
  clear hPP
  have hh : p = 127 ∨ p = 9 ∨ p = 10 ∨ p = 13 ∨ (¬ p = 127 ∧ p < 32 ∧ ¬ p = 9 ∧ ¬ p = 10 ∧ ¬ p = 13) ∨ (¬ p = 127 ∧ ¬ p < 32 ∧ ¬ p = 9 ∧ ¬ p = 10 ∧ ¬ p = 13) := by omega
  rcases hh with rfl | rfl | rfl | rfl | ⟨h1, h2, h3, h4, h5⟩ | ⟨h1, h2, h3, h4, h5⟩
  · go_enter Tryz.func74, Tryz.ntmps74
    go_wp2_with fail
    exact HP.out _ (by unfold wtZ; simp)
  · go_enter Tryz.func74, Tryz.ntmps74
    go_wp2_with fail
    exact HP.out _ (by unfold wtZ; simp)
  · go_enter Tryz.func74, Tryz.ntmps74
    go_wp2_with fail
    exact HP.out _ (by unfold wtZ; simp)
  · go_enter Tryz.func74, Tryz.ntmps74
    go_wp2_with fail
    exact HP.out _ (by unfold wtZ; simp)
  · have HV : Hid (wtZ c p = -6) := Lib.hid (by unfold wtZ; rw [if_pos h, if_pos (.inr ⟨h2, h3, h4, h5⟩)])
    obtain ⟨g1, _⟩ := nb h1
    obtain ⟨g3, _⟩ := nb h3
    obtain ⟨g5, _⟩ := nb h4
    obtain ⟨g7, _⟩ := nb h5
    go_enter Tryz.func74, Tryz.ntmps74
    go_wp2_with fail
    exact HP.out _ HV.out
  · have HV : Hid (wtZ c p = 0) := Lib.hid (by unfold wtZ; rw [if_pos h, if_neg (by omega)])
    obtain ⟨g1, _⟩ := nb h1
    obtain ⟨g3, _⟩ := nb h3
    obtain ⟨g5, _⟩ := nb h4
    obtain ⟨g7, _⟩ := nb h5
    go_enter Tryz.func74, Tryz.ntmps74
    go_wp2_with fail
    exact HP.out _ HV.out
set_option maxRecDepth 100000 in
set_option maxHeartbeats 2000000 in
theorem latin_any (p : Int) (w : World) (h : 128 ≤ p) : Calls Tryz.prog 75 #[.int .i32 p] w (WtP 0 p w) := by
  obtain ⟨PP, hPP⟩ : ∃ PP, PP = WtP 0 p w := ⟨_, rfl⟩
  rw [← hPP]
  have HP : Hid (∀ v, wtZ 0 p = v → PP (.returned (.int .i64 v)) w) := Lib.hid (fun v h => by rw [hPP]; exact wtP h)
  clear hPP
  have e0 : wtZ 0 p = if p < 160 then -8 else if p < 192 ∨ p = 215 ∨ p = 247 then -1 else 1 := by unfold wtZ; rw [if_neg (by omega), if_pos rfl]
  have hh : p < 160 ∨ (¬ p < 160 ∧ p ≤ 191) ∨ (¬ p < 160 ∧ ¬ p ≤ 191 ∧ p = 215) ∨ (¬ p < 160 ∧ ¬ p ≤ 191 ∧ ¬ p = 215 ∧ p = 247) ∨ (¬ p < 160 ∧ ¬ p ≤ 191 ∧ ¬ p = 215 ∧ ¬ p = 247) := by omega
  rcases hh with h1 | ⟨h1, h2⟩ | ⟨h1, h2, rfl⟩ | ⟨h1, h2, h3, rfl⟩ | ⟨h1, h2, h3, h4⟩
  · have HV : Hid (wtZ 0 p = -8) := Lib.hid (by rw [e0, if_pos h1])
    clear e0
    go_enter Tryz.func75, Tryz.ntmps75
    go_wp2_with fail
    exact HP.out _ HV.out
  · have HV : Hid (wtZ 0 p = -1) := Lib.hid (by rw [e0, if_neg h1, if_pos (.inl (by omega))])
    clear e0
    go_enter Tryz.func75, Tryz.ntmps75
    go_wp2_with fail
    exact HP.out _ HV.out
  · have HV : Hid (wtZ 0 215 = -1) := Lib.hid (by rw [e0]; decide)
    clear e0
    go_enter Tryz.func75, Tryz.ntmps75
    go_wp2_with fail
    exact HP.out _ HV.out
  · have HV : Hid (wtZ 0 247 = -1) := Lib.hid (by rw [e0]; decide)
    clear e0
    go_enter Tryz.func75, Tryz.ntmps75
    go_wp2_with fail
    exact HP.out _ HV.out
  · have HV : Hid (wtZ 0 p = 1) := Lib.hid (by rw [e0, if_neg (by omega), if_neg (by omega)])
    clear e0
    obtain ⟨g1, _⟩ := nb h3
    obtain ⟨g3, _⟩ := nb h4
    go_enter Tryz.func75, Tryz.ntmps75
    go_wp2_with fail
    exact HP.out _ HV.out
set_option maxRecDepth 100000 in
set_option maxHeartbeats 2000000 in
theorem cyr_any (c p : Int) (w : World) (h : 128 ≤ p) (c1 : 1 ≤ c) (c3 : c ≤ 3) : Calls Tryz.prog 76 #[.int .i32 p] w (WtP c p w) := by
  obtain ⟨PP, hPP⟩ : ∃ PP, PP = WtP c p w := ⟨_, rfl⟩
  rw [← hPP]
  have HP : Hid (∀ v, wtZ c p = v → PP (.returned (.int .i64 v)) w) := Lib.hid (fun v h => by rw [hPP]; exact wtP h)
  clear hPP
  have e0 : wtZ c p = if smallZ p = true then 4 else if capZ p = true then 2 else -4 := by unfold wtZ; rw [if_neg (by omega), if_neg (by omega), if_pos c3]
  have HS := Lib.hid (fun W => isSmall_any p W)
  have HC := Lib.hid (fun W => isCap_any p W)
  generalize smallZ p = S at *
  generalize capZ p = C at *
  cases S with
  | true =>
    have HV : Hid (wtZ c p = 4) := Lib.hid (by rw [e0, if_pos rfl])
    clear e0
    go_enter Tryz.func76, Tryz.ntmps76
    go_wp2_with (go_at_call 46; refine (HS.out _).mono ?_; rintro e1 w1 ⟨rfl, rfl⟩)
    exact HP.out _ HV.out
  | false =>
    cases C with
    | true =>
      have HV : Hid (wtZ c p = 2) := Lib.hid (by rw [e0, if_neg (by simp), if_pos rfl])
      clear e0
      go_enter Tryz.func76, Tryz.ntmps76
      go_wp2_with (first | (go_at_call 46; refine (HS.out _).mono ?_; rintro e1 w1 ⟨rfl, rfl⟩) | (go_at_call 45; refine (HC.out _).mono ?_; rintro e1 w1 ⟨rfl, rfl⟩))
      exact HP.out _ HV.out
    | false =>
      have HV : Hid (wtZ c p = -4) := Lib.hid (by rw [e0, if_neg (by simp), if_neg (by simp)])
      clear e0
      go_enter Tryz.func76, Tryz.ntmps76
      go_wp2_with (first | (go_at_call 46; refine (HS.out _).mono ?_; rintro e1 w1 ⟨rfl, rfl⟩) | (go_at_call 45; refine (HC.out _).mono ?_; rintro e1 w1 ⟨rfl, rfl⟩))
      exact HP.out _ HV.out
/-- What weight answers. -/
def WgP (c p : Int) (w : World) : Ending → World → Prop := fun e w' => e = .returned (.int .i64 (wtZ c p)) ∧ Below w.heap.size w w'
theorem wgP {c p : Int} {w w' : World} {v : Int} (h : wtZ c p = v) (hb : Below w.heap.size w w') : WgP c p w (.returned (.int .i64 v)) w' := ⟨by rw [h], hb⟩
set_option maxRecDepth 100000 in
set_option maxHeartbeats 2000000 in
theorem kor_any (c p : Int) (w : World) (h : 128 ≤ p) (hp : p ≤ 1114111) (c1 : 4 ≤ c) (c3 : c ≤ 5) (hT : pt.Tabs w) : Calls Tryz.prog 77 #[.int .i32 p] w (WgP c p w) := by
  obtain ⟨PP, hPP⟩ : ∃ PP, PP = WgP c p w := ⟨_, rfl⟩
  rw [← hPP]
  have HP : Hid (∀ v w', wtZ c p = v → Below w.heap.size w w' → PP (.returned (.int .i64 v)) w') := Lib.hid (fun v w' h hb => by rw [hPP]; exact wgP h hb)
  clear hPP
  have e0 : wtZ c p = if 44032 ≤ p ∧ p ≤ 55203 then (if wa.inB (p - 44032).toNat = true then 6 else 2) else if 12593 ≤ p ∧ p ≤ 12686 then -2 else 1 := by unfold wtZ; rw [if_neg (by omega), if_neg (by omega), if_neg (by omega), if_pos c3]
  have HR := Lib.hid (wa.rankL_any p w hT (by omega) (by omega))
  unfold wa.rkV at HR
  by_cases hy : 44032 ≤ p ∧ p ≤ 55203
  · rw [if_pos hy] at e0 HR
    generalize ((wa.rk (wa.inB (p - 44032).toNat) (p - 44032).toNat : Nat) : Int) = R at *
    cases hi : wa.inB (p - 44032).toNat with
    | true =>
      rw [hi] at HR
      have HV : Hid (wtZ c p = 6) := Lib.hid (by rw [e0, hi]; rfl)
      clear e0 hi hy hT
      go_enter Tryz.func77, Tryz.ntmps77
      go_wp2_with (go_at_call 121; refine HR.out.mono ?_; rintro e1 w1 ⟨rfl, hb1⟩; have B1 := Lib.hid hb1; clear hb1)
      exact HP.out _ _ HV.out B1.out
    | false =>
      rw [hi] at HR
      have HV : Hid (wtZ c p = 2) := Lib.hid (by rw [e0, hi]; rfl)
      clear e0 hi hy hT
      go_enter Tryz.func77, Tryz.ntmps77
      go_wp2_with (go_at_call 121; refine HR.out.mono ?_; rintro e1 w1 ⟨rfl, hb1⟩; have B1 := Lib.hid hb1; clear hb1)
      exact HP.out _ _ HV.out B1.out
  · rw [if_neg hy] at e0 HR
    have hh : (12593 ≤ p ∧ p ≤ 12686) ∨ (p < 12593) ∨ (12593 ≤ p ∧ 12686 < p) := by omega
    rcases hh with ⟨y1, y2⟩ | y1 | ⟨y1, y2⟩
    · have HV : Hid (wtZ c p = -2) := Lib.hid (by rw [e0, if_pos ⟨y1, y2⟩])
      clear e0 hy hT
      go_enter Tryz.func77, Tryz.ntmps77
      go_wp2_with (go_at_call 121; refine HR.out.mono ?_; rintro e1 w1 ⟨rfl, hb1⟩; have B1 := Lib.hid hb1; clear hb1)
      exact HP.out _ _ HV.out B1.out
    all_goals
      have HV : Hid (wtZ c p = 1) := Lib.hid (by rw [e0, if_neg (by omega)])
      clear e0 hy hT
      go_enter Tryz.func77, Tryz.ntmps77
      go_wp2_with (go_at_call 121; refine HR.out.mono ?_; rintro e1 w1 ⟨rfl, hb1⟩; have B1 := Lib.hid hb1; clear hb1)
      exact HP.out _ _ HV.out B1.out
set_option maxRecDepth 100000 in
set_option maxHeartbeats 2000000 in
theorem chi_any (p : Int) (w : World) (h : 128 ≤ p) : Calls Tryz.prog 78 #[.int .i32 p] w (WtP 6 p w) := by
  obtain ⟨PP, hPP⟩ : ∃ PP, PP = WtP 6 p w := ⟨_, rfl⟩
  rw [← hPP]
  have HP : Hid (∀ v, wtZ 6 p = v → PP (.returned (.int .i64 v)) w) := Lib.hid (fun v h => by rw [hPP]; exact wtP h)
  clear hPP
  have e0 : wtZ 6 p = if 19968 ≤ p ∧ p ≤ 40959 then 5 else 1 := by unfold wtZ; rw [if_neg (by omega), if_neg (by omega), if_neg (by omega), if_neg (by omega)]
  have hh : (19968 ≤ p ∧ p ≤ 40959) ∨ p < 19968 ∨ (19968 ≤ p ∧ 40959 < p) := by omega
  rcases hh with ⟨y1, y2⟩ | y1 | ⟨y1, y2⟩
  · have HV : Hid (wtZ 6 p = 5) := Lib.hid (by rw [e0, if_pos ⟨y1, y2⟩])
    clear e0
    go_enter Tryz.func78, Tryz.ntmps78
    go_wp2_with fail
    exact HP.out _ HV.out
  all_goals
    have HV : Hid (wtZ 6 p = 1) := Lib.hid (by rw [e0, if_neg (by omega)])
    clear e0
    go_enter Tryz.func78, Tryz.ntmps78
    go_wp2_with fail
    exact HP.out _ HV.out
set_option maxRecDepth 100000 in
set_option maxHeartbeats 2000000 in
theorem weight_any (c p : Int) (w : World) (c0 : 0 ≤ c) (c6 : c ≤ 6) (hp : p ≤ 1114111) (hT : pt.Tabs w) : Calls Tryz.prog 44 #[.int .i64 c, .int .i32 p] w (WgP c p w) := by
  obtain ⟨PP, hPP⟩ : ∃ PP, PP = WgP c p w := ⟨_, rfl⟩
  rw [← hPP]
  have HP : Hid (∀ w', Below w.heap.size w w' → PP (.returned (.int .i64 (wtZ c p))) w') := Lib.hid (fun w' hb => by rw [hPP]; exact wgP rfl hb)
  clear hPP
  by_cases h : p < 128
  · have HX := Lib.hid (plain_any c p w h)
    unfold WtP at HX
    generalize wtZ c p = V at *
    clear hT c0 c6 hp
    go_enter Tryz.func44, Tryz.ntmps44
    go_wp2_with (go_at_call 74; refine HX.out.mono ?_; rintro e1 w1 ⟨rfl, rfl⟩)
    exact HP.out _ (Below.refl _ _)
  have h' : 128 ≤ p := by omega
  have hc : c = 0 ∨ c = 1 ∨ c = 2 ∨ c = 3 ∨ c = 4 ∨ c = 5 ∨ c = 6 := by omega
  rcases hc with rfl | rfl | rfl | rfl | rfl | rfl | rfl
  · have HX := Lib.hid (latin_any p w h')
    unfold WtP at HX
    generalize wtZ 0 p = V at *
    clear hT c0 c6 hp
    go_enter Tryz.func44, Tryz.ntmps44
    go_wp2_with (go_at_call 75; refine HX.out.mono ?_; rintro e1 w1 ⟨rfl, rfl⟩)
    exact HP.out _ (Below.refl _ _)
  · have HX := Lib.hid (cyr_any 1 p w h' (by omega) (by omega))
    unfold WtP at HX
    generalize wtZ 1 p = V at *
    clear hT c0 c6 hp
    go_enter Tryz.func44, Tryz.ntmps44
    go_wp2_with (go_at_call 76; refine HX.out.mono ?_; rintro e1 w1 ⟨rfl, rfl⟩)
    exact HP.out _ (Below.refl _ _)
  · have HX := Lib.hid (cyr_any 2 p w h' (by omega) (by omega))
    unfold WtP at HX
    generalize wtZ 2 p = V at *
    clear hT c0 c6 hp
    go_enter Tryz.func44, Tryz.ntmps44
    go_wp2_with (go_at_call 76; refine HX.out.mono ?_; rintro e1 w1 ⟨rfl, rfl⟩)
    exact HP.out _ (Below.refl _ _)
  · have HX := Lib.hid (cyr_any 3 p w h' (by omega) (by omega))
    unfold WtP at HX
    generalize wtZ 3 p = V at *
    clear hT c0 c6 hp
    go_enter Tryz.func44, Tryz.ntmps44
    go_wp2_with (go_at_call 76; refine HX.out.mono ?_; rintro e1 w1 ⟨rfl, rfl⟩)
    exact HP.out _ (Below.refl _ _)
  · have HX := Lib.hid (kor_any 4 p w h' hp (by omega) (by omega) hT)
    unfold WgP at HX
    generalize wtZ 4 p = V at *
    clear hT c0 c6 hp
    go_enter Tryz.func44, Tryz.ntmps44
    go_wp2_with (go_at_call 77; refine HX.out.mono ?_; rintro e1 w1 ⟨rfl, hb1⟩; have B1 := Lib.hid hb1; clear hb1)
    exact HP.out _ B1.out
  · have HX := Lib.hid (kor_any 5 p w h' hp (by omega) (by omega) hT)
    unfold WgP at HX
    generalize wtZ 5 p = V at *
    clear hT c0 c6 hp
    go_enter Tryz.func44, Tryz.ntmps44
    go_wp2_with (go_at_call 77; refine HX.out.mono ?_; rintro e1 w1 ⟨rfl, hb1⟩; have B1 := Lib.hid hb1; clear hb1)
    exact HP.out _ B1.out
  · have HX := Lib.hid (chi_any p w h')
    unfold WtP at HX
    generalize wtZ 6 p = V at *
    clear hT c0 c6 hp
    go_enter Tryz.func44, Tryz.ntmps44
    go_wp2_with (go_at_call 78; refine HX.out.mono ?_; rintro e1 w1 ⟨rfl, rfl⟩)
    exact HP.out _ (Below.refl _ _)
end Go.Proofs.YtiigknimfibdpaaGreatDoor.df
