/- Several texts in one. -/
import Derived.Test.YtbgbgigpcegenaaGreatDoorZ8
import Derived.Test.YtbgbgigpcegenaaGreatDoorZ4
import Derived.Sort.Statements
import Derived.WalkSmall
import Derived.OneCell
import Derived.Test.YtbgbgigpcegenaaGreatDoorChecked
import Derived.BigQuiet
import Derived.Deep.QuietTactic
import Derived.Lib.Hide
import Derived.OrdersHeld
import Derived.Deep.RegionHeld
import Derived.Deep.RegionHeld3
import Derived.Shelf.Abstract
import Derived.Deep.DeepCutAuto
import Derived.Test.YtbgbgigpcegenaaGreatDoorZ5
import Derived.Test.YtbgbgigpcegenaaGreatDoorZ2
import Derived.Shelf.SlSortCmp.WholeK
import Derived.Shelf.SlicesQ.IndexFunc
import Derived.Shelf.SlicesE.Clone
import Derived.Test.YtbgbgigpcegenaaGreatDoorProg
namespace Go.Proofs.YtbgbgigpcegenaaGreatDoor.ch
open Go.RowKit Go.Lib
set_option linter.unusedVariables false
theorem txt_cons (l m : List Int) : pt.txt l ++ pt.txt m = pt.txt (l ++ m) := by
  apply ByteArray.ext
  apply Array.ext'
  show (pt.txt l ++ pt.txt m).data.toList = (pt.txt (l ++ m)).data.toList
  rw [pt.data_app, pt.txt_data, pt.txt_data, pt.txt_data]
  simp [pt.nums]
theorem str_app (P s : ByteArray) : strCells P ++ strCells s = strCells (P ++ s) := by
  unfold strCells
  rw [pt.data_app, List.map_append]
theorem str_nums (P : ByteArray) : strCells P = (P.data.toList.map fun (b : UInt8) => (b.toNat : Int)).map (Value.int .u8) := by simp [strCells]
theorem str_whole (P : ByteArray) : strOfNums (P.data.toList.map fun (b : UInt8) => (b.toNat : Int)) = P := pt.str_back P
theorem sg2_txt (c : Int) (l b : Nat) : (s2T c l b).size ≤ 8 := by
  have h1 := txt_most ((sg2 c l b).map Int.ofNat)
  have h2 := sg2_len c l b
  rw [List.length_map] at h1
  unfold s2T
  omega
theorem app_nil (P : ByteArray) : P ++ pt.txt [] = P := by
  apply ByteArray.ext
  apply Array.ext'
  show (P ++ pt.txt []).data.toList = P.data.toList
  rw [pt.data_app]
  simp [pt.txt, pt.nums, strOfNums]
theorem app_assoc (P a b : ByteArray) : P ++ (a ++ b) = (P ++ a) ++ b := by
  apply ByteArray.ext
  apply Array.ext'
  show (P ++ (a ++ b)).data.toList = ((P ++ a) ++ b).data.toList
  rw [pt.data_app, pt.data_app, pt.data_app, pt.data_app, List.append_assoc]
set_option maxRecDepth 100000 in
set_option maxHeartbeats 4000000 in
theorem pairs_any (c : Int) (t : ByteArray) (w : World) (hK : K9 w) (hc : c = 4 ∨ c = 5 ∨ c = 6) (ht : t.size ≤ 4000) :
    Calls Tryz.prog 17 #[.int .i64 c, .string t] w fun e w' => e = .returned (.tuple #[.string (dcT c t), .agg #[.int .i64 (dcE c t), .int .i64 (dcA c t)]]) ∧ Below w.heap.size w w' := by
  have hz : dz c t = tb c t t.size 0 := by unfold dz; rw [if_neg (by omega), if_neg (by omega), if_neg (by omega)]
  have hin : inC c := ⟨by omega, by omega⟩
  obtain ⟨T, hT⟩ : ∃ T, T = pt.txt (tb c t t.size 0).1 := ⟨_, rfl⟩
  obtain ⟨D, hD⟩ : ∃ D, D = (tb c t t.size 0).2 := ⟨_, rfl⟩
  have HOK : Hid (D = none → dcT c t = T ∧ dcE c t = 0 ∧ dcA c t = 0) := Lib.hid (fun hd => by
    have := dok (s := t) hin (by rw [hz, ← hD]; exact hd)
    rw [hz, ← hT] at this
    exact this)
  have HBAD : Hid (∀ p : Nat, D = some p → dcT c t = ⟨#[]⟩ ∧ dcE c t = 2 ∧ dcA c t = (p : Int)) := Lib.hid (fun p hd => dbad (s := t) (p := p) hin (by rw [hz, ← hD]; exact hd))
  generalize dcT c t = RT at *
  generalize dcE c t = RE at *
  generalize dcA c t = RA at *
  obtain ⟨i0, hi0, hzz⟩ := Option.map_eq_some_iff.1 wd.u8_info
  simp only [Prod.mk.injEq] at hzz
  obtain ⟨hz0, hsi, hby⟩ := hzz
  have hrd := oct.read_any t (w.alloc (.cells #[.int .i64 0, .int .i64 0] 32))
  rw [World.size_alloc] at hrd
  have htm : t.size ≤ maxLen := by unfold maxLen; omega
  have hmk := fun w2 => wd.mk_bytes t.size (t.size : Int) rfl (by omega) w2
  have HRD := Lib.hid hrd; have HT := Lib.hid hT; have HD := Lib.hid hD
  have HK := Lib.hid hK
  clear hrd hT hD hz hin hK
  go_enter Tryz.func17, Tryz.ntmps17
  go_wp2_with (go_at_call 39; refine HRD.out.mono ?_; rintro e1 w1 ⟨rfl, hR, hb1⟩; have F1 := Lib.hid ((pt.f2_new w 0 0 32).below hb1 (by omega)); have R1 := Lib.hid hR; have B1 := Lib.hid (((Below.refl w.heap.size w).alloc (Nat.le_refl _) _).trans (hb1.mono (by omega))); have q1 := hR.lt; clear hR hb1)
  have hA : Below w1.heap.size w1 (w1.alloc (.cells (madeCells #[.int .u8 0] t.size) 5)) := (Below.refl _ _).alloc (Nat.le_refl _) _
  have F2 := Lib.hid (F1.out.below hA F1.out.lt)
  have R2 := Lib.hid (R1.out.below hA R1.out.lt)
  have B2 := Lib.hid (B1.out.trans (hA.mono (by omega)))
  clear hA F1 R1 B1 hmk HRD
  go_loopw [7] (fun v wr => ∃ (pos f : Nat) (P : ByteArray), pos ≤ t.size ∧ t.size ≤ pos + f ∧ P.size ≤ 4 * pos ∧ P ++ pt.txt (tb c t f pos).1 = T ∧ (tb c t f pos).2 = D ∧ wr.ownsRow (w.heap.size + 1 + 1) 5 1 v P.size (strCells P) ∧ oct.Rd wr (w.heap.size + 1) t pos 0 0 0 ∧ pt.F2 wr w.heap.size 0 0 ∧ w.heap.size + 1 + 1 ≤ wr.heap.size ∧ Below w.heap.size w wr) (fun _ wr => t.size - wd.posOf wr (w.heap.size + 1))
  case atStart => exact ⟨0, t.size, ⟨#[]⟩, Nat.zero_le _, by omega, Nat.le_refl _, by rw [HT.out]; exact ByteArray.empty_append, HD.out.symm, World.ownsRow_made w1 _ t.size (by omega) htm (by simp [madeCells]), R2.out, F2.out, by simp; omega, B2.out⟩
  case round =>
    obtain ⟨pos, f, P, hps, hf, hpl, hpre, hsc, hown, hR, hF, hz1, hU⟩ := hrel
    have HPR := Lib.hid hpre; have HSC := Lib.hid hsc; have HOW := Lib.hid hown; have HR := Lib.hid hR; have HF := Lib.hid hF; have HB := Lib.hid hU
    clear hpre hsc hown hR hF hU R2 F2 B2
    obtain ⟨l, hl⟩ : ∃ l, pos + l = t.size := ⟨t.size - pos, by omega⟩
    have HLq := Lib.hid hl
    have hll : l ≤ 4000 := by omega
    clear hl
    by_cases hp : 0 < l
    · have hpt : pos < t.size := by have := HLq.out; omega
      have HAT : Hid (∀ w2, oct.Rd w2 (w.heap.size + 1) t pos 0 0 0 → Calls Tryz.prog 41 #[.pointer (some ⟨w.heap.size + 1, 0, none⟩)] w2 fun e w' => e = .returned (.int .i64 (pos : Int)) ∧ w2 = w') := Lib.hid (fun w2 h2 => by
        have := oct.at_on w2 (w.heap.size + 1) t pos 0 0 0 h2 (by omega) htm (by omega) (by omega)
        rwa [oct.plc_small (by omega), Int.zero_add] at this)
      obtain ⟨f1, rfl⟩ : ∃ f1, f = f1 + 1 := ⟨f - 1, by omega⟩
      have good : ∀ (n : Nat) (s : ByteArray) (R : List Int), 0 < n → pos + n ≤ t.size → s.size ≤ 4 * n → tb c t (f1 + 1) pos = (R ++ (tb c t f1 (pos + n)).1, (tb c t f1 (pos + n)).2) → s = pt.txt R → P ++ s ++ pt.txt (tb c t f1 (pos + n)).1 = T ∧ (tb c t f1 (pos + n)).2 = D := fun n s R _ _ _ h1 h2 => by
        have hpr1 := HPR.out
        have hsc1 := HSC.out
        rw [h1] at hpr1 hsc1
        refine ⟨?_, hsc1⟩
        rw [h2, ← app_assoc, txt_cons]
        exact hpr1
      by_cases hsig : bt t pos < 128 ∨ (pos + 1 < t.size ∧ sg2 c (bt t pos) (bt t (pos + 1)) ≠ [])
      · obtain ⟨n, s, hn0, hn1, hs4, hs16, hg1, hg2, hnx⟩ : ∃ (n : Nat) (s : ByteArray), 0 < n ∧ pos + n ≤ t.size ∧ s.size ≤ 4 * n ∧ s.size ≤ 8 ∧ P ++ s ++ pt.txt (tb c t f1 (pos + n)).1 = T ∧ (tb c t f1 (pos + n)).2 = D ∧ ∀ w2, Below w.heap.size w w2 → oct.Rd w2 (w.heap.size + 1) t pos 0 0 0 → Calls Tryz.prog 42 #[.pointer (some ⟨w.heap.size + 1, 0, none⟩), .int .i64 c] w2 fun e w' => e = .returned (.tuple #[.string s, .bool true]) ∧ oct.Rd w' (w.heap.size + 1) t ((pos + n : Nat) : Int) 0 0 0 ∧ oct.Upd (w.heap.size + 1) w2 w' := by
          by_cases hl : bt t pos < 128
          · have h1 := tb_low c t f1 pos hpt hl
            have hsz : (pt.txt [((bt t pos : Nat) : Int)]).size ≤ 4 := by have := txt_most [((bt t pos : Nat) : Int)]; simpa using this
            obtain ⟨g1, g2⟩ := good 1 (pt.txt [((bt t pos : Nat) : Int)]) [((bt t pos : Nat) : Int)] (by omega) (by omega) (by omega) (by rw [h1]; rfl) rfl
            exact ⟨1, _, by omega, by omega, by omega, by omega, g1, g2, fun w2 _ h2 => next_low c t pos (w.heap.size + 1) 0 0 w2 h2 hpt (by omega) hl⟩
          · have h3 := hsig.resolve_left hl
            have h1 := tb_two c t f1 pos hpt hl h3
            have hsz := sg2_txt c (bt t pos) (bt t (pos + 1))
            obtain ⟨g1, g2⟩ := good 2 (s2T c (bt t pos) (bt t (pos + 1))) ((sg2 c (bt t pos) (bt t (pos + 1))).map Int.ofNat) (by omega) (by omega) (by omega) h1 rfl
            refine ⟨2, _, by omega, by omega, by omega, by omega, g1, g2, fun w2 hb2 h2 => ?_⟩
            have := next_two c t pos (w.heap.size + 1) 0 0 w w2 HK.out hb2 (by omega) hc h2 h3.1 (by omega) hl
            have e : (!(sg2 c (bt t pos) (bt t (pos + 1))).isEmpty) = true := by
              cases h : sg2 c (bt t pos) (bt t (pos + 1)) with
              | nil => exact absurd h h3.2
              | cons a l => rfl
            unfold s2V at this
            rwa [e] at this
        have HNX := Lib.hid hnx; have HG1 := Lib.hid hg1; have HG2 := Lib.hid hg2
        clear hnx hg1 hg2 good hsig
        go_wp2_with (first
          | (go_at_call 40; refine (oct.left_l _ _ _ pos l _ _ HR.out HLq.out htm).mono ?_; rintro e1 w2 ⟨rfl, hb2⟩; have R3 := Lib.hid (HR.out.below hb2 HR.out.lt); have F3 := Lib.hid (HF.out.below hb2 HF.out.lt); have B3 := Lib.hid (HB.out.trans (hb2.mono HB.out.size)); have O3 := Lib.hid (pt.owns_below HOW.out hb2); have q3 := Nat.le_trans hz1 hb2.size)
          | (go_at_call 41; refine (HAT.out _ R3.out).mono ?_; rintro e2 w3 ⟨rfl, rfl⟩)
          | (go_at_call 42; refine (HNX.out _ B3.out R3.out).mono ?_; rintro e3 w4 ⟨rfl, hr4, hu4⟩; have F4 := Lib.hid (wd.f2_upd F3.out hu4 (by omega)); have B4 := Lib.hid (oct.Upd.below B3.out hu4 (by omega) B3.out.size); have R4 := Lib.hid hr4; have O4 := Lib.hid (wd.owns_upd O3.out hu4 (by omega)); have q4 := Nat.le_trans q3 hu4.size; clear hr4 hu4 hb2)
          | (at_builtin; (refine wpList_append_own_string _ rfl _ _ 66 9 rfl (w.heap.size + 1 + 1) 5 i0 Tryz.underlying66 Tryz.underlying9 hi0 hz0 hsi hby _ _ _ rfl O4.out _ rfl ?c1 ?c2 ?c3 ?_)))
        case c1 => unfold maxLen; omega
        case c2 => omega
        case c3 => exact q4
        intro v' w5 hown5 hgrow _
        rw [str_app, ← ByteArray.size_append] at hown5
        have HO5 := Lib.hid hown5
        have hB5 := wd.below_grown0 (Below.refl (w.heap.size + 1 + 1) w4) q4 O4.out hgrow
        have R5 := Lib.hid (R4.out.below hB5 (by omega)); have F5 := Lib.hid (F4.out.below hB5 (by omega)); have B5 := Lib.hid (B4.out.trans (hB5.mono (by omega)))
        have q5 := Nat.le_trans q4 hB5.size
        clear hown5 hgrow hB5
        go_wp2
        go_roundw
        case rel => exact ⟨pos + n, f1, P ++ s, by omega, by omega, by rw [ByteArray.size_append]; omega, HG1.out, HG2.out, HO5.out, R5.out, F5.out, q5, B5.out⟩
        case measure => rw [wd.posOf_rd R5.out, wd.posOf_rd HR.out]; omega
      · have hl : ¬ bt t pos < 128 := fun h => hsig (.inl h)
        have h3 : ¬ (pos + 1 < t.size ∧ sg2 c (bt t pos) (bt t (pos + 1)) ≠ []) := fun h => hsig (.inr h)
        have hsc1 := HSC.out
        rw [tb_bad c t f1 pos hpt hl h3] at hsc1
        obtain ⟨e1, e2, e3⟩ := HBAD.out pos hsc1.symm
        have HNX : Hid (∀ w2, Below w.heap.size w w2 → oct.Rd w2 (w.heap.size + 1) t pos 0 0 0 → Calls Tryz.prog 42 #[.pointer (some ⟨w.heap.size + 1, 0, none⟩), .int .i64 c] w2 fun e w' => e = .returned (.tuple #[.string ⟨#[]⟩, .bool false]) ∧ oct.Upd (w.heap.size + 1) w2 w') := Lib.hid (fun w2 hb2 h2 => by
          by_cases h4 : pos + 1 < t.size
          · have h5 : sg2 c (bt t pos) (bt t (pos + 1)) = [] := by
              by_cases h6 : sg2 c (bt t pos) (bt t (pos + 1)) = []
              · exact h6
              · exact absurd ⟨h4, h6⟩ h3
            have := next_two c t pos (w.heap.size + 1) 0 0 w w2 HK.out hb2 (by omega) hc h2 h4 (by omega) hl
            rw [s2V_none h5] at this
            exact this.mono fun e w' h => ⟨h.1, h.2.2⟩
          · exact next_one c t pos (w.heap.size + 1) 0 0 w2 h2 (by omega) (by omega) (by omega) (by omega) hl)
        have HE := Lib.hid (And.intro e1 (And.intro e2 e3))
        clear hsc1 good hsig hl h3 e1 e2 e3 hpt
        go_wp2_with (first
          | (go_at_call 40; refine (oct.left_l _ _ _ pos l _ _ HR.out HLq.out htm).mono ?_; rintro e1 w2 ⟨rfl, hb2⟩; have R3 := Lib.hid (HR.out.below hb2 HR.out.lt); have F3 := Lib.hid (HF.out.below hb2 HF.out.lt); have B3 := Lib.hid (HB.out.trans (hb2.mono HB.out.size)); have q3 := Nat.le_trans hz1 hb2.size)
          | (go_at_call 41; refine (HAT.out _ R3.out).mono ?_; rintro e2 w3 ⟨rfl, rfl⟩)
          | (go_at_call 42; refine (HNX.out _ B3.out R3.out).mono ?_; rintro e3 w4 ⟨rfl, hu4⟩; obtain ⟨_, c0, c1, f0, f1⟩ := wd.f2_upd F3.out hu4 (by omega); have B4 := Lib.hid (oct.Upd.below B3.out hu4 (by omega) B3.out.size); clear hu4 hb2))
        obtain ⟨rfl, rfl, rfl⟩ := HE.out
        have HB4 := B4.out
        exact bodyPost_ret (v := .tuple #[.string ⟨#[]⟩, .agg #[.int .i64 2, .int .i64 (pos : Int)]]) (by simp [results, Tryz.results17, go_sem, c0, c1]) rfl ⟨rfl, by repeat (first | (with_reducible exact HB4) | (with_reducible exact Below.refl _ _) | (with_reducible refine Below.setCell ?_ (by simp) _) | (with_reducible refine Below.alloc ?_ (by simp; omega) _))⟩
    · have hpt : ¬ pos < t.size := by have := HLq.out; omega
      obtain rfl : l = 0 := by omega
      have hsc1 := HSC.out
      have hpr1 := HPR.out
      rw [tb_end c t f pos hpt] at hsc1 hpr1
      rw [app_nil] at hpr1
      obtain ⟨e1, e2, e3⟩ := HOK.out hsc1.symm
      have HE := Lib.hid (And.intro (e1.trans hpr1.symm) (And.intro e2 e3))
      clear hsc1 hpr1 e1 e2 e3
      have HCV : Hid (∀ w2, Below wr.heap.size wr w2 → (convert 66 9 u7).run Tryz.prog w2 = .ok (.string P) w2) := Lib.hid (fun w2 h2 => by
        have h := pt.owns_below HOW.out h2
        rw [str_nums] at h
        have := pt.conv_row w2 (w.heap.size + 1 + 1) u7 (P.data.toList.map fun (b : UInt8) => (b.toNat : Int)) (by rw [List.length_map, size_list]; exact h)
        rwa [str_whole] at this)
      go_wp2_with (go_at_call 40; refine (oct.left_l _ _ _ pos 0 _ _ HR.out HLq.out htm).mono ?_; rintro e1 w2 ⟨rfl, hb2⟩; obtain ⟨_, c0, c1, f0, f1⟩ := HF.out.below hb2 HF.out.lt; have B3 := Lib.hid (HB.out.trans (hb2.mono HB.out.size)); have hcv := HCV.out w2 hb2)
      obtain ⟨rfl, rfl, rfl⟩ := HE.out
      have HB3 := B3.out
      exact bodyPost_ret (v := .tuple #[.string RT, .agg #[.int .i64 0, .int .i64 0]]) (by simp [results, Tryz.results17, go_sem, c0, c1]) rfl ⟨rfl, by repeat (first | (with_reducible exact HB3) | (with_reducible exact Below.refl _ _) | (with_reducible refine Below.setCell ?_ (by simp) _) | (with_reducible refine Below.alloc ?_ (by simp; omega) _))⟩
end Go.Proofs.YtbgbgigpcegenaaGreatDoor.ch
namespace Go.Proofs.YtbgbgigpcegenaaGreatDoor.tb
open Go.RowKit Go.Lib
set_option linter.unusedVariables false
/-- A row. -/
structure Rw where
  f : Int
  t : Int
  c : Int
instance : Inhabited Rw := ⟨⟨0, 0, 0⟩⟩
/-- A row as the code holds it. -/
structure Rw.ok (r : Rw) : Prop where
  f0 : 0 ≤ r.f
  c1 : 1 ≤ r.c
  f1 : r.f + r.c ≤ 1048576
  t0 : 0 ≤ r.t
  t1 : r.t + r.c ≤ 1114112
def rp (r : Rw) : List (Int × Int) := sqp r.f r.t r.c.toNat
def rps (l : List Rw) : List (Int × Int) := l.flatMap rp
theorem sqp_iff (f t : Int) : ∀ (n : Nat) (q : Int × Int), q ∈ sqp f t n ↔ f ≤ q.1 ∧ q.1 < f + n ∧ q.2 = t + (q.1 - f)
  | 0, q => by simp [sqp]; omega
  | n + 1, q => by
    have e : sqp f t (n + 1) = sqp f t n ++ [(f + n, t + n)] := rfl
    rw [e, List.mem_append, sqp_iff f t n q, List.mem_singleton]
    constructor
    · rintro (⟨h1, h2, h3⟩ | rfl)
      · exact ⟨h1, by push_cast; omega, h3⟩
      · refine ⟨?_, ?_, ?_⟩ <;> simp <;> omega
    · rintro ⟨h1, h2, h3⟩
      push_cast at h2
      by_cases h : q.1 < f + n
      · exact .inl ⟨h1, h, h3⟩
      · exact .inr (Prod.ext (by simp; omega) (by simp; omega))
theorem rp_iff (r : Rw) (q : Int × Int) : q ∈ rp r ↔ r.f ≤ q.1 ∧ q.1 < r.f + r.c ∧ q.2 = r.t + (q.1 - r.f) := by
  unfold rp
  rw [sqp_iff]
  constructor <;> rintro ⟨h1, h2, h3⟩ <;> exact ⟨h1, by omega, h3⟩
theorem rps_iff (l : List Rw) (q : Int × Int) : q ∈ rps l ↔ ∃ r ∈ l, r.f ≤ q.1 ∧ q.1 < r.f + r.c ∧ q.2 = r.t + (q.1 - r.f) := by
  unfold rps
  rw [List.mem_flatMap]
  constructor <;> rintro ⟨r, h1, h2⟩ <;> exact ⟨r, h1, by rwa [rp_iff] at *⟩
theorem rps_cons (r : Rw) (l : List Rw) : rps (r :: l) = rp r ++ rps l := rfl
theorem rps_app (l m : List Rw) : rps (l ++ m) = rps l ++ rps m := by simp [rps]
theorem sqp_sorted (f t : Int) : ∀ n : Nat, Srt (sqp f t n)
  | 0 => Srt.nil
  | n + 1 => List.pairwise_append.2 ⟨sqp_sorted f t n, by simp, fun a ha b hb => by
      have := (sqp_iff f t n a).1 ha
      simp at hb
      subst hb
      show a.1 < f + n
      omega⟩
/-- Rows by rising codes. -/
def Dis (l : List Rw) : Prop := l.Pairwise (fun a b => a.f + a.c ≤ b.f)
theorem rps_srt : ∀ (l : List Rw), Dis l → Srt (rps l)
  | [], _ => Srt.nil
  | r :: l, h => by
    have h := List.pairwise_cons.1 h
    refine List.pairwise_append.2 ⟨sqp_sorted _ _ _, rps_srt l h.2, fun a ha b hb => ?_⟩
    obtain ⟨s, hs, h1, _⟩ := (rps_iff _ _).1 hb
    have := (rp_iff _ _).1 ha
    have := h.1 s hs
    omega
/-- A row has a code. -/
def has (r : Rw) (c : Int) : Prop := r.f ≤ c ∧ c < r.f + r.c
instance (r : Rw) (c : Int) : Decidable (has r c) := by unfold has; infer_instance
theorem lk_some {l : List Rw} (hd : Dis l) {r : Rw} (hr : r ∈ l) {c : Int} (h : has r c) : lk (rps l) c = some (r.t + (c - r.f)) :=
  (lk_mem (rps_srt l hd) _ _).2 ((rps_iff _ _).2 ⟨r, hr, h.1, h.2, rfl⟩)
theorem lk_no {l : List Rw} {c : Int} (h : ∀ r ∈ l, ¬ has r c) : lk (rps l) c = none := by
  rw [lk_none]
  intro q hq e
  obtain ⟨r, hr, h1, h2, _⟩ := (rps_iff _ _).1 hq
  exact h r hr (by unfold has; omega)
theorem rev_cons (q : Int × Int) (l : List (Int × Int)) (p : Int) : rev (q :: l) p = if q.2 = p then q.1 else rev l p := rfl
theorem rev_app (l m : List (Int × Int)) (p : Int) : rev (l ++ m) p = if (∃ q ∈ l, q.2 = p) then rev l p else rev m p := by
  induction l with
  | nil => simp
  | cons q l ih =>
    rw [List.cons_append, rev_cons, rev_cons]
    by_cases h : q.2 = p
    · rw [if_pos h, if_pos ⟨q, List.mem_cons_self .., h⟩, if_pos h]
    · rw [if_neg h, if_neg h, ih]
      by_cases h2 : ∃ q ∈ l, q.2 = p
      · rw [if_pos h2, if_pos (by obtain ⟨q2, a, b⟩ := h2; exact ⟨q2, List.mem_cons_of_mem _ a, b⟩)]
      · rw [if_neg h2, if_neg]
        rintro ⟨q2, a, b⟩
        rcases List.mem_cons.1 a with rfl | a
        · exact h b
        · exact h2 ⟨q2, a, b⟩
theorem rev_in {l : List (Int × Int)} {p : Int} : ∀ {q : Int × Int}, q ∈ l → q.2 = p → (∀ r ∈ l, r.2 = p → r.1 = q.1) → rev l p = q.1 := by
  induction l with
  | nil => intro q h; cases h
  | cons r l ih =>
    intro q h1 h2 h3
    unfold rev
    by_cases h : r.2 = p
    · rw [if_pos h]; exact h3 r (List.mem_cons_self ..) h
    · rw [if_neg h]
      rcases List.mem_cons.1 h1 with rfl | h1
      · exact absurd h2 h
      · exact ih h1 h2 (fun s hs => h3 s (List.mem_cons_of_mem _ hs))
/-- A row tells a sign. -/
def tel (r : Rw) (p : Int) : Bool := decide (r.t ≤ p) && decide (p ≤ r.t + r.c - 1)
theorem tel_iff (r : Rw) (p : Int) : tel r p = true ↔ r.t ≤ p ∧ p < r.t + r.c := by unfold tel; simp; omega
/-- The least code of a sign, by rows. -/
theorem rev_rps : ∀ (l : List Rw) (p : Int), rev (rps l) p = match l.find? (fun r => tel r p) with | some r => r.f + (p - r.t) | none => -1
  | [], p => rfl
  | r :: l, p => by
    rw [rps_cons, rev_app, List.find?_cons]
    cases h : tel r p with
    | true =>
      have h1 := (tel_iff r p).1 h
      have hm : (r.f + (p - r.t), p) ∈ rp r := (rp_iff _ _).2 ⟨by simp; omega, by simp; omega, by simp; omega⟩
      rw [if_pos ⟨_, hm, rfl⟩]
      exact rev_in hm rfl (fun s hs h => by have := (rp_iff _ _).1 hs; simp; omega)
    | false =>
      rw [if_neg, rev_rps l p]
      rintro ⟨q, hq, rfl⟩
      have h1 := (rp_iff _ _).1 hq
      have : tel r q.2 = true := (tel_iff _ _).2 (by omega)
      rw [this] at h; cases h
/-- How many codes rows have. -/
def siz : List Rw → Int
  | [] => 0
  | r :: l => r.c + siz l
theorem siz_len : ∀ (l : List Rw), (∀ r ∈ l, r.ok) → ((rps l).length : Int) = siz l
  | [], _ => rfl
  | r :: l, h => by
    have h1 := (h r (List.mem_cons_self ..)).c1
    rw [rps_cons, List.length_append]
    unfold siz rp
    rw [sqp_len]
    have := siz_len l (fun s hs => h s (List.mem_cons_of_mem _ hs))
    push_cast
    omega
theorem len_siz : ∀ (l : List Rw), (∀ r ∈ l, r.ok) → l.length ≤ (rps l).length
  | [], _ => Nat.le_refl _
  | r :: l, h => by
    have h1 := (h r (List.mem_cons_self ..)).c1
    rw [rps_cons, List.length_append]
    unfold rp
    rw [sqp_len]
    have := len_siz l (fun s hs => h s (List.mem_cons_of_mem _ hs))
    simp only [List.length_cons]
    omega
theorem siz_app (l m : List Rw) : siz (l ++ m) = siz l + siz m := by
  induction l with
  | nil => simp [siz]
  | cons r l ih => simp only [List.cons_append, siz, ih]; omega
/-- Two rows have no code both. -/
def Apart (a b : Rw) : Prop := a.f + a.c ≤ b.f ∨ b.f + b.c ≤ a.f
theorem Apart.symm {a b : Rw} (h : Apart a b) : Apart b a := Or.symm h
/-- What of a row no row of a table has. -/
def bes : List Rw → Rw → List Rw
  | [], r => if r.c > 0 then [r] else []
  | o :: T, r => if r.f + r.c ≤ o.f then (if r.c > 0 then [r] else []) else
      (if o.f > r.f then [⟨r.f, r.t, o.f - r.f⟩] else []) ++ bes T ⟨min (o.f + o.c) (r.f + r.c), r.t + (min (o.f + o.c) (r.f + r.c) - r.f), r.f + r.c - min (o.f + o.c) (r.f + r.c)⟩
/-- What bes answers: rows of the row, none of which has a code of the table's, and all that is left. -/
theorem bes_spec : ∀ (T : List Rw) (r : Rw), Dis T → (∀ o ∈ T, o.ok) → (∀ o ∈ T, r.f < o.f + o.c ∧ (0 < r.c ∨ r.f ≤ o.f)) → 0 ≤ r.f → 0 ≤ r.c → r.f + r.c ≤ 1048576 → 0 ≤ r.t → r.t + r.c ≤ 1114112 →
    (∀ s ∈ bes T r, s.ok ∧ r.f ≤ s.f ∧ s.f + s.c ≤ r.f + r.c ∧ s.t - s.f = r.t - r.f ∧ ∀ o ∈ T, Apart o s) ∧ Dis (bes T r) ∧ ∀ c, has r c → (∀ o ∈ T, ¬ has o c) → ∃ s ∈ bes T r, has s c
  | [], r, hd, ho, hi, f0, c0, f1, t0, t1 => by
    unfold bes
    by_cases h : r.c > 0
    · rw [if_pos h]
      refine ⟨fun s hs => ?_, List.pairwise_singleton _ _, fun c hc _ => ⟨r, List.mem_singleton.2 rfl, hc⟩⟩
      rw [List.mem_singleton] at hs
      subst hs
      exact ⟨⟨f0, by omega, f1, t0, t1⟩, by omega, by omega, by omega, fun _ h => by cases h⟩
    · rw [if_neg h]
      exact ⟨fun s hs => (by cases hs), List.Pairwise.nil, fun c hc _ => by unfold has at hc; omega⟩
  | o :: T, r, hd, ho, hi, f0, c0, f1, t0, t1 => by
    have hd' := List.pairwise_cons.1 hd
    have ho1 := ho o (List.mem_cons_self ..)
    have hi1 := hi o (List.mem_cons_self ..)
    unfold bes
    by_cases hb : r.f + r.c ≤ o.f
    · rw [if_pos hb]
      by_cases h : r.c > 0
      · rw [if_pos h]
        refine ⟨fun s hs => ?_, List.pairwise_singleton _ _, fun c hc _ => ⟨r, List.mem_singleton.2 rfl, hc⟩⟩
        rw [List.mem_singleton] at hs
        subst hs
        refine ⟨⟨f0, by omega, f1, t0, t1⟩, by omega, by omega, by omega, fun p hp => ?_⟩
        rcases List.mem_cons.1 hp with rfl | hp
        · exact .inr hb
        · have := hd'.1 p hp; have := ho1.c1; exact .inr (by omega)
      · rw [if_neg h]
        exact ⟨fun s hs => (by cases hs), List.Pairwise.nil, fun c hc _ => by unfold has at hc; omega⟩
    · rw [if_neg hb]
      obtain ⟨E, hE⟩ : ∃ E, E = min (o.f + o.c) (r.f + r.c) := ⟨_, rfl⟩
      rw [← hE]
      have c1 := ho1.c1
      have ih := bes_spec T ⟨E, r.t + (E - r.f), r.f + r.c - E⟩ hd'.2 (fun p hp => ho p (List.mem_cons_of_mem _ hp)) (fun p hp => by
        have := hd'.1 p hp
        have := (ho p (List.mem_cons_of_mem _ hp)).c1
        show E < p.f + p.c ∧ (0 < r.f + r.c - E ∨ E ≤ p.f)
        omega) (by show 0 ≤ E; omega) (by show 0 ≤ r.f + r.c - E; omega) (by show E + (r.f + r.c - E) ≤ _; omega) (by show 0 ≤ r.t + (E - r.f); omega) (by show r.t + (E - r.f) + (r.f + r.c - E) ≤ _; omega)
      obtain ⟨i1, i2, i3⟩ := ih
      simp only at i1 i3
      refine ⟨fun s hs => ?_, ?_, fun c hc hn => ?_⟩
      · rcases List.mem_append.1 hs with hs | hs
        · split at hs
          · rw [List.mem_singleton] at hs
            subst hs
            refine ⟨⟨f0, by show 1 ≤ o.f - r.f; omega, by show r.f + (o.f - r.f) ≤ _; omega, t0, by show r.t + (o.f - r.f) ≤ _; omega⟩, by show r.f ≤ r.f; omega, by show r.f + (o.f - r.f) ≤ _; omega, by show r.t - r.f = _; omega, fun p hp => ?_⟩
            rcases List.mem_cons.1 hp with rfl | hp
            · exact .inr (by show r.f + (p.f - r.f) ≤ p.f; omega)
            · have := hd'.1 p hp; exact .inr (by show r.f + (o.f - r.f) ≤ p.f; omega)
          · cases hs
        · obtain ⟨a1, a2, a3, a4, a5⟩ := i1 s hs
          refine ⟨a1, by omega, by omega, by omega, fun p hp => ?_⟩
          rcases List.mem_cons.1 hp with rfl | hp
          · by_cases h : p.f + p.c ≤ r.f + r.c
            · exact .inl (by omega)
            · have := a1.c1; exact .inl (by omega)
          · exact a5 p hp
      · refine List.pairwise_append.2 ⟨?_, i2, fun a ha b hb2 => ?_⟩
        · split
          · exact List.pairwise_singleton _ _
          · exact List.Pairwise.nil
        · split at ha
          · rw [List.mem_singleton] at ha
            subst ha
            have := (i1 b hb2).2.1
            show r.f + (o.f - r.f) ≤ b.f
            omega
          · cases ha
      · unfold has at hc
        have hn1 := hn o (List.mem_cons_self ..)
        unfold has at hn1
        by_cases h : c < o.f
        · refine ⟨⟨r.f, r.t, o.f - r.f⟩, List.mem_append.2 (.inl ?_), ?_⟩
          · rw [if_pos (by omega)]; exact List.mem_singleton.2 rfl
          · unfold has; simp only; omega
        · obtain ⟨s, hs, h2⟩ := i3 c (by unfold has; simp only; omega) (fun p hp => hn p (List.mem_cons_of_mem _ hp))
          exact ⟨s, List.mem_append.2 (.inr hs), h2⟩
end Go.Proofs.YtbgbgigpcegenaaGreatDoor.tb
namespace Go.Proofs.YtbgbgigpcegenaaGreatDoor.tb
open Go.RowKit Go.Lib
set_option linter.unusedVariables false
theorem dis_apart {l : List Rw} (h : Dis l) : l.Pairwise Apart := List.Pairwise.imp (fun h => Or.inl h) h
/-- A row that was put in order. -/
theorem sorted_dis {l m : List Rw} (hp : m.Perm l) (ha : l.Pairwise Apart) (ho : ∀ r ∈ l, r.ok) (hs : m.Pairwise (fun a b => a.f ≤ b.f)) : Dis m ∧ (∀ r ∈ m, r.ok) ∧ ∀ q, q ∈ rps m ↔ q ∈ rps l := by
  have ha' : m.Pairwise Apart := (hp.pairwise_iff (fun h => Apart.symm h)).2 ha
  have ho' : ∀ r ∈ m, r.ok := fun r hr => ho r (hp.mem_iff.1 hr)
  refine ⟨?_, ho', fun q => ?_⟩
  · refine (hs.and ha').imp_of_mem fun {a b} h1 h2 h => ?_
    have c1 := (ho' _ h1).c1
    have c2 := (ho' _ h2).c1
    rcases h.2 with h3 | h3
    · exact h3
    · have := h.1; omega
  · rw [rps_iff, rps_iff]
    constructor <;> rintro ⟨r, hr, h⟩
    · exact ⟨r, hp.mem_iff.1 hr, h⟩
    · exact ⟨r, hp.mem_iff.2 hr, h⟩
/-- The same of the sort's answer. -/
theorem sorted_arr {d d' : Array Rw} (hp : Go.Sort.PermIn 0 d.size d d') (hs : Go.Sort.SortedIn (fun a b : Rw => decide (a.f < b.f)) 0 d.size d') :
    d'.size = d.size ∧ d'.toList.Perm d.toList ∧ d'.toList.Pairwise (fun a b => a.f ≤ b.f) := by
  obtain ⟨h1, _, h3⟩ := hp
  have e1 : d.extract 0 d.size = d := by simp
  have e2 : d'.extract 0 d.size = d' := by rw [← h1]; simp
  rw [e1, e2] at h3
  refine ⟨h1, h3, ?_⟩
  rw [List.pairwise_iff_getElem]
  intro i j hi hj hij
  simp at hi hj
  have := hs i j (Nat.zero_le _) hij (by omega)
  rw [getElem!_pos d' i hi, getElem!_pos d' j hj] at this
  simp at this
  simpa using this
/-- What a row has beside a table. -/
def besL (L : List Rw) (r : Rw) : List Rw := bes (L.dropWhile (fun o => decide (o.f + o.c ≤ r.f))) r
theorem drop_while {L : List Rw} {x : Int} (i : Nat) (hi : i ≤ L.length) (h1 : ∀ j (h : j < L.length), j < i → L[j].f + L[j].c ≤ x) (h2 : ∀ h : i < L.length, x < L[i].f + L[i].c) : L.drop i = L.dropWhile (fun o => decide (o.f + o.c ≤ x)) := by
  induction L generalizing i with
  | nil => simp
  | cons o L ih =>
    cases i with
    | zero =>
      have := h2 (by simp)
      simp only [List.getElem_cons_zero] at this
      rw [List.dropWhile_cons_of_neg (by simp; omega)]
      rfl
    | succ i =>
      have := h1 0 (by simp) (by omega)
      simp only [List.getElem_cons_zero] at this
      rw [List.dropWhile_cons_of_pos (by simp; omega), List.drop_succ_cons]
      refine ih i (by simp at hi; omega) (fun j hj hji => ?_) (fun h => ?_)
      · have := h1 (j + 1) (by simp; omega) (by omega)
        simpa using this
      · have := h2 (by simp; omega)
        simpa using this
theorem bes_len : ∀ (T : List Rw) (r : Rw), (bes T r).length ≤ T.length + 1
  | [], r => by unfold bes; split <;> simp
  | o :: T, r => by
    unfold bes
    split
    · split <;> simp
    · rw [List.length_append]
      have := bes_len T ⟨min (o.f + o.c) (r.f + r.c), r.t + (min (o.f + o.c) (r.f + r.c) - r.f), r.f + r.c - min (o.f + o.c) (r.f + r.c)⟩
      have h2 : (if o.f > r.f then [(⟨r.f, r.t, o.f - r.f⟩ : Rw)] else []).length ≤ 1 := by split <;> simp
      simp only [List.length_cons]
      omega
theorem besL_len (L : List Rw) (r : Rw) : (besL L r).length ≤ L.length + 1 := by
  have h1 := bes_len (L.dropWhile (fun o => decide (o.f + o.c ≤ r.f))) r
  have h2 := (List.dropWhile_suffix (l := L) (fun o => decide (o.f + o.c ≤ r.f))).length_le
  unfold besL
  omega
theorem dw_head {L : List Rw} {x : Int} (hd : Dis L) (ho : ∀ r ∈ L, r.ok) : ∀ o ∈ L.dropWhile (fun o => decide (o.f + o.c ≤ x)), x < o.f + o.c := by
  induction L with
  | nil => simp
  | cons r L ih =>
    have hd' := List.pairwise_cons.1 hd
    by_cases h : r.f + r.c ≤ x
    · rw [List.dropWhile_cons_of_pos (by simpa using h)]
      exact ih hd'.2 (fun s hs => ho s (List.mem_cons_of_mem _ hs))
    · rw [List.dropWhile_cons_of_neg (by simpa using h)]
      intro o hm
      rcases List.mem_cons.1 hm with rfl | hm
      · omega
      · have := hd'.1 o hm
        have := (ho o (List.mem_cons_of_mem _ hm)).c1
        omega
theorem dw_out {L : List Rw} {x : Int} : ∀ o ∈ L, o ∈ L.dropWhile (fun o => decide (o.f + o.c ≤ x)) ∨ o.f + o.c ≤ x := by
  induction L with
  | nil => simp
  | cons r L ih =>
    intro o hm
    by_cases h : r.f + r.c ≤ x
    · rw [List.dropWhile_cons_of_pos (by simpa using h)]
      rcases List.mem_cons.1 hm with rfl | hm
      · exact .inr h
      · exact ih o hm
    · rw [List.dropWhile_cons_of_neg (by simpa using h)]
      exact .inl hm
theorem besL_spec {L : List Rw} {r : Rw} (hd : Dis L) (ho : ∀ o ∈ L, o.ok) (hr : r.ok) :
    (∀ s ∈ besL L r, s.ok ∧ r.f ≤ s.f ∧ s.f + s.c ≤ r.f + r.c ∧ s.t - s.f = r.t - r.f ∧ ∀ o ∈ L, Apart o s) ∧ Dis (besL L r) ∧ ∀ c, has r c → (∀ o ∈ L, ¬ has o c) → ∃ s ∈ besL L r, has s c := by
  have hsub := (List.dropWhile_suffix (l := L) (fun o => decide (o.f + o.c ≤ r.f))).sublist
  have c1 := hr.c1
  obtain ⟨a, b, c⟩ := bes_spec (L.dropWhile (fun o => decide (o.f + o.c ≤ r.f))) r (List.Pairwise.sublist hsub hd) (fun o h => ho o (hsub.subset h)) (fun o h => ⟨dw_head hd ho o h, .inl (by omega)⟩) hr.f0 (by omega) hr.f1 hr.t0 hr.t1
  refine ⟨fun s hs => ?_, b, fun x h1 h2 => c x h1 (fun o h => h2 o (hsub.subset h))⟩
  obtain ⟨a1, a2, a3, a4, a5⟩ := a s hs
  refine ⟨a1, a2, a3, a4, fun o h => ?_⟩
  rcases dw_out (x := r.f) o h with h | h
  · exact a5 o h
  · exact .inl (by omega)
/-- All rows of a table over another one. -/
def overR (L M : List Rw) : List Rw := L ++ M.flatMap (besL L)
theorem overR_snoc (L M : List Rw) (r : Rw) : overR L (M ++ [r]) = overR L M ++ besL L r := by simp [overR]
theorem overR_len (L M : List Rw) : (overR L M).length ≤ L.length + M.length * (L.length + 1) := by
  unfold overR
  rw [List.length_append]
  have : ∀ M : List Rw, (M.flatMap (besL L)).length ≤ M.length * (L.length + 1) := by
    intro M
    induction M with
    | nil => simp
    | cons r M ih =>
      rw [List.flatMap_cons, List.length_append, List.length_cons, Nat.add_mul]
      have := besL_len L r
      omega
  have := this M
  omega
theorem overR_spec {L M : List Rw} (hd : Dis L) (ho : ∀ o ∈ L, o.ok) (hm : Dis M) (hm2 : ∀ o ∈ M, o.ok) : (overR L M).Pairwise Apart ∧ ∀ r ∈ overR L M, r.ok := by
  have hin : ∀ s ∈ M.flatMap (besL L), ∃ r ∈ M, s ∈ besL L r := fun s hs => List.mem_flatMap.1 hs
  refine ⟨List.pairwise_append.2 ⟨dis_apart hd, ?_, fun a ha b hb => ?_⟩, fun r hr => ?_⟩
  · rw [List.pairwise_flatMap]
    refine ⟨fun r hr => dis_apart (besL_spec hd ho (hm2 r hr)).2.1, List.Pairwise.imp_of_mem (fun {a b} ha hb h x hx y hy => ?_) hm⟩
    have h1 := (besL_spec hd ho (hm2 a ha)).1 x hx
    have h2 := (besL_spec hd ho (hm2 b hb)).1 y hy
    exact .inl (by omega)
  · obtain ⟨r, hr, hs⟩ := hin b hb
    exact ((besL_spec hd ho (hm2 r hr)).1 b hs).2.2.2.2 a ha
  · rcases List.mem_append.1 hr with h | h
    · exact ho r h
    · obtain ⟨s, hs, h2⟩ := hin r h
      exact ((besL_spec hd ho (hm2 s hs)).1 r h2).1
theorem over_rows {L M S : List Rw} (hd : Dis L) (ho : ∀ o ∈ L, o.ok) (hm : Dis M) (hm2 : ∀ o ∈ M, o.ok) (hS : Dis S) (hp : S.Perm (overR L M)) : rps S = over (rps L) (rps M) := by
  obtain ⟨o1, o2⟩ := over_lk (rps_srt L hd) (rps_srt M hm)
  refine srt_lk (rps_srt S hS) o1 fun c => ?_
  rw [o2]
  have hmem : ∀ r, r ∈ S ↔ r ∈ overR L M := fun r => hp.mem_iff
  by_cases h1 : ∃ r ∈ L, has r c
  · obtain ⟨r, hr, h⟩ := h1
    rw [lk_some hd hr h, lk_some hS ((hmem r).2 (List.mem_append.2 (.inl hr))) h]
    rfl
  · have n1 : ∀ r ∈ L, ¬ has r c := fun r hr h => h1 ⟨r, hr, h⟩
    rw [lk_no n1]
    by_cases h2 : ∃ r ∈ M, has r c
    · obtain ⟨r, hr, h⟩ := h2
      obtain ⟨s1, _, s3⟩ := besL_spec hd ho (hm2 r hr)
      obtain ⟨s, hs, hsc⟩ := s3 c h n1
      have := (s1 s hs).2.2.2.1
      rw [lk_some hm hr h, lk_some hS ((hmem s).2 (List.mem_append.2 (.inr (List.mem_flatMap.2 ⟨r, hr, hs⟩)))) hsc]
      show some _ = some _
      congr 1
      omega
    · have n2 : ∀ r ∈ M, ¬ has r c := fun r hr h => h2 ⟨r, hr, h⟩
      rw [lk_no n2, lk_no]
      · rfl
      · intro r hr h
        rcases List.mem_append.1 ((hmem r).1 hr) with h3 | h3
        · exact n1 r h3 h
        · obtain ⟨s, hs, h4⟩ := List.mem_flatMap.1 h3
          have := (besL_spec hd ho (hm2 s hs)).1 r h4
          exact n2 s hs (by unfold has at *; omega)
/-- More rows beside rows: the pairs of both. -/
theorem join_rows {R more : List Rw} {all : List (Int × Int)} (hs : Srt all) (hq : ∀ q, q ∈ rps R ↔ q ∈ all) (hd : Dis more) (ho : ∀ r ∈ more, r.ok) (ha : R.Pairwise Apart) (hoR : ∀ r ∈ R, r.ok) (hn : ∀ q ∈ rps more, lk all q.1 = none) :
    ∃ r, join all (rps more) = some r ∧ Srt r ∧ (∀ q, q ∈ rps (R ++ more) ↔ q ∈ r) ∧ (R ++ more).Pairwise Apart := by
  have hsm := rps_srt more hd
  have hnd : ((rps more).map (·.1)).Nodup := by
    unfold List.Nodup
    rw [List.pairwise_map]
    exact hsm.imp fun h => by omega
  obtain ⟨p1, p2⟩ := puts_spec (rps more) all hs hnd hn
  refine ⟨puts all (rps more), ?_, p1, fun q => ?_, List.pairwise_append.2 ⟨ha, dis_apart hd, fun a h1 b h2 => ?_⟩⟩
  · unfold join
    rw [if_pos]
    rw [List.all_eq_true]
    intro q hq
    simp [(find_neg all q.1).2 (hn q hq)]
  · rw [p2, rps_app, List.mem_append, hq]
  · have c2 := (ho b h2).c1
    apply Classical.byContradiction
    intro hna
    unfold Apart at hna
    by_cases hle : a.f ≤ b.f
    · have hx : (b.f, b.t + (b.f - b.f)) ∈ rps more := (rps_iff _ _).2 ⟨b, h2, by simp; omega⟩
      have hy : (b.f, a.t + (b.f - a.f)) ∈ rps R := (rps_iff _ _).2 ⟨a, h1, by simp; omega⟩
      exact (lk_none _).1 (hn _ hx) _ ((hq _).1 hy) rfl
    · have hx : (a.f, b.t + (a.f - b.f)) ∈ rps more := (rps_iff _ _).2 ⟨b, h2, by simp; omega⟩
      have hc := (hoR a h1).c1
      have hy : (a.f, a.t + (a.f - a.f)) ∈ rps R := (rps_iff _ _).2 ⟨a, h1, by simp; omega⟩
      exact (lk_none _).1 (hn _ hx) _ ((hq _).1 hy) rfl
end Go.Proofs.YtbgbgigpcegenaaGreatDoor.tb
namespace Go.Proofs.YtbgbgigpcegenaaGreatDoor.tb
open Go.RowKit Go.Lib
set_option linter.unusedVariables false
def rcell (r : Rw) : List Value := [.int .i64 r.f, .int .i32 r.t, .int .i64 r.c]
def rcells (l : List Rw) : List Value := l.flatMap rcell
theorem rcells_len (l : List Rw) : (rcells l).length = l.length * 3 := by
  induction l with
  | nil => rfl
  | cons r l ih => unfold rcells at *; rw [List.flatMap_cons, List.length_append, ih]; simp [rcell]; omega
theorem rcells_app (l m : List Rw) : rcells (l ++ m) = rcells l ++ rcells m := by simp [rcells]
theorem rcells_at : ∀ (l : List Rw) (i : Nat), i < l.length → (rcells l)[i * 3]? = some (.int .i64 (l.getD i default).f) ∧ (rcells l)[i * 3 + 1]? = some (.int .i32 (l.getD i default).t) ∧ (rcells l)[i * 3 + 2]? = some (.int .i64 (l.getD i default).c)
  | [], i, h => by simp at h
  | r :: l, i, h => by
    have e : rcells (r :: l) = .int .i64 r.f :: .int .i32 r.t :: .int .i64 r.c :: rcells l := rfl
    rw [e]
    cases i with
    | zero => exact ⟨rfl, rfl, rfl⟩
    | succ i =>
      have := rcells_at l i (by simpa using h)
      rw [show (i + 1) * 3 = i * 3 + 1 + 1 + 1 by omega]
      simpa using this
theorem rcells_one (l : List Rw) : ∀ u ∈ rcells l, u.oneCell' = true := by
  intro u hu
  obtain ⟨r, _, h⟩ := List.mem_flatMap.1 hu
  simp [rcell] at h
  rcases h with rfl | rfl | rfl <;> rfl
/-- Rows, in a slice of the call's own. -/
def RO (w : World) (B : Nat) (v : Value) (l : List Rw) : Prop := w.ownsRow B 117 3 v l.length (rcells l)
theorem RO.nil (w : World) (B : Nat) : RO w B (.slice none 0 0) [] := ⟨rfl, .inl ⟨rfl, rfl⟩⟩
theorem RO.same {w w' : World} {B : Nat} {v : Value} {l : List Rw} (h : RO w B v l) (hs : w.heap.size ≤ w'.heap.size) (hb : ∀ k, B ≤ k → k < w.heap.size → w'.heap[k]? = w.heap[k]?) : RO w' B v l := by
  obtain ⟨h1, h2⟩ := h
  refine ⟨h1, ?_⟩
  rcases h2 with h2 | ⟨g, cap, cur, hv, hg, hh, r⟩
  · exact .inl h2
  · refine .inr ⟨g, cap, cur, hv, hg, ?_, r⟩
    have hlt : g < w.heap.size := by
      rcases Nat.lt_or_ge g w.heap.size with h' | h'
      · exact h'
      · rw [Array.getElem?_eq_none h'] at hh; cases hh
    rw [hb g hg hlt]; exact hh
theorem RO.below {w w' : World} {B : Nat} {v : Value} {l : List Rw} (h : RO w B v l) (hb : Below w.heap.size w w') : RO w' B v l :=
  h.same hb.size (fun k _ h2 => hb.block k h2)
theorem RO.le {w : World} {B B' : Nat} {v : Value} {l : List Rw} (h : RO w B v l) (hB : B' ≤ B) : RO w B' v l := by
  obtain ⟨h1, h2 | ⟨g, cap, cur, hv, hg, r⟩⟩ := h
  · exact ⟨h1, .inl h2⟩
  · exact ⟨h1, .inr ⟨g, cap, cur, hv, Nat.le_trans hB hg, r⟩⟩
/-- Where rows lie. -/
theorem RO.form {w : World} {B : Nat} {v : Value} {l : List Rw} (h : RO w B v l) : (v = .slice none 0 0 ∧ l = []) ∨ ∃ g cap, v = .slice (some ⟨g, 0, none⟩) l.length cap ∧ B ≤ g ∧ g < w.heap.size ∧ l.length ≤ cap ∧ cap ≤ maxLen ∧
    ∀ i, i < l.length → w.cell? ⟨g, i * 3, none⟩ = some (.int .i64 (l.getD i default).f) ∧ w.cell? ⟨g, i * 3 + 1, none⟩ = some (.int .i32 (l.getD i default).t) ∧ w.cell? ⟨g, i * 3 + 2, none⟩ = some (.int .i64 (l.getD i default).c) := by
  obtain ⟨h1, ⟨h2, h3⟩ | ⟨g, cap, cur, rfl, hb, hg, hn, hm, hs, ht⟩⟩ := h
  · exact .inl ⟨h2, List.length_eq_zero_iff.1 h3⟩
  · refine .inr ⟨g, cap, rfl, hb, ?_, hn, hm, fun i hi => ?_⟩
    · rcases Nat.lt_or_ge g w.heap.size with h' | h'
      · exact h'
      · rw [Array.getElem?_eq_none h'] at hg; cases hg
    · have key : ∀ j u, j < l.length * 3 → (rcells l)[j]? = some u → w.cell? ⟨g, j, none⟩ = some u := fun j u hj hu => by
        rw [← ht, List.getElem?_take, if_pos hj, Array.getElem?_toList] at hu
        simp only [World.cell?, hg, Option.isSome_none, Bool.false_eq_true, if_false]
        exact hu
      obtain ⟨a, b, c⟩ := rcells_at l i hi
      exact ⟨key _ _ (by omega) a, key _ _ (by omega) b, key _ _ (by omega) c⟩
theorem RO.slice {w : World} {B : Nat} {v : Value} {l : List Rw} (h : RO w B v l) : ∃ A c, v = .slice A l.length c := by
  rcases h.form with ⟨rfl, rfl⟩ | ⟨g, cap, rfl, _⟩
  · exact ⟨none, 0, rfl⟩
  · exact ⟨_, _, rfl⟩
theorem RO.one {w : World} {B : Nat} {v : Value} {l : List Rw} (h : RO w B v l) : v.oneCell' = true := by
  obtain ⟨A, c, rfl⟩ := h.slice
  rfl
/-- Rows as a slice shows them, wherever they lie. -/
def RowRw (w : World) (A : Option Addr) (c : Nat) (l : List Rw) : Prop :=
  (A = none ∧ l = [] ∧ c = 0) ∨ ∃ g o, A = some ⟨g, o, none⟩ ∧ l.length ≤ c ∧ c ≤ maxLen ∧ g < w.heap.size ∧ ∀ i, i < l.length →
    w.cell? ⟨g, o + i * 3, none⟩ = some (.int .i64 (l.getD i default).f) ∧ w.cell? ⟨g, o + i * 3 + 1, none⟩ = some (.int .i32 (l.getD i default).t) ∧ w.cell? ⟨g, o + i * 3 + 2, none⟩ = some (.int .i64 (l.getD i default).c)
theorem RowRw.below {w w' : World} {A : Option Addr} {c : Nat} {l : List Rw} (h : RowRw w A c l) (hb : Below w.heap.size w w') : RowRw w' A c l := by
  rcases h with h | ⟨g, o, h1, h2, h3, h4, h5⟩
  · exact .inl h
  · have hB : ∀ k, w'.cell? ⟨g, k, none⟩ = w.cell? ⟨g, k, none⟩ := fun k => hb.cell (p := ⟨g, k, none⟩) h4
    exact .inr ⟨g, o, h1, h2, h3, Nat.lt_of_lt_of_le h4 hb.size, fun i hi => by
      obtain ⟨x, y, z⟩ := h5 i hi
      exact ⟨(hB _).trans x, (hB _).trans y, (hB _).trans z⟩⟩
theorem RowRw.at {w : World} {A : Option Addr} {c : Nat} {l : List Rw} (h : RowRw w A c l) (i : Nat) (hi : i < l.length) : ∃ g o, A = some ⟨g, o, none⟩ ∧ l.length ≤ c ∧ c ≤ maxLen ∧ g < w.heap.size ∧
    w.cell? ⟨g, o + i * 3, none⟩ = some (.int .i64 (l.getD i default).f) ∧ w.cell? ⟨g, o + i * 3 + 1, none⟩ = some (.int .i32 (l.getD i default).t) ∧ w.cell? ⟨g, o + i * 3 + 2, none⟩ = some (.int .i64 (l.getD i default).c) ∧ l.getD i default ∈ l := by
  rcases h with ⟨_, rfl, _⟩ | ⟨g, o, h1, h2, h3, h4, h5⟩
  · simp at hi
  · obtain ⟨x, y, z⟩ := h5 i hi
    exact ⟨g, o, h1, h2, h3, h4, x, y, z, by simp [List.getD, List.getElem?_eq_getElem hi]⟩
theorem RO.rows {w : World} {B : Nat} {v : Value} {l : List Rw} (h : RO w B v l) : ∃ A c, v = .slice A l.length c ∧ RowRw w A c l := by
  rcases h.form with ⟨rfl, rfl⟩ | ⟨g, cap, rfl, h2, h3, h4, h5, h6⟩
  · exact ⟨none, 0, rfl, .inl ⟨rfl, rfl, rfl⟩⟩
  · exact ⟨_, _, rfl, .inr ⟨g, 0, rfl, h4, h5, h3, fun i hi => by simpa using h6 i hi⟩⟩
/-- The rows from a place on. -/
theorem RowRw.drop {w : World} {g o c : Nat} {l : List Rw} (h : RowRw w (some ⟨g, o, none⟩) c l) (i : Nat) (hi : i ≤ l.length) : RowRw w (some ⟨g, o + i * 3, none⟩) (c - i) (l.drop i) := by
  rcases h with ⟨h, _⟩ | ⟨g', o', h1, h2, h3, h4, h5⟩
  · cases h
  · cases h1
    refine .inr ⟨g, o + i * 3, rfl, by rw [List.length_drop]; omega, by omega, h4, fun j hj => ?_⟩
    rw [List.length_drop] at hj
    have := h5 (i + j) (by omega)
    have e : (l.drop i).getD j default = l.getD (i + j) default := by simp [List.getD]
    rw [e, show o + i * 3 + j * 3 = o + (i + j) * 3 by omega]
    exact this
end Go.Proofs.YtbgbgigpcegenaaGreatDoor.tb
namespace Go.Proofs.YtbgbgigpcegenaaGreatDoor.tb
open Go.RowKit Go.Lib
set_option linter.unusedVariables false
theorem wrap64 {x : Int} (h0 : -9223372036854775808 ≤ x) (h1 : x ≤ 9223372036854775807) : IntKind.i64.wrap x = x := by simp [IntKind.wrap, IntKind.bits, IntKind.signed]; omega
theorem wrap32 {x : Int} (h0 : -2147483648 ≤ x) (h1 : x ≤ 2147483647) : IntKind.i32.wrap x = x := by simp [IntKind.wrap, IntKind.bits, IntKind.signed]; omega
theorem rInt {k : IntKind} {a b : Int} (h : a = b) : Ending.returned (.int k a) = .returned (.int k b) := by rw [h]
set_option maxRecDepth 100000 in
theorem end_any (f t c : Int) (w : World) (h0 : -9223372036854775808 ≤ f + c) (h1 : f + c ≤ 9223372036854775807) :
    Calls Tryz.prog 168 #[.agg #[.int .i64 f, .int .i32 t, .int .i64 c]] w fun e w' => e = .returned (.int .i64 (f + c)) ∧ Below w.heap.size w w' := by
  have e1 : IntKind.i64.wrap (f + c) = f + c := wrap64 h0 h1
  go_enter Tryz.func168, Tryz.ntmps168
  go_wp2
  go_ret
  exact ⟨rfl, (Below.refl _ _).alloc (Nat.le_refl _) _⟩
set_option maxRecDepth 100000 in
theorem last_any (f t c : Int) (w : World) (h0 : -2147483648 ≤ t + c - 1) (h1 : t + c - 1 ≤ 2147483647) (c0 : 1 ≤ c) (c1 : c ≤ 1048576) (t0 : -2147483648 ≤ t) (t1 : t ≤ 2147483647) :
    Calls Tryz.prog 138 #[.agg #[.int .i64 f, .int .i32 t, .int .i64 c]] w fun e w' => e = .returned (.int .i32 (t + c - 1)) ∧ Below w.heap.size w w' := by
  have e1 : IntKind.i64.wrap (c - 1) = c - 1 := wrap64 (by omega) (by omega)
  have e2 : IntKind.i32.wrap (c - 1) = c - 1 := wrap32 (by omega) (by omega)
  have e3 : IntKind.i32.wrap (t + (c - 1)) = t + c - 1 := by rw [wrap32 (by omega) (by omega)]; omega
  go_enter Tryz.func138, Tryz.ntmps138
  go_wp2
  go_ret
  exact ⟨rfl, (Below.refl _ _).alloc (Nat.le_refl _) _⟩
set_option maxRecDepth 100000 in
theorem sign_any (f t c x : Int) (w : World) (h0 : f ≤ x) (h1 : x ≤ f + 1048576) (t0 : 0 ≤ t) (t1 : t + (x - f) ≤ 2147483647) (f0 : 0 ≤ f) (f1 : f ≤ 1048576) :
    Calls Tryz.prog 89 #[.agg #[.int .i64 f, .int .i32 t, .int .i64 c], .int .i64 x] w fun e w' => e = .returned (.int .i32 (t + (x - f))) ∧ Below w.heap.size w w' := by
  have e1 : IntKind.i64.wrap (x - f) = x - f := wrap64 (by omega) (by omega)
  have e2 : IntKind.i32.wrap (x - f) = x - f := wrap32 (by omega) (by omega)
  have e3 : IntKind.i32.wrap (t + (x - f)) = t + (x - f) := wrap32 (by omega) (by omega)
  go_enter Tryz.func89, Tryz.ntmps89
  go_wp2
  go_ret
  exact ⟨rfl, (Below.refl _ _).alloc (Nat.le_refl _) _⟩
set_option maxRecDepth 100000 in
theorem code_any (f t c p : Int) (w : World) (h0 : t ≤ p) (h1 : p ≤ t + 1048576) (t0 : 0 ≤ t) (t1 : t ≤ 1114112) (f0 : 0 ≤ f) (f1 : f ≤ 1048576) :
    Calls Tryz.prog 98 #[.agg #[.int .i64 f, .int .i32 t, .int .i64 c], .int .i32 p] w fun e w' => e = .returned (.int .i64 (f + (p - t))) ∧ Below w.heap.size w w' := by
  have e1 : IntKind.i32.wrap (p - t) = p - t := wrap32 (by omega) (by omega)
  have e2 : IntKind.i64.wrap (p - t) = p - t := wrap64 (by omega) (by omega)
  have e3 : IntKind.i64.wrap (f + (p - t)) = f + (p - t) := wrap64 (by omega) (by omega)
  go_enter Tryz.func98, Tryz.ntmps98
  go_wp2
  go_ret
  exact ⟨rfl, (Below.refl _ _).alloc (Nat.le_refl _) _⟩
/-- Where a code stands. -/
def side (r : Rw) (x : Int) : Int := if x < r.f then -1 else if r.f + r.c ≤ x then 1 else 0
set_option maxRecDepth 100000 in
theorem side_any (r : Rw) (x : Int) (w : World) (hr : r.ok) :
    Calls Tryz.prog 134 #[.agg #[.int .i64 r.f, .int .i32 r.t, .int .i64 r.c], .int .i64 x] w fun e w' => e = .returned (.int .i64 (side r x)) ∧ Below w.heap.size w w' := by
  obtain ⟨f0, c1, f1, _, _⟩ := hr
  unfold side
  generalize r.f = f at *
  generalize r.t = t at *
  generalize r.c = c at *
  have HE := Lib.hid (fun w => end_any f t c w (by omega) (by omega))
  generalize hE : f + c = E at *
  clear hE
  by_cases h1 : x < f
  · rw [if_pos h1]
    go_enter Tryz.func134, Tryz.ntmps134
    go_wp2_with fail
    go_ret
    exact ⟨rfl, (Below.refl _ _).alloc (Nat.le_refl _) _⟩
  · rw [if_neg h1]
    by_cases h2 : E ≤ x
    · rw [if_pos h2]
      go_enter Tryz.func134, Tryz.ntmps134
      go_wp2_with (go_at_call 168; refine (HE.out _).mono ?_; rintro e1 w1 ⟨rfl, hb1⟩)
      go_ret
      exact ⟨rfl, ((Below.refl _ w).alloc (Nat.le_refl _) _).trans (hb1.mono (by simp))⟩
    · rw [if_neg h2]
      go_enter Tryz.func134, Tryz.ntmps134
      go_wp2_with (go_at_call 168; refine (HE.out _).mono ?_; rintro e1 w1 ⟨rfl, hb1⟩)
      go_ret
      exact ⟨rfl, ((Below.refl _ w).alloc (Nat.le_refl _) _).trans (hb1.mono (by simp))⟩
set_option maxRecDepth 100000 in
theorem tells_any (r : Rw) (p : Int) (w : World) (hr : r.ok) :
    Calls Tryz.prog 97 #[.agg #[.int .i64 r.f, .int .i32 r.t, .int .i64 r.c], .int .i32 p] w fun e w' => e = .returned (.bool (tel r p)) ∧ Below w.heap.size w w' := by
  obtain ⟨f0, c1, f1, t0, t1⟩ := hr
  unfold tel
  generalize r.f = f at *
  generalize r.t = t at *
  generalize r.c = c at *
  have HE := Lib.hid (fun w => last_any f t c w (by omega) (by omega) (by omega) (by omega) (by omega) (by omega))
  generalize hE : t + c - 1 = E at *
  clear hE
  by_cases h1 : t ≤ p
  · by_cases h2 : p ≤ E
    · go_enter Tryz.func97, Tryz.ntmps97
      go_wp2_with (go_at_call 138; refine (HE.out _).mono ?_; rintro e1 w1 ⟨rfl, hb1⟩)
      go_ret
      exact ⟨by simp; omega, ((Below.refl _ w).alloc (Nat.le_refl _) _).trans (hb1.mono (by simp))⟩
    · go_enter Tryz.func97, Tryz.ntmps97
      go_wp2_with (go_at_call 138; refine (HE.out _).mono ?_; rintro e1 w1 ⟨rfl, hb1⟩)
      go_ret
      exact ⟨by simp; omega, ((Below.refl _ w).alloc (Nat.le_refl _) _).trans (hb1.mono (by simp))⟩
  · have h0 := h1
    go_enter Tryz.func97, Tryz.ntmps97
    go_wp2_with fail
    go_ret
    exact ⟨by rw [decide_eq_false (show ¬ t ≤ p by omega)]; rfl, (Below.refl _ _).alloc (Nat.le_refl _) _⟩
/-- A block of three words. -/
structure F3 (w : World) (b : Nat) (x y z : Value) : Prop where
  lt : b < w.heap.size
  c0 : w.cell? ⟨b, 0, none⟩ = some x
  c1 : w.cell? ⟨b, 1, none⟩ = some y
  c2 : w.cell? ⟨b, 2, none⟩ = some z
  fr : ∀ i, w.frozen? ⟨b, i, none⟩ = false
theorem F3.below {w w' : World} {b B : Nat} {x y z : Value} (h : F3 w b x y z) (hb : Below B w w') (hB : b < B) : F3 w' b x y z :=
  ⟨Nat.lt_of_lt_of_le h.lt hb.size, (hb.cell (p := ⟨b, 0, none⟩) hB).trans h.c0, (hb.cell (p := ⟨b, 1, none⟩) hB).trans h.c1, (hb.cell (p := ⟨b, 2, none⟩) hB).trans h.c2, fun i => (hb.frozen (p := ⟨b, i, none⟩) hB).trans (h.fr i)⟩
theorem f3_new (w : World) (x y z : Value) (t : Nat) : F3 (w.alloc (.cells #[x, y, z] t)) w.heap.size x y z := by
  refine ⟨by simp, ?_, ?_, ?_, fun i => by simp⟩ <;> (rw [World.cell?_alloc_mark]; rfl)
set_option maxRecDepth 100000 in
theorem part_any (f t c x y : Int) (w : World) (h0 : f ≤ x) (h1 : x ≤ f + 1048576) (t0 : 0 ≤ t) (t1 : t + (x - f) ≤ 2147483647) (f0 : 0 ≤ f) (f1 : f ≤ 1048576) (y0 : 0 ≤ y) (y1 : y ≤ 1048576) :
    Calls Tryz.prog 169 #[.agg #[.int .i64 f, .int .i32 t, .int .i64 c], .int .i64 x, .int .i64 y] w fun e w' => e = .returned (.agg #[.int .i64 x, .int .i32 (t + (x - f)), .int .i64 (y - x)]) ∧ Below w.heap.size w w' := by
  have e1 : IntKind.i64.wrap (y - x) = y - x := wrap64 (by omega) (by omega)
  have HS := Lib.hid (fun w => sign_any f t c x w h0 h1 t0 t1 f0 f1)
  generalize t + (x - f) = T at *
  go_enter Tryz.func169, Tryz.ntmps169
  go_wp2_with (go_at_call 89; refine (HS.out _).mono ?_; rintro e1 w1 ⟨rfl, hb1⟩; have FB : Hid (F3 w1 (w.heap.size + 1) (.int .i64 0) (.int .i32 0) (.int .i64 0)) := Lib.hid (by have X := (f3_new (w.alloc (.cells #[.int .i64 f, .int .i32 t, .int .i64 c] 117)) (.int .i64 0) (.int .i32 0) (.int .i64 0) 117).below hb1 (by simp); rwa [World.size_alloc] at X); obtain ⟨g0, g1, g2, g3, g4⟩ := FB.out; have HB := Lib.hid (((((Below.refl w.heap.size w).alloc (Nat.le_refl _) _).alloc (by simp) _)).trans (hb1.mono (by simp; omega))); clear hb1)
  refine bodyPost_ret (v := .agg #[.int .i64 x, .int .i32 T, .int .i64 (y - x)]) (by simp [results, Tryz.results169, go_sem, g1, g2, g3]) rfl ⟨rfl, ?_⟩
  exact (((HB.out.setCell (p := ⟨w.heap.size + 1, 0, none⟩) (by simp) _).setCell (p := ⟨w.heap.size + 1, 1, none⟩) (by simp) _).setCell (p := ⟨w.heap.size + 1, 2, none⟩) (by simp) _)
end Go.Proofs.YtbgbgigpcegenaaGreatDoor.tb
namespace Go.Proofs.YtbgbgigpcegenaaGreatDoor.tb
open Go
set_option linter.unusedVariables false
section
variable {P : Program} {ops : Array Oper} {Q : Exit → Act → World → Prop} {md : Region.Mode} {S : World → Prop} {k : Nat}
/-- In whatever order; S holds behind each operation but number k. -/
def OnBut (P : Program) (md : Region.Mode) (ops : Array Oper) (Q : Exit → Act → World → Prop) (S : World → Prop) (k : Nat) : Nat → Array Bool → Act → World → Prop
  | 0, l, a, w => Region.ready md ops l = [] ∧ Q .normal a w
  | n + 1, l, a, w => (Region.ready md ops l = [] → Q .normal a w) ∧ ∀ j ∈ Region.ready md ops l, wpOp P ops Q j (fun b v => (j ≠ k → S v) ∧ OnBut P md ops Q S k n (l.setIfInBounds j true) b v) a w
theorem OnBut.any : ∀ (n : Nat) (l : Array Bool) (a : Act) (w : World), OnBut P md ops Q S k n l a w → wpAny P md ops Q n l a w
  | 0, _, _, _, h => h
  | n + 1, _, _, _, h => ⟨h.1, fun j hj => wpOp_mono (fun b v hv => OnBut.any n _ b v hv.2) (h.2 j hj)⟩
/-- Number k waits for number i. -/
def waitsFor (md : Region.Mode) (ops : Array Oper) (k i : Nat) : Bool := match ops[k]? with
  | some o => o.after.toList.any fun e => Region.binds md e && e.on == i
  | none => false
theorem waits_not {i : Nat} {l : Array Bool} (hw : waitsFor md ops k i = true) (hl : l.getD i true = false) : k ∉ Region.ready md ops l := fun h => by
  obtain ⟨_, o, ho, ha⟩ := mem_ready.1 h
  unfold waitsFor at hw
  rw [ho] at hw
  simp only [List.any_eq_true, Bool.and_eq_true, beq_iff_eq] at hw
  obtain ⟨e, he, hb, rfl⟩ := hw
  have he := Array.mem_toList_iff.1 he
  have h1 := ha e he hb
  rcases Nat.lt_or_ge e.on l.size with hs | hs
  · simp [hs] at h1 hl; rw [hl] at h1; cases h1
  · simp [Array.getElem?_eq_none hs] at h1
theorem OnBut.load {i : Nat} {oi : Oper} {v : Value} (hi : ops[i]? = some oi) (hs : Region.noSelect ops = true) (hw : waitsFor md ops k i = true)
    (hQ : ∀ c a w, Q (.panic c) (a.put oi.dst v) w → Q (.panic c) a w) : ∀ (n : Nat) (l : Array Bool) (a : Act) (w : World),
      (∀ j oj, ops[j]? = some oj → j ≠ i → l.getD j true = false → (∀ e ∈ oj.after, Region.binds md e = true → e.on ≠ i) → oi.apart ops oj = true) →
      i ∈ Region.ready md ops l → YieldsIf P ops S oi v a → S w → OnBut P md ops Q S k n (l.setIfInBounds i true) (a.put oi.dst v) w → OnBut P md ops Q S k (n + 1) l a w := by
  have hsel := Region.noSelect_spec hs
  intro n
  induction n with
  | zero =>
    intro l a w _ hr hy hS H
    refine ⟨fun h => (by rw [h] at hr; cases hr), fun j hj => ?_⟩
    by_cases e : j = i
    · subst e; exact hy.wpOp hi hS ⟨fun _ => hS, H⟩
    · have := ready_mono hj e
      rw [H.1] at this
      cases this
  | succ n ih =>
    intro l a w hfree hr hy hS H
    refine ⟨fun h => (by rw [h] at hr; cases hr), fun j hj => ?_⟩
    by_cases e : j = i
    · subst e; exact hy.wpOp hi hS ⟨fun _ => hS, H⟩
    have hli := (mem_ready.1 hr).1
    have hjk : j ≠ k := fun hjk => by subst hjk; exact waits_not hw hli hj
    obtain ⟨hlj, oj, hoj, hall⟩ := mem_ready.1 hj
    have hnot : ∀ e ∈ oj.after, Region.binds md e = true → e.on ≠ i := fun e he hb heq => by
      have h1 := hall e he hb
      rw [heq] at h1
      rcases Nat.lt_or_ge i l.size with hs | hs
      · simp [hs] at hli h1; rw [hli] at h1; cases h1
      · simp [Array.getElem?_eq_none hs] at h1
    refine wpOp_mono (fun b v' h3 => ?_) (wpOp_putIf hoj (hfree j oj hoj e hlj hnot) (fun cs b => hsel i oi cs b hi) (fun cs b => hsel j oj cs b hoj) hQ hy (H.2 j (ready_mono hj e)))
    have hS' := h3.2.1 hjk
    refine ⟨fun _ => hS', ih _ b v' (fun m om hom hmi hun hno => hfree m om hom hmi ?_ hno) (ready_mono hr (Ne.symm e)) h3.1 hS' ?_⟩
    · by_cases hjm : j = m
      · subst hjm; exact hlj
      · rwa [getD_set_ne true hjm] at hun
    · rw [Array.setIfInBounds_comm _ _ e]
      exact h3.2.2
theorem OnBut.take {i : Nat} {oi : Oper} {v : Value} {n : Nat} {l : Array Bool} {a : Act} {w : World} (hi : ops[i]? = some oi)
    (hs : Region.noSelect ops = true) (hf : Region.free md ops l i = true) (hr : (Region.ready md ops l).contains i = true) (hw : waitsFor md ops k i = true)
    (hQ : ∀ c a w, Q (.panic c) (a.put oi.dst v) w → Q (.panic c) a w) (hy : YieldsIf P ops S oi v a) (hS : S w)
    (h : OnBut P md ops Q S k n (l.setIfInBounds i true) (a.put oi.dst v) w) : OnBut P md ops Q S k (n + 1) l a w :=
  OnBut.load hi hs hw hQ n l a w (Region.free_spec hi hf) (by simpa using hr) hy hS h
/-- One alone may come up. -/
theorem OnBut.one {i : Nat} {o : Oper} {n : Nat} {l : Array Bool} {a : Act} {w : World} (hr : Region.ready md ops l = [i]) (ho : ops[i]? = some o)
    (h : ∀ K : Act → World → Prop, Shut (∀ a w, (i ≠ k → S w) → ((i ≠ k → S w) → OnBut P md ops Q S k n (l.setIfInBounds i true) a w) → K a w) → if Region.wanted o (yielded ops a.tmps) = true then Oper.wp P o a w K Q else K (a.put o.dst undef) w) :
    OnBut P md ops Q S k (n + 1) l a w :=
  ⟨fun h0 => (by rw [hr] at h0; cases h0), fun j hj => by
    rw [hr, List.mem_singleton] at hj
    subst hj
    exact wpOp_step ho fun K hK => h K fun a w h1 h2 => hK a w ⟨h1, h2 h1⟩⟩
theorem OnBut.done {n : Nat} {l : Array Bool} {a : Act} {w : World} (hr : Region.ready md ops l = []) (h : Q .normal a w) : OnBut P md ops Q S k n l a w := by
  cases n with
  | zero => exact ⟨hr, h⟩
  | succ n => exact ⟨fun _ => h, by rw [hr]; simp⟩
theorem OnBut.start {id : Nat} {a : Act} {w : World} (hm : P.follows .mixedOrders = true) (S : World → Prop) (k : Nat) (h : OnBut P .any ops Q S k ops.size (Array.replicate ops.size false) a w.drew) : (Code.region id ops true).wp P Q a w :=
  wp_region_any hm (OnBut.any _ _ _ _ h)
end
end Go.Proofs.YtbgbgigpcegenaaGreatDoor.tb
namespace Go.Proofs.YtbgbgigpcegenaaGreatDoor.tb
open Go.RowKit Go.Lib
set_option linter.unusedVariables false
set_option maxRecDepth 100000 in
set_option maxHeartbeats 2000000 in
theorem sortFind_any (g : Nat) (lb : Array Value) (cm : Nat → Int) (n : Nat) (w : World) (hn : n ≤ 1000000000)
    (eg : ∀ args w, (callFunc g args).run Tryz.prog w = .ok (.enter g args) w)
    (hC : ∀ W, Below w.heap.size w W → ∀ h : Nat, h < n → Calls Tryz.prog g (#[.int .i64 h] ++ lb) W fun e w' => e = .returned (.int .i64 (cm h)) ∧ Below w.heap.size w w')
    (hm : ∀ i j : Nat, i ≤ j → j < n → cm i ≤ 0 → cm j ≤ 0) :
    Calls Tryz.prog 132 #[.int .i64 n, .func (.func g) #[] lb] w fun e w' => ∃ i : Nat, i ≤ n ∧ (∀ j, j < i → 0 < cm j) ∧ (∀ j, i ≤ j → j < n → cm j ≤ 0) ∧ e = .returned (.tuple #[.int .i64 i, .bool (decide (i < n ∧ cm i = 0))]) ∧ Below w.heap.size w w' := by
  have HC := Lib.hid hC; have HM := Lib.hid hm
  clear hC hm
  go_enter Tryz.func132, Tryz.ntmps132
  go_wp2
  go_loopw [4, 6] (fun a b wr => ∃ i j : Nat, i ≤ j ∧ j ≤ n ∧ a = .int .i64 i ∧ b = .int .i64 j ∧ (∀ k, k < i → 0 < cm k) ∧ (∀ k, j ≤ k → k < n → cm k ≤ 0) ∧ Below w.heap.size w wr) (fun a b _ => (RowKit.intOf b).toNat - (RowKit.intOf a).toNat)
  case atStart => exact ⟨0, n, Nat.zero_le _, Nat.le_refl _, rfl, rfl, fun k hk => absurd hk (Nat.not_lt_zero _), fun k h1 h2 => absurd h2 (by omega), Below.refl _ _⟩
  case round =>
    obtain ⟨i, j, hij, hj, rfl, rfl, hlo, hhi, hB⟩ := hrel
    have HLO := Lib.hid hlo; have HHI := Lib.hid hhi; have HB := Lib.hid hB
    clear hlo hhi hB
    by_cases hlt : i < j
    · obtain ⟨h, hh⟩ : ∃ h, h = (i + j) / 2 := ⟨_, rfl⟩
      have HH := Lib.hid hh
      have hlh : h < n := by omega
      have hcast : ((h : Nat) : Int) = ((i : Int) + (j : Int)) / 2 := by omega
      have HCH : Hid (∀ W, Below w.heap.size w W → Calls Tryz.prog g (#[.int .i64 (((i : Int) + (j : Int)) / 2)] ++ lb) W fun e w' => e = .returned (.int .i64 (cm h)) ∧ Below w.heap.size w w') := Lib.hid (fun W hW => by have := HC.out W hW h hlh; rwa [hcast] at this)
      have e1 : IntKind.i64.wrap ((i : Int) + (j : Int)) = (i : Int) + (j : Int) := wrap64 (by omega) (by omega)
      have e2 : IntKind.u64.wrap ((i : Int) + (j : Int)) = (i : Int) + (j : Int) := by simp [IntKind.wrap, IntKind.bits, IntKind.signed]; omega
      have HI := Lib.hid hcast
      clear hh hcast
      by_cases hc : 0 < cm h
      · have hgo : ∀ k, k < h + 1 → 0 < cm k := fun k hk => by
          apply Classical.byContradiction
          intro hk0
          have := HM.out k h (by omega) hlh (by omega)
          omega
        have HGO := Lib.hid hgo
        clear hgo
        generalize cm h = C at *
        go_wp2_with (go_at_fn g; refine (HCH.out _ HB.out).mono ?_; rintro e1 w1 ⟨rfl, hb1⟩)
        go_roundw
        case rel => have := HH.out; exact ⟨h + 1, j, by omega, hj, by rw [← HI.out]; congr 1, rfl, HGO.out, HHI.out, hb1⟩
        case measure => simp [RowKit.intOf]; omega
      · have hgo : ∀ k, h ≤ k → k < n → cm k ≤ 0 := fun k h1 h2 => HM.out h k h1 h2 (by omega)
        have HGO := Lib.hid hgo
        clear hgo
        generalize cm h = C at *
        go_wp2_with (go_at_fn g; refine (HCH.out _ HB.out).mono ?_; rintro e1 w1 ⟨rfl, hb1⟩)
        go_roundw
        case rel => have := HH.out; exact ⟨i, h, by omega, by omega, rfl, by rw [HI.out], HLO.out, HGO.out, hb1⟩
        case measure => simp [RowKit.intOf]; omega
    · obtain rfl : i = j := by omega
      by_cases hn2 : i < n
      · have HCI := Lib.hid (fun W hW => HC.out W hW i hn2)
        have HLT := Lib.hid hn2
        generalize hC : cm i = C at *
        have HCC := Lib.hid hC
        clear hC
        have HD : Hid (decide (i < n ∧ cm i = 0) = (C == 0)) := Lib.hid (by rw [HCC.out, Bool.eq_iff_iff]; simp [HLT.out])
        go_wp2_with (go_at_fn g; refine (HCI.out _ HB.out).mono ?_; rintro e1 w1 ⟨rfl, hb1⟩)
        go_ret2
        exact ⟨i, hj, HLO.out, HHI.out, by rw [HD.out]; rfl, hb1⟩
      · go_wp2_with fail
        go_ret2
        exact ⟨i, hj, HLO.out, HHI.out, by rw [decide_eq_false (show ¬ (i < n ∧ cm i = 0) from fun h => hn2 h.1)]; rfl, HB.out⟩
set_option maxRecDepth 100000 in
set_option maxHeartbeats 2000000 in
theorem findC_any (A : Option Addr) (n c : Nat) (l : List Rw) (x : Int) (bt bc : Nat) (i : Nat) (w : World) (h : RowRw w A c l) (hn : n = l.length) (hok : ∀ r ∈ l, r.ok) (hi : i < n) (ht : w.cell? ⟨bt, 0, none⟩ = some (.slice A n c)) (hc : w.cell? ⟨bc, 0, none⟩ = some (.int .i64 x)) (ltt : bt < w.heap.size) (ltc : bc < w.heap.size) :
    Calls Tryz.prog 133 (#[.int .i64 i] ++ #[.pointer (some ⟨bt, 0, none⟩), .pointer (some ⟨bc, 0, none⟩)]) w fun e w' => e = .returned (.int .i64 (side (l.getD i default) x)) ∧ Below w.heap.size w w' := by
  obtain ⟨g, o, rfl, a1, a2, a3, k0, k1, k2, hmem⟩ := h.at i (by omega)
  have hr := hok _ hmem
  have HS := Lib.hid (fun w => side_any (l.getD i default) x w hr)
  generalize side (l.getD i default) x = SD at *
  generalize l.getD i default = r at *
  show Calls Tryz.prog 133 #[.int .i64 i, .pointer (some ⟨bt, 0, none⟩), .pointer (some ⟨bc, 0, none⟩)] w _
  rw [← hn] at a1
  unfold maxLen at a2
  clear hr hmem hok h hn
  go_enter Tryz.func133, Tryz.ntmps133
  go_wp2_with fail
  go_region_held3 (fun w' => w'.cell? ⟨bt, 0, none⟩ = some (.slice (some ⟨g, o, none⟩) n c) ∧ w'.cell? ⟨bc, 0, none⟩ = some (.int .i64 x) ∧ w'.cell? ⟨g, o + i * 3, none⟩ = some (.int .i64 r.f) ∧ w'.cell? ⟨g, o + i * 3 + 1, none⟩ = some (.int .i32 r.t) ∧ w'.cell? ⟨g, o + i * 3 + 2, none⟩ = some (.int .i64 r.c)) (go_keep) (first | (go_at_call 134; refine (HS.out _).mono ?_; rintro e1 w1 ⟨rfl, hb1⟩; have y1 := (hb1.cell (p := ⟨bt, 0, none⟩) ltt).trans ht; have y2 := (hb1.cell (p := ⟨bc, 0, none⟩) ltc).trans hc; have y3 := (hb1.cell (p := ⟨g, o + i * 3, none⟩) a3).trans k0; have y4 := (hb1.cell (p := ⟨g, o + i * 3 + 1, none⟩) a3).trans k1; have y5 := (hb1.cell (p := ⟨g, o + i * 3 + 2, none⟩) a3).trans k2; have HB := Lib.hid hb1; clear hb1))
  all_goals go_wp2_with fail
  all_goals go_ret
  all_goals exact ⟨rfl, ((Below.refl _ w).drew).trans HB.out⟩
end Go.Proofs.YtbgbgigpcegenaaGreatDoor.tb
namespace Go.Proofs.YtbgbgigpcegenaaGreatDoor.tb
open Go.RowKit Go.Lib
set_option linter.unusedVariables false
/-- The pairs of pieces, or the first that is refused. -/
def mk : Nat → List (Int × Int) → List Pce → Option (List (Int × Int)) × Int
  | _, all, [] => (some all, -1)
  | i, all, p :: ps => match piece p.f p.t p.c p.s with
    | none => (none, (i : Int))
    | some more => match join all more with
      | none => (none, (i : Int))
      | some r => mk (i + 1) r ps
def made (l : List Pce) : Option (List (Int × Int)) × Int := mk 0 [] l
end Go.Proofs.YtbgbgigpcegenaaGreatDoor.tb
namespace Go.Proofs.YtbgbgigpcegenaaGreatDoor.tb
open Go.RowKit Go.Lib
set_option linter.unusedVariables false
/-- A block of one word. -/
structure F1 (w : World) (b : Nat) (X : Value) : Prop where
  lt : b < w.heap.size
  c0 : w.cell? ⟨b, 0, none⟩ = some X
  f0 : w.frozen? ⟨b, 0, none⟩ = false
theorem F1.below {w w' : World} {b B : Nat} {X : Value} (h : F1 w b X) (hb : Below B w w') (hB : b < B) : F1 w' b X :=
  ⟨Nat.lt_of_lt_of_le h.lt hb.size, (hb.cell (p := ⟨b, 0, none⟩) hB).trans h.c0, (hb.frozen (p := ⟨b, 0, none⟩) hB).trans h.f0⟩
theorem f1_new (w : World) (X : Value) (t : Nat) : F1 (w.alloc (.cells #[X] t)) w.heap.size X := by
  refine ⟨by simp, ?_, ?_⟩
  · rw [World.cell?_alloc_mark]; rfl
  · simp
end Go.Proofs.YtbgbgigpcegenaaGreatDoor.tb
namespace Go.Proofs.YtbgbgigpcegenaaGreatDoor.tb
open Go.RowKit Go.Lib
set_option linter.unusedVariables false
/-- The blocks from B on are as they were. -/
def Same (B : Nat) (w w' : World) : Prop := w.heap.size ≤ w'.heap.size ∧ ∀ k, B ≤ k → k < w.heap.size → w'.heap[k]? = w.heap[k]?
theorem Same.of {B : Nat} {w w' : World} (h : Below w.heap.size w w') : Same B w w' := ⟨h.size, fun k _ h2 => h.block k h2⟩
/-- A table's word, wherever its blocks begin. -/
def TE (TB : World → Nat → Value → List (Int × Int) → Prop) (w : World) (X : Value) (l : List (Int × Int)) : Prop := ∃ B, TB w B X l
/-- What of a table asks no function: how it stays. -/
structure TabS (K : World → Prop) (TB : World → Nat → Value → List (Int × Int) → Prop) : Prop where
  stay : ∀ w w', K w → Below w.heap.size w w' → K w'
  keep : ∀ w w' B X l, TB w B X l → Same B w w' → TB w' B X l
  one : ∀ w X l, TE TB w X l → X.oneCell' = true
  srt : ∀ w X l, TE TB w X l → Srt l
variable {K : World → Prop} {TB : World → Nat → Value → List (Int × Int) → Prop}
end Go.Proofs.YtbgbgigpcegenaaGreatDoor.tb
namespace Go.Proofs
open Go.Shelf
def Tryz.sortRows_ren : Go.Shelf.Ren := ⟨fun | 6 => 170 | 15 => 192 | 14 => 191 | 28 => 205 | 29 => 206 | 20 => 197 | 21 => 198 | 22 => 199 | 23 => 200 | 24 => 201 | 25 => 202 | 26 => 203 | 27 => 204 | 46 => 209 | 47 => 210 | 48 => 211 | 49 => 212 | 50 => 213 | 57 => 214 | n => n, fun | 22 => 46 | 24 => 117 | 25 => 185 | 3 => 3 | 39 => 121 | 0 => 0 | 53 => 155 | 55 => 103 | 4 => 4 | 46 => 203 | 45 => 202 | 50 => 83 | 5 => 5 | 9 => 9 | 66 => 211 | 70 => 215 | 76 => 217 | 77 => 218 | n => n, fun | n => n⟩
theorem Tryz.sortRows : Go.Proofs.SlLaysF0.n6 Tryz.prog Tryz.sortRows_ren := {
  mixed := by kernel_rfl
  f6 := ⟨Tryz.f170.name, by decide, Tryz.func170.trans (congrArg some (by kernel_rfl))⟩
  f14 := ⟨Tryz.f191.name, by decide, Tryz.func191.trans (congrArg some (by kernel_rfl))⟩
  f15 := Tryz.func192.trans (congrArg some (by kernel_rfl))
  f20 := ⟨Tryz.f197.name, by decide, Tryz.func197.trans (congrArg some (by kernel_rfl))⟩
  f21 := ⟨Tryz.f198.name, by decide, Tryz.func198.trans (congrArg some (by kernel_rfl))⟩
  f22 := ⟨Tryz.f199.name, by decide, Tryz.func199.trans (congrArg some (by kernel_rfl))⟩
  f23 := ⟨Tryz.f200.name, by decide, Tryz.func200.trans (congrArg some (by kernel_rfl))⟩
  f24 := ⟨Tryz.f201.name, by decide, Tryz.func201.trans (congrArg some (by kernel_rfl))⟩
  f25 := ⟨Tryz.f202.name, by decide, Tryz.func202.trans (congrArg some (by kernel_rfl))⟩
  f26 := ⟨Tryz.f203.name, by decide, Tryz.func203.trans (congrArg some (by kernel_rfl))⟩
  f27 := ⟨Tryz.f204.name, by decide, Tryz.func204.trans (congrArg some (by kernel_rfl))⟩
  f28 := Tryz.func205.trans (congrArg some (by kernel_rfl))
  f29 := Tryz.func206.trans (congrArg some (by kernel_rfl))
  f46 := ⟨Tryz.f209.name, by decide, Tryz.func209.trans (congrArg some (by kernel_rfl))⟩
  f47 := Tryz.func210.trans (congrArg some (by kernel_rfl))
  f48 := Tryz.func211.trans (congrArg some (by kernel_rfl))
  f49 := ⟨Tryz.f212.name, by decide, Tryz.func212.trans (congrArg some (by kernel_rfl))⟩
  f50 := ⟨Tryz.f213.name, by decide, Tryz.func213.trans (congrArg some (by kernel_rfl))⟩
  f57 := ⟨Tryz.f214.name, by decide, Tryz.func214.trans (congrArg some (by kernel_rfl))⟩
  t0 := Tryz.underlying0
  a0 := Tryz.isAgg0
  z0 := Tryz.sizeOf0
  v0 := Tryz.zeroValue0
  t3 := Tryz.underlying3
  a3 := Tryz.isAgg3
  z3 := Tryz.sizeOf3
  v3 := Tryz.zeroValue3
  t4 := Tryz.underlying4
  a4 := Tryz.isAgg4
  z4 := Tryz.sizeOf4
  v4 := Tryz.zeroValue4
  t5 := Tryz.underlying5
  a5 := Tryz.isAgg5
  z5 := Tryz.sizeOf5
  v5 := Tryz.zeroValue5
  t9 := Tryz.underlying9
  a9 := Tryz.isAgg9
  z9 := Tryz.sizeOf9
  v9 := Tryz.zeroValue9
  t22 := Tryz.underlying46
  a22 := Tryz.isAgg46
  z22 := Tryz.sizeOf46
  v22 := Tryz.zeroValue46
  t25 := Tryz.underlying185
  a25 := Tryz.isAgg185
  z25 := Tryz.sizeOf185
  v25 := Tryz.zeroValue185
  t39 := Tryz.underlying121
  a39 := Tryz.isAgg121
  z39 := Tryz.sizeOf121
  v39 := Tryz.zeroValue121
  t45 := Tryz.underlying202
  a45 := Tryz.isAgg202
  z45 := Tryz.sizeOf202
  v45 := Tryz.zeroValue202
  t46 := Tryz.underlying203
  a46 := Tryz.isAgg203
  z46 := Tryz.sizeOf203
  v46 := Tryz.zeroValue203
  t50 := Tryz.underlying83
  a50 := Tryz.isAgg83
  z50 := Tryz.sizeOf83
  v50 := Tryz.zeroValue83
  t53 := Tryz.underlying155
  a53 := Tryz.isAgg155
  z53 := Tryz.sizeOf155
  v53 := Tryz.zeroValue155
  t55 := Tryz.underlying103
  a55 := Tryz.isAgg103
  z55 := Tryz.sizeOf103
  v55 := Tryz.zeroValue103
  t66 := Tryz.underlying211
  a66 := Tryz.isAgg211
  z66 := Tryz.sizeOf211
  v66 := Tryz.zeroValue211
  t70 := Tryz.underlying215
  a70 := Tryz.isAgg215
  z70 := Tryz.sizeOf215
  v70 := Tryz.zeroValue215
  t76 := Tryz.underlying217
  a76 := Tryz.isAgg217
  z76 := Tryz.sizeOf217
  v76 := Tryz.zeroValue217
  t77 := Tryz.underlying218
  a77 := Tryz.isAgg218
  z77 := Tryz.sizeOf218
  v77 := Tryz.zeroValue218 }
def Tryz.idxRows_ren : Go.Shelf.Ren := ⟨fun | 6 => 95 | n => n, fun | 22 => 46 | 23 => 117 | 25 => 124 | 3 => 3 | 0 => 0 | 4 => 4 | n => n, fun | n => n⟩
theorem Tryz.idxRows : Go.Proofs.SlLaysH0.n6 Tryz.prog Tryz.idxRows_ren := {
  mixed := by kernel_rfl
  f6 := ⟨Tryz.f95.name, by decide, Tryz.func95.trans (congrArg some (by kernel_rfl))⟩
  t0 := Tryz.underlying0
  a0 := Tryz.isAgg0
  z0 := Tryz.sizeOf0
  v0 := Tryz.zeroValue0
  t3 := Tryz.underlying3
  a3 := Tryz.isAgg3
  z3 := Tryz.sizeOf3
  v3 := Tryz.zeroValue3
  t4 := Tryz.underlying4
  a4 := Tryz.isAgg4
  z4 := Tryz.sizeOf4
  v4 := Tryz.zeroValue4
  t22 := Tryz.underlying46
  a22 := Tryz.isAgg46
  z22 := Tryz.sizeOf46
  v22 := Tryz.zeroValue46
  t25 := Tryz.underlying124
  a25 := Tryz.isAgg124
  z25 := Tryz.sizeOf124
  v25 := Tryz.zeroValue124 }
def Tryz.cloneRows_ren : Go.Shelf.Ren := ⟨fun | 41 => 129 | n => n, fun | 22 => 46 | 23 => 117 | 4 => 4 | n => n, fun | n => n⟩
theorem Tryz.cloneRows : Go.Proofs.SlLaysE0.n41 Tryz.prog Tryz.cloneRows_ren := {
  mixed := by kernel_rfl
  f41 := ⟨Tryz.f129.name, by decide, Tryz.func129.trans (congrArg some (by kernel_rfl))⟩
  t4 := Tryz.underlying4
  a4 := Tryz.isAgg4
  z4 := Tryz.sizeOf4
  v4 := Tryz.zeroValue4
  t22 := Tryz.underlying46
  a22 := Tryz.isAgg46
  z22 := Tryz.sizeOf46
  v22 := Tryz.zeroValue46 }
end Go.Proofs
