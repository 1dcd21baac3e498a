/- The landed frame: Parse: a contract; all that the walks ask of layer 13. -/
import Derived.Test.YtkhajafjieofhaaFlM
namespace Go.Proofs.Ytkhajafjieofhaa.fl
open Go.RowKit Go.Lib
open Go.Proofs.Ytkhajafjieofhaa.un (bs bs_list bs_size bs_app bs_back size_list wrap64)
open Go.Proofs.Ytkhajafjieofhaa.fr Go.Proofs.Ytkhajafjieofhaa.bk
open Go.Proofs.Ytkhajafjieofhaa.oct (Rd Upd num num7)
open Go.Proofs.Ytkhajafjieofhaa.fn (PaP vF vH f0 Fm)
set_option linter.unusedVariables false
def RS.pos : RS → Nat
  | .on k => k
  | .off k a => k
theorem plS_pos (q : Int) (st : RS) : plS q st = q + (st.pos : Int) := by cases st <;> rfl
theorem tak_pos {t : ByteArray} {q : Int} {n : Nat} {st : RS} (h : st.pos ≤ t.size) : (takS t q n st).2.pos ≤ t.size := by
  cases st with
  | on k =>
    by_cases hn : k + n ≤ t.size
    · rw [tak_y hn]; exact hn
    · rw [tak_n hn]; exact h
  | off k a => exact h
theorem tak_size {t : ByteArray} {q : Int} {n : Nat} {st : RS} : (takS t q n st).1.size ≤ t.size := by
  cases st with
  | on k =>
    by_cases hn : k + n ≤ t.size
    · rw [tak_y hn]; show (t.extract k (k + n)).size ≤ _; rw [ByteArray.size_extract]; omega
    · rw [tak_n hn]; exact Nat.zero_le _
  | off k a => exact Nat.zero_le _
theorem saf_pos {t : ByteArray} {q : Int} {st : RS} (h : st.pos ≤ t.size) : (safS t q st).2.pos ≤ t.size := by
  cases st with
  | on k =>
    by_cases hn : k + 4 ≤ t.size
    · cases hh : hi7 ((t.data.toList.drop k).take 4) with
      | none => rw [saf_y hn hh]; exact hn
      | some j => rw [saf_h hn hh]; exact hn
    · rw [saf_n hn]; exact h
  | off k a => exact h
theorem nam_pos {v : Int} {t : ByteArray} {q : Int} {k : Nat} (h : k ≤ t.size) : (namS v t q k).2.pos ≤ t.size := by
  unfold namS
  split
  · rename_i hn
    split
    · exact hn
    · have := (pp_prp (t.extract k (k + ltrs v))).le
      rw [ByteArray.size_extract] at this
      show k + prp (t.extract k (k + ltrs v)) ≤ t.size
      omega
  · exact h
theorem siz_pos {v : Int} {t : ByteArray} {q : Int} {st : RS} (h : st.pos ≤ t.size) : (sizS v t q st).2.pos ≤ t.size := by
  unfold sizS
  split
  · exact tak_pos h
  · split
    · exact tak_pos h
    · exact saf_pos h
theorem flg_pos {v : Int} {t : ByteArray} {q : Int} {st : RS} (h : st.pos ≤ t.size) : (flgS v t q st).2.2.pos ≤ t.size := by
  unfold flgS
  split
  · exact h
  · exact tak_pos (tak_pos h)
theorem fmtS_lt {v : Int} {sp : Bool} {t : ByteArray} {q : Int} {st : RS} : fmtS v sp (flgS v t q st).2.1 < 256 := by
  have h : (flgS v t q st).2.1 < 256 := by
    unfold flgS
    split
    · exact Nat.zero_lt_succ _
    · have := bigS_lt t q 1 (bigS t q 1 st).2; simpa using this
  have := fmt_eq v sp (UInt8.ofNat (flgS v t q st).2.1)
  rw [show (UInt8.ofNat (flgS v t q st).2.1).toNat = (flgS v t q st).2.1 by simp; omega] at this
  rw [this]
  exact UInt8.toNat_lt _
theorem parse_any (v : Int) (sp : Bool) (b : Nat) (t : ByteArray) (k : Nat) (q : Int) (w : World) (h : Rd w b t k q 0 0) (hk : k ≤ t.size) (ht : t.size ≤ 4000) (z0 : 0 ≤ q) (z1 : q ≤ 1099511627776) : Calls Try.prog 25 #[.int .i64 v, .pointer (some ⟨b, 0, none⟩), .bool sp] w (PaP v sp b t k q w (pa v sp (t.data.toList.drop k))) := by
  have hz : Sz t q := ⟨by omega, z0, by omega⟩
  have hR : Rs w b t q (.on k) := ⟨h, hk⟩
  by_cases hno : ltrs v = 0 ∨ k = t.size ∨ k < t.size ∧ un.bt t k = 0
  · have hp : pa v sp (t.data.toList.drop k) = .no := by
      unfold pa
      rw [if_pos]
      rcases hno with h1 | h1 | ⟨h1, h2⟩
      · exact .inr (.inr h1)
      · exact .inl (by rw [List.length_drop, size_list]; omega)
      · exact .inr (.inl (by rw [getD_drop]; exact h2))
    rw [hp]
    refine (parse_none hz v sp k b w hR hno).mono ?_
    rintro e w' ⟨rfl, hr, hu⟩
    exact ⟨hu, rfl, hr.1⟩
  · have hL : ltrs v ≠ 0 := fun e => hno (.inl e)
    have hk2 : k < t.size := by
      rcases Nat.lt_or_ge k t.size with h1 | h1
      · exact h1
      · exact absurd (.inr (.inl (by omega))) hno
    have h0 : un.bt t k ≠ 0 := fun e => hno (.inr (.inr ⟨hk2, e⟩))
    obtain ⟨I, s1, h1⟩ : ∃ I s1, namS v t q k = (I, s1) := ⟨_, _, rfl⟩
    obtain ⟨n, s2, h2⟩ : ∃ n s2, sizS v t q s1 = (n, s2) := ⟨_, _, rfl⟩
    obtain ⟨s, m, s3, h3⟩ : ∃ s m s3, flgS v t q s2 = (s, m, s3) := ⟨_, _, _, rfl⟩
    have p1 : s1.pos ≤ t.size := by have := nam_pos (v := v) (q := q) hk; rw [h1] at this; exact this
    have p2 : s2.pos ≤ t.size := by have := siz_pos (v := v) (q := q) p1; rw [h2] at this; exact this
    have p3 : s3.pos ≤ t.size := by have := flg_pos (v := v) (q := q) p2; rw [h3] at this; exact this
    have hm : fmtS v sp m < 256 := by have := fmtS_lt (v := v) (sp := sp) (t := t) (q := q) (st := s2); rw [h3] at this; exact this
    obtain ⟨D, s4, h5⟩ : ∃ D s4, takS t q n s3 = (D, s4) := ⟨_, _, rfl⟩
    have hDs : D.size ≤ 4000 := by have := tak_size (t := t) (q := q) (n := n) (st := s3); rw [h5] at this; exact Nat.le_trans this ht
    have hzD : Sz D (plS q s3) := ⟨by omega, by rw [plS_pos]; omega, by rw [plS_pos]; omega⟩
    obtain ⟨gr, e1, h6⟩ : ∃ gr e1, datG v (fmtS v sp m) D (plS q s3) = (gr, e1) := ⟨_, _, rfl⟩
    obtain ⟨ms, e2, h7⟩ : ∃ ms e2, datM v (fmtS v sp m) D (plS q s3) e1 = (ms, e2) := ⟨_, _, rfl⟩
    obtain ⟨x, e3, h8⟩ : ∃ x e3, resS D e2 = (x, e3) := ⟨_, _, rfl⟩
    obtain ⟨y, h9⟩ : ∃ y, datB v (fmtS v sp m) x = y := ⟨_, rfl⟩
    obtain ⟨stf, h10⟩ : ∃ stf, datF v (fmtS v sp m) ms y.size (plS (plS q s3) e1) e3 = stf := ⟨_, rfl⟩
    obtain ⟨s5, h11⟩ : ∃ s5, faiS (faS stf).1 (faS stf).2 s4 = s5 := ⟨_, rfl⟩
    have FP := par_eq v sp t q k n hk2 h0 hL I s1 h1 s2 h2 s m s3 h3
    have g1 : grT v (fmtS v sp m) t q n s3 = gr := by unfold grT; rw [h5]; simp only; rw [h6]
    have g2 : yT v (fmtS v sp m) t q n s3 = y := by unfold yT datY; rw [h5]; simp only; rw [h6]; simp only; rw [h7]; simp only; rw [h8]; exact h9
    have g3 : zT v (fmtS v sp m) t q n s3 = stf := by
      unfold zT datZ
      rw [h5]
      simp only
      rw [h6]
      simp only
      have : datY v (fmtS v sp m) D (plS q s3) e1 = y := by unfold datY; rw [h7]; simp only; rw [h8]; exact h9
      rw [this, h7]
      simp only
      rw [h8]
      exact h10
    have g4 : s5T v (fmtS v sp m) t q n s3 = s5 := by unfold s5T; rw [g3, h5]; exact h11
    rw [g1, g2, g4] at FP
    cases hp : pa v sp (t.data.toList.drop k) with
    | no => rw [hp] at FP; exact FP.elim
    | bad n' =>
      rw [hp] at FP
      obtain ⟨k', hs5⟩ := FP
      have hfin : ¬ (faS s5).1 = 0 := by rw [hs5]; show ¬ (1 : Int) = 0; decide
      have H : Calls Try.prog 25 #[.int .i64 v, .pointer (some ⟨b, 0, none⟩), .bool sp] w fun e w' => e = .returned (.tuple #[zF, .bool false]) ∧ Rs w' b t q s5 ∧ Upd b w w' := by
        by_cases hsp : sp = true
        · by_cases hv4 : v = 4
          · exact parse_t4n hz v sp k b w hR hL hk2 h0 I x y D s1 s2 s3 s4 e1 e2 e3 stf s5 n s m (fmtS v sp m) gr ms hm h1 h2 h3 rfl h5 hzD hDs h6 h7 h8 h9 h10 h11 hsp hv4 hfin
          · exact parse_tnn hz v sp k b w hR hL hk2 h0 I x y D s1 s2 s3 s4 e1 e2 e3 stf s5 n s m (fmtS v sp m) gr ms hm h1 h2 h3 rfl h5 hzD hDs h6 h7 h8 h9 h10 h11 hsp hv4 hfin
        · exact parse_fn hz v sp k b w hR hL hk2 h0 I x y D s1 s2 s3 s4 e1 e2 e3 stf s5 n s m (fmtS v sp m) gr ms hm h1 h2 h3 rfl h5 hzD hDs h6 h7 h8 h9 h10 h11 (by simpa using hsp) hfin
      refine H.mono ?_
      rintro e w' ⟨rfl, hr, hu⟩
      rw [hs5] at hr
      exact ⟨hu, rfl, k', hr.2, hr.1⟩
    | ok f n' =>
      rw [hp] at FP
      obtain ⟨hs5, hI, hs, hm2, hgr, hy⟩ := FP
      have hfin : (faS s5).1 = 0 := by rw [hs5]; rfl
      have H : Calls Try.prog 25 #[.int .i64 v, .pointer (some ⟨b, 0, none⟩), .bool sp] w fun e w' => e = .returned (.tuple #[.agg #[.string I, .int .u8 (s : Int), .int .u8 (fmtS v sp m : Int), .int .u8 (gr : Int), .string y, .int .i64 (q + k)], .bool true]) ∧ Rs w' b t q s5 ∧ Upd b w w' := by
        by_cases hsp : sp = true
        · by_cases hv4 : v = 4
          · exact parse_t4y hz v sp k b w hR hL hk2 h0 I x y D s1 s2 s3 s4 e1 e2 e3 stf s5 n s m (fmtS v sp m) gr ms hm h1 h2 h3 rfl h5 hzD hDs h6 h7 h8 h9 h10 h11 hsp hv4 hfin
          · exact parse_tny hz v sp k b w hR hL hk2 h0 I x y D s1 s2 s3 s4 e1 e2 e3 stf s5 n s m (fmtS v sp m) gr ms hm h1 h2 h3 rfl h5 hzD hDs h6 h7 h8 h9 h10 h11 hsp hv4 hfin
        · exact parse_fy hz v sp k b w hR hL hk2 h0 I x y D s1 s2 s3 s4 e1 e2 e3 stf s5 n s m (fmtS v sp m) gr ms hm h1 h2 h3 rfl h5 hzD hDs h6 h7 h8 h9 h10 h11 (by simpa using hsp) hfin
      refine H.mono ?_
      rintro e w' ⟨rfl, hr, hu⟩
      rw [hs5] at hr
      refine ⟨hu, ?_, hr.1⟩
      rw [hI, hs, hm2, hgr, hy]
      rfl
/-- All that the walks ask of layer 13. -/
theorem fm_land : Fm (fun _ => True) where
  u := un.un_land
  locked := fun v f w _ hi => locked_any v (bs f.id) f.st.toNat f.fm.toNat w (UInt8.toNat_lt _)
  grouped := fun v f w _ hi => grouped_any v (bs f.id) f.st.toNat f.fm.toNat w (UInt8.toNat_lt _)
  measured := fun v f w _ hi => measured_any v (bs f.id) f.st.toNat f.fm.toNat w (UInt8.toNat_lt _)
  spread := fun v f w _ hi => spread_any v (bs f.id) f.st.toNat f.fm.toNat w (UInt8.toNat_lt _)
  letters := fun v w _ => (letters_any v w).mono (by rintro e w' ⟨rfl, rfl⟩; exact ⟨rfl, Below.refl _ _⟩)
  named := fun v s w _ hs => (named_any v s w (by omega)).mono (by rintro e w' ⟨rfl, rfl⟩; exact ⟨rfl, Below.refl _ _⟩)
  check := fun v f a w _ hi hb => check_any v f a w (by omega)
  print := fun v f a w _ hi hb => print_any un.un_land v f a w trivial (by omega) hb
  parse := fun v sp b t k q w _ hr hk ht z0 z1 => parse_any v sp b t k q w hr hk ht z0 z1
end Go.Proofs.Ytkhajafjieofhaa.fl
