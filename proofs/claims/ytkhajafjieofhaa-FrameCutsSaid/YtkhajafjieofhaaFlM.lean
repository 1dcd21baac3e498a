/- The landed frame: what its readers come to is what the document says, the mathematics: all of a frame. -/
import Derived.Test.YtkhajafjieofhaaFlK
import Derived.Test.YtkhajafjieofhaaFlJ
namespace Go.Proofs.Ytkhajafjieofhaa.fl
open Go.Proofs.Ytkhajafjieofhaa.un (bs bs_list bs_size bs_app bs_back size_list drpL)
open Go.Proofs.Ytkhajafjieofhaa.fr
open Go.Proofs.Ytkhajafjieofhaa.oct (num num7)
set_option linter.unusedVariables false
def grT (v : Int) (m : Nat) (t : ByteArray) (q : Int) (n : Nat) (st : RS) : Nat := (datG v m (takS t q n st).1 (plS q st)).1
def yT (v : Int) (m : Nat) (t : ByteArray) (q : Int) (n : Nat) (st : RS) : ByteArray := datY v m (takS t q n st).1 (plS q st) (datG v m (takS t q n st).1 (plS q st)).2
def zT (v : Int) (m : Nat) (t : ByteArray) (q : Int) (n : Nat) (st : RS) : RS := datZ v m (takS t q n st).1 (plS q st) (datG v m (takS t q n st).1 (plS q st)).2
def s5T (v : Int) (m : Nat) (t : ByteArray) (q : Int) (n : Nat) (st : RS) : RS := faiS (faS (zT v m t q n st)).1 (faS (zT v m t q n st)).2 (takS t q n st).2
def FinP (q : Int) (k : Nat) (I : ByteArray) (s m gr : Nat) (y : ByteArray) (z : RS) : Res → Prop
  | .no => False
  | .bad n => ∃ k', z = .off k' (q + k + n)
  | .ok f n => z = .on (k + n) ∧ I = bs f.id ∧ s = f.st.toNat ∧ m = f.fm.toNat ∧ gr = f.gr.toNat ∧ y = bs f.bd
theorem tl_off (v : Int) (m : Nat) (t : ByteArray) (q : Int) (n k : Nat) (x : Int) : s5T v m t q n (.off k x) = .off k x := rfl
theorem tl_eq (v : Int) (t : ByteArray) (q : Int) (k h n : Nat) (st fm : UInt8) (hk : k ≤ t.size) :
    FinP q k (bs ((t.data.toList.drop k).take (ltrs v))) st.toNat fm.toNat (grT v fm.toNat t q n (.on (k + h))) (yT v fm.toNat t q n (.on (k + h))) (s5T v fm.toNat t q n (.on (k + h))) (paBd v (t.data.toList.drop k) h n st fm) := by
  have hl : (t.data.toList.drop k).length = t.size - k := by rw [List.length_drop, size_list]
  unfold paBd
  by_cases hn : k + h + n ≤ t.size
  · rw [if_neg (by omega)]
    obtain ⟨D, hD⟩ : ∃ D, D = t.extract (k + h) (k + h + n) := ⟨_, rfl⟩
    have eT : takS t q n (.on (k + h)) = (D, .on (k + h + n)) := by rw [hD]; exact tak_y hn
    have hDs : D.size = n := by rw [hD, ByteArray.size_extract]; omega
    have hDl : D.data.toList = ((t.data.toList.drop k).drop h).take n := by rw [hD, list_ext, List.drop_drop]
    have H := data_eq v ((t.data.toList.drop k).take (ltrs v)) st fm D (q + ((k + h : Nat) : Int)) q k h (h + n) rfl (by rw [hDs])
    rw [hDl] at H
    have e1 : grT v fm.toNat t q n (.on (k + h)) = (datG v fm.toNat D (q + ((k + h : Nat) : Int))).1 := by unfold grT; rw [eT]; rfl
    have e2 : yT v fm.toNat t q n (.on (k + h)) = datY v fm.toNat D (q + ((k + h : Nat) : Int)) (datG v fm.toNat D (q + ((k + h : Nat) : Int))).2 := by unfold yT; rw [eT]; rfl
    have e3 : zT v fm.toNat t q n (.on (k + h)) = datZ v fm.toNat D (q + ((k + h : Nat) : Int)) (datG v fm.toNat D (q + ((k + h : Nat) : Int))).2 := by unfold zT; rw [eT]; rfl
    unfold s5T
    rw [e1, e2, e3, eT]
    clear e1 e2 e3
    cases hr : paCt v ((t.data.toList.drop k).take (ltrs v)) h (h + n) st fm (((t.data.toList.drop k).drop h).take n) with
    | no => rw [hr] at H; exact H.elim
    | bad n' =>
      rw [hr] at H
      obtain ⟨k', hz⟩ := H
      rw [hz]
      exact ⟨_, rfl⟩
    | ok f n' =>
      rw [hr] at H
      obtain ⟨⟨k', hz⟩, h2, h3, h4, h5, h6, h7⟩ := H
      rw [hz]
      refine ⟨?_, by rw [h3], by rw [h4], by rw [h5], h6, h7⟩
      rw [h2, ← Nat.add_assoc]
      rfl
  · rw [if_pos (by omega)]
    have eT : takS t q n (.on (k + h)) = (⟨#[]⟩, .off (k + h) (q + t.size)) := tak_n hn
    unfold s5T
    rw [eT]
    exact ⟨_, congrArg (RS.off (k + h)) (by omega)⟩
theorem fmt_eq (v : Int) (sp : Bool) (c : UInt8) : fmtS v sp c.toNat = (fmt v sp c).toNat := by
  unfold fmtS fmt
  by_cases h : v = 4 ∧ sp = true
  · rw [if_pos h]
    cases hb : bit c.toNat 2 with
    | true => rw [if_pos rfl, if_neg (by simp)]
    | false =>
      rw [if_neg (by simp), if_pos ⟨h.1, h.2, rfl⟩]
      have h9 := UInt8.toNat_lt c
      have : c.toNat < 254 := by
        unfold bit at hb
        rcases Nat.lt_or_ge c.toNat 254 with h | h
        · exact h
        · exfalso
          have : c.toNat / 2 % 2 = 1 := by omega
          rw [this] at hb
          cases hb
      rw [UInt8.toNat_add]
      show _ = (c.toNat + 2) % 256
      omega
  · rw [if_neg h, if_neg (fun h2 => h ⟨h2.1, h2.2.1⟩)]
theorem getD_drop (l : List UInt8) (k i : Nat) : (l.drop k).getD i 0 = l.getD (k + i) 0 := by
  rw [List.getD_eq_getElem?_getD, List.getD_eq_getElem?_getD, List.getElem?_drop]
theorem fl_eq (v : Int) (sp : Bool) (t : ByteArray) (q : Int) (k h n : Nat) (hk : k ≤ t.size) (hv : v = 2 ∨ v = 3 ∨ v = 4) (s m : Nat) (s3 : RS) (hf : flgS v t q (.on (k + h)) = (s, m, s3)) (hh : k + h ≤ t.size) :
    FinP q k (bs ((t.data.toList.drop k).take (ltrs v))) s (fmtS v sp m) (grT v (fmtS v sp m) t q n s3) (yT v (fmtS v sp m) t q n s3) (s5T v (fmtS v sp m) t q n s3) (paFl v sp (t.data.toList.drop k) h n) := by
  have hl : (t.data.toList.drop k).length = t.size - k := by rw [List.length_drop, size_list]
  unfold paFl
  unfold flgS at hf
  by_cases h2 : v = 2
  · subst h2
    rw [if_pos rfl] at hf
    obtain ⟨hs, hm, hst⟩ := (show 0 = s ∧ 0 = m ∧ RS.on (k + h) = s3 by simpa using hf)
    subst hs
    subst hm
    subst hst
    rw [if_neg (by omega)]
    exact tl_eq 2 t q k h n 0 0 hk
  · rw [if_neg h2] at hf
    rw [if_pos (by omega)]
    by_cases h1 : k + h + 1 ≤ t.size
    · rw [big_y h1] at hf
      simp only at hf
      by_cases h3 : k + h + 1 + 1 ≤ t.size
      · rw [big_y h3] at hf
        obtain ⟨hs, hm, hst⟩ := (show (t.data.toList.getD (k + h) 0).toNat = s ∧ (t.data.toList.getD (k + h + 1) 0).toNat = m ∧ RS.on (k + h + 1 + 1) = s3 from ⟨congrArg (fun z => z.1) hf, congrArg (fun z => z.2.1) hf, congrArg (fun z => z.2.2) hf⟩)
        subst hs
        subst hm
        subst hst
        rw [if_neg (by omega), getD_drop, getD_drop, fmt_eq, show k + (h + 1) = k + h + 1 by omega]
        exact tl_eq v t q k (h + 2) n _ _ hk
      · rw [big_n h3] at hf
        have hst : RS.off (k + h + 1) (q + t.size) = s3 := congrArg (fun z => z.2.2) hf
        subst hst
        rw [if_pos (by omega), tl_off]
        exact ⟨_, congrArg (RS.off _) (by omega)⟩
    · rw [big_n h1] at hf
      have hst : RS.off (k + h) (q + t.size) = s3 := congrArg (fun z => z.2.2) hf
      subst hst
      rw [if_pos (by omega), tl_off]
      exact ⟨_, congrArg (RS.off _) (by omega)⟩
theorem flg_off (v : Int) (t : ByteArray) (q : Int) (k : Nat) (x : Int) : (flgS v t q (.off k x)).2.2 = .off k x := by unfold flgS; split <;> rfl
theorem big_m {t : ByteArray} {q : Int} {m j : Nat} (h : j + m ≤ t.size) : bigS t q m (.on j) = (num ((t.data.toList.drop j).take m), .on (j + m)) := by
  unfold bigS
  rw [tak_y h]
  simp only
  rw [list_ext]
theorem sz_eq (v : Int) (sp : Bool) (t : ByteArray) (q : Int) (k n : Nat) (hk : k ≤ t.size) (hv : v = 2 ∨ v = 3 ∨ v = 4) (s2 : RS) (h2 : sizS v t q (.on (k + ltrs v)) = (n, s2)) (s m : Nat) (s3 : RS) (hf : flgS v t q s2 = (s, m, s3)) (hL : k + ltrs v ≤ t.size) :
    FinP q k (bs ((t.data.toList.drop k).take (ltrs v))) s (fmtS v sp m) (grT v (fmtS v sp m) t q n s3) (yT v (fmtS v sp m) t q n s3) (s5T v (fmtS v sp m) t q n s3) (paSz v sp (t.data.toList.drop k)) := by
  have hl : (t.data.toList.drop k).length = t.size - k := by rw [List.length_drop, size_list]
  have OFF : ∀ (j : Nat) (x : Int), s2 = .off j x → s5T v (fmtS v sp m) t q n s3 = .off j x := fun j x e => by
    rw [e] at hf
    have := flg_off v t q j x
    rw [hf] at this
    simp only at this
    rw [this]
    rfl
  unfold paSz
  rcases hv with rfl | rfl | rfl
  · have hlt : ltrs 2 = 3 := rfl
    rw [hlt] at h2 hL
    rw [if_neg (by omega), if_neg (by omega)]
    have e : sizS 2 t q (.on (k + 3)) = bigS t q 3 (.on (k + 3)) := rfl
    rw [e] at h2
    by_cases hn : k + 3 + 3 ≤ t.size
    · rw [big_m hn] at h2
      obtain ⟨hn2, hs2⟩ := Prod.mk.inj h2
      rw [if_neg (by omega)]
      subst hs2
      rw [← hn2, ← List.drop_drop]
      exact fl_eq 2 sp t q k 6 _ hk (.inl rfl) s m s3 hf (by omega)
    · rw [big_n hn] at h2
      obtain ⟨hn2, hs2⟩ := Prod.mk.inj h2
      rw [if_pos (by omega), OFF _ _ hs2.symm]
      exact ⟨_, congrArg (RS.off _) (by omega)⟩
  · have hlt : ltrs 3 = 4 := rfl
    rw [hlt] at h2 hL
    rw [if_neg (by omega), if_pos rfl]
    have e : sizS 3 t q (.on (k + 4)) = bigS t q 4 (.on (k + 4)) := rfl
    rw [e] at h2
    by_cases hn : k + 4 + 4 ≤ t.size
    · rw [big_m hn] at h2
      obtain ⟨hn2, hs2⟩ := Prod.mk.inj h2
      rw [if_neg (by omega)]
      subst hs2
      rw [← hn2, ← List.drop_drop]
      exact fl_eq 3 sp t q k 8 _ hk (.inr (.inl rfl)) s m s3 hf (by omega)
    · rw [big_n hn] at h2
      obtain ⟨hn2, hs2⟩ := Prod.mk.inj h2
      rw [if_pos (by omega), OFF _ _ hs2.symm]
      exact ⟨_, congrArg (RS.off _) (by omega)⟩
  · have hlt : ltrs 4 = 4 := rfl
    rw [hlt] at h2 hL
    rw [if_pos rfl]
    have e : sizS 4 t q (.on (k + 4)) = safS t q (.on (k + 4)) := rfl
    rw [e] at h2
    by_cases hn : k + 4 + 4 ≤ t.size
    · rw [if_neg (by omega)]
      cases hh : hi7 (((t.data.toList.drop k).drop 4).take 4) with
      | some j =>
        rw [List.drop_drop] at hh
        rw [saf_h hn hh] at h2
        obtain ⟨hn2, hs2⟩ := Prod.mk.inj h2
        rw [OFF _ _ hs2.symm]
        exact ⟨_, congrArg (RS.off _) (by omega)⟩
      | none =>
        have hh' := hh
        rw [List.drop_drop] at hh'
        rw [saf_y hn hh'] at h2
        obtain ⟨hn2, hs2⟩ := Prod.mk.inj h2
        subst hs2
        rw [← hn2, ← List.drop_drop]
        exact fl_eq 4 sp t q k 8 _ hk (.inr (.inr rfl)) s m s3 hf (by omega)
    · rw [saf_n hn] at h2
      obtain ⟨hn2, hs2⟩ := Prod.mk.inj h2
      rw [if_pos (by omega), OFF _ _ hs2.symm]
      exact ⟨_, congrArg (RS.off _) (by omega)⟩
theorem siz_off (v : Int) (t : ByteArray) (q : Int) (k : Nat) (x : Int) : (sizS v t q (.off k x)).2 = .off k x := by
  unfold sizS; split; rfl; split <;> rfl
theorem nmd_no (v : Int) (l : List UInt8) (hl : l.length = ltrs v) (h0 : ltrs v ≠ 0) : nmd v l = true ↔ noL l = none := by
  constructor
  · exact noL_id
  · intro h
    unfold noL at h
    rw [List.findIdx?_eq_none_iff] at h
    unfold nmd
    rw [Bool.and_eq_true, decide_eq_true_iff, List.all_eq_true]
    exact ⟨⟨by omega, hl⟩, fun c hc => by simpa using h c hc⟩
theorem par_eq (v : Int) (sp : Bool) (t : ByteArray) (q : Int) (k n : Nat) (hk : k < t.size) (h0 : un.bt t k ≠ 0) (hL : ltrs v ≠ 0) (I : ByteArray) (s1 : RS) (h1 : namS v t q k = (I, s1)) (s2 : RS) (h2 : sizS v t q s1 = (n, s2)) (s m : Nat) (s3 : RS) (hf : flgS v t q s2 = (s, m, s3)) :
    FinP q k I s (fmtS v sp m) (grT v (fmtS v sp m) t q n s3) (yT v (fmtS v sp m) t q n s3) (s5T v (fmtS v sp m) t q n s3) (pa v sp (t.data.toList.drop k)) := by
  have hv := v_of hL
  have hl : (t.data.toList.drop k).length = t.size - k := by rw [List.length_drop, size_list]
  have OFF : ∀ (j : Nat) (x : Int), s1 = .off j x → s5T v (fmtS v sp m) t q n s3 = .off j x := fun j x e => by
    rw [e] at h2
    have h3 := siz_off v t q j x
    rw [h2] at h3
    simp only at h3
    rw [h3] at hf
    have := flg_off v t q j x
    rw [hf] at this
    simp only at this
    rw [this]
    rfl
  unfold pa
  have hz : ((t.data.toList.drop k).getD 0 0).toNat = un.bt t k := by rw [getD_drop]; rfl
  rw [if_neg (by rw [hz]; omega)]
  by_cases hn : k + ltrs v ≤ t.size
  · rw [if_neg (by omega)]
    have htl : ((t.data.toList.drop k).take (ltrs v)).length = ltrs v := by rw [List.length_take]; omega
    cases hm : noL ((t.data.toList.drop k).take (ltrs v)) with
    | none =>
      have hnm := (nmd_no v _ htl hL).2 hm
      have e : namS v t q k = (t.extract k (k + ltrs v), .on (k + ltrs v)) := by unfold namS; rw [if_pos hn, if_pos hnm]
      rw [e] at h1
      obtain ⟨hI, hs1⟩ := Prod.mk.inj h1
      subst hs1
      have hI2 : I = bs ((t.data.toList.drop k).take (ltrs v)) := by rw [← hI, ← bs_back (t.extract k (k + ltrs v)), list_ext]
      rw [hI2]
      exact sz_eq v sp t q k n (by omega) hv s2 h2 s m s3 hf hn
    | some i =>
      have hnm : ¬ nmd v ((t.data.toList.drop k).take (ltrs v)) = true := fun h => by rw [(nmd_no v _ htl hL).1 h] at hm; cases hm
      have hp : prp (t.extract k (k + ltrs v)) = i := by unfold prp; rw [list_ext, hm]; rfl
      have e : namS v t q k = (⟨#[]⟩, .off (k + i) (q + (k + i : Nat))) := by unfold namS; rw [if_pos hn, if_neg hnm, hp]
      rw [e] at h1
      obtain ⟨hI, hs1⟩ := Prod.mk.inj h1
      rw [OFF _ _ hs1.symm]
      exact ⟨_, congrArg (RS.off _) (by omega)⟩
  · rw [if_pos (by omega)]
    have e : namS v t q k = (⟨#[]⟩, .off k (q + t.size)) := by unfold namS; rw [if_neg hn]
    rw [e] at h1
    obtain ⟨hI, hs1⟩ := Prod.mk.inj h1
    rw [OFF _ _ hs1.symm]
    exact ⟨_, congrArg (RS.off _) (by omega)⟩
end Go.Proofs.Ytkhajafjieofhaa.fl
