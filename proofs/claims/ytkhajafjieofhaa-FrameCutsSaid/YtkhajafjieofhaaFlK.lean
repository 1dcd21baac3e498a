/- The landed frame: what its readers come to is what the document says, the mathematics: the data. -/
import Derived.Test.YtkhajafjieofhaaFlH
import Derived.Test.YtkhajafjieofhaaFr1
namespace Go.Proofs.Ytkhajafjieofhaa.fl
open Go.Proofs.Ytkhajafjieofhaa.un (bs bs_list bs_size bs_app bs_back size_list drpL)
open Go.Proofs.Ytkhajafjieofhaa.fr
open Go.Proofs.Ytkhajafjieofhaa.oct (num num7)
set_option linter.unusedVariables false
theorem lckd_all (v : Int) (n : Nat) (h : lckd v n = true) : grpd v n = false ∧ msrd v n = false ∧ sprd v n = false := by
  unfold grpd msrd sprd
  rw [h]
  simp
theorem ext_all (D : ByteArray) : D.extract 0 D.size = D := by
  apply ByteArray.ext
  rw [ByteArray.data_extract]
  simp
theorem ext_from (D : ByteArray) (j : Nat) (h : j ≤ D.size) : D.extract j D.size = bs (D.data.toList.drop j) := by
  rw [← bs_back (D.extract j D.size)]
  refine congrArg bs ?_
  have := list_ext D j (D.size - j)
  rw [show j + (D.size - j) = D.size by omega] at this
  rw [this, List.take_of_length_le (by rw [List.length_drop, size_list]; omega)]
theorem datB_bs (v : Int) (m : Nat) (l : List UInt8) : datB v m (bs l) = bs (bdy v m l) := by
  unfold datB bdy
  rw [bs_list]
  split <;> rfl
theorem faiS_off (e a : Int) (k : Nat) (x : Int) : faiS e a (.off k x) = .off k x := rfl
theorem datF_off (v : Int) (fm n m : Nat) (a : Int) (k : Nat) (x : Int) : datF v fm n m a (.off k x) = .off k x := by
  unfold datF; split <;> rfl
/-- What the data comes to, from the measure on. -/
def datY (v : Int) (m : Nat) (D : ByteArray) (Q : Int) (st : RS) : ByteArray := datB v m (resS D (datM v m D Q st).2).1
def datZ (v : Int) (m : Nat) (D : ByteArray) (Q : Int) (st : RS) : RS := datF v m (datM v m D Q st).1 (datY v m D Q st).size (plS Q st) (resS D (datM v m D Q st).2).2
def MsP (id : List UInt8) (st fm gr : UInt8) (q : Int) (k e : Nat) (y : ByteArray) (z : RS) : Res → Prop
  | .no => False
  | .bad n => ∃ k', z = .off k' (q + k + n)
  | .ok f n => (∃ k', z = .on k') ∧ n = e ∧ f.id = id ∧ f.st = st ∧ f.fm = fm ∧ f.gr = gr ∧ y = bs f.bd
theorem dat_off (v : Int) (m : Nat) (D : ByteArray) (Q : Int) (k : Nat) (x : Int) : datZ v m D Q (.off k x) = .off k x := by
  unfold datZ
  have e : (datM v m D Q (.off k x)).2 = .off k x := by unfold datM; split <;> rfl
  rw [e]
  exact datF_off _ _ _ _ _ _ _
theorem meas_eq (v : Int) (id : List UInt8) (st fm gr : UInt8) (D : ByteArray) (Q q : Int) (k h j e : Nat) (hj : j ≤ D.size) (hQ : Q = q + ((k + h : Nat) : Int)) (he : e = h + D.size) :
    MsP id st fm gr q k e (datY v fm.toNat D Q (.on j)) (datZ v fm.toNat D Q (.on j)) (paMs v id e (h + j) st fm gr (D.data.toList.drop j)) := by
  have hl : (D.data.toList.drop j).length = D.size - j := by rw [List.length_drop, size_list]
  unfold paMs
  cases hm : msrd v fm.toNat with
  | false =>
    have eM : datM v fm.toNat D Q (.on j) = (0, .on j) := by unfold datM; rw [hm]; rfl
    have eY : datY v fm.toNat D Q (.on j) = bs (bdy v fm.toNat (D.data.toList.drop j)) := by
      unfold datY
      rw [eM]
      show datB v fm.toNat (D.extract j D.size) = _
      rw [ext_from D j hj, datB_bs]
    have eZ : datZ v fm.toNat D Q (.on j) = .on D.size := by
      unfold datZ datF
      rw [hm, eM]
      rfl
    rw [eY, eZ]
    exact ⟨⟨_, rfl⟩, rfl, rfl, rfl, rfl, rfl, rfl⟩
  | true =>
    rw [if_pos rfl]
    by_cases h4 : j + 4 ≤ D.size
    · rw [if_neg (by omega)]
      cases hh : hi7 ((D.data.toList.drop j).take 4) with
      | some i =>
        have eM : datM v fm.toNat D Q (.on j) = (0, .off (j + 4) (Q + j + i)) := by unfold datM; rw [hm, if_pos rfl, saf_h h4 hh]
        have eZ : datZ v fm.toNat D Q (.on j) = .off (j + 4) (Q + j + i) := by
          unfold datZ
          rw [eM]
          exact datF_off _ _ _ _ _ _ _
        rw [eZ]
        refine ⟨_, congrArg (RS.off (j + 4)) ?_⟩
        omega
      | none =>
        have eM : datM v fm.toNat D Q (.on j) = (num7 ((D.data.toList.drop j).take 4), .on (j + 4)) := by unfold datM; rw [hm, if_pos rfl, saf_y h4 hh]
        have eY : datY v fm.toNat D Q (.on j) = bs (bdy v fm.toNat ((D.data.toList.drop j).drop 4)) := by
          unfold datY
          rw [eM]
          show datB v fm.toNat (D.extract (j + 4) D.size) = _
          rw [ext_from D (j + 4) h4, datB_bs, List.drop_drop]
        have hys : (bs (bdy v fm.toNat ((D.data.toList.drop j).drop 4))).size = (bdy v fm.toNat ((D.data.toList.drop j).drop 4)).length := bs_size _
        have eZ : datZ v fm.toNat D Q (.on j) = if num7 ((D.data.toList.drop j).take 4) = (bdy v fm.toNat ((D.data.toList.drop j).drop 4)).length then .on D.size else .off D.size (Q + j) := by
          unfold datZ datF
          rw [eY, hm, eM, hys]
          by_cases hc : num7 ((D.data.toList.drop j).take 4) = (bdy v fm.toNat ((D.data.toList.drop j).drop 4)).length
          · rw [if_neg (by rintro ⟨_, h2⟩; exact h2 hc), if_pos hc]; rfl
          · rw [if_pos ⟨rfl, hc⟩, if_neg hc]; rfl
        rw [eY, eZ]
        by_cases hc : num7 ((D.data.toList.drop j).take 4) = (bdy v fm.toNat ((D.data.toList.drop j).drop 4)).length
        · simp only [if_pos hc]
          exact ⟨⟨_, rfl⟩, rfl, rfl, rfl, rfl, rfl, rfl⟩
        · simp only [if_neg hc]
          exact ⟨_, congrArg (RS.off D.size) (by omega)⟩
    · rw [if_pos (by omega)]
      have eM : datM v fm.toNat D Q (.on j) = (0, .off j (Q + D.size)) := by unfold datM; rw [hm, if_pos rfl, saf_n h4]
      have eZ : datZ v fm.toNat D Q (.on j) = .off j (Q + D.size) := by
        unfold datZ
        rw [eM]
        exact datF_off _ _ _ _ _ _ _
      rw [eZ]
      exact ⟨_, congrArg (RS.off j) (by omega)⟩
theorem one_lst (t : ByteArray) (k : Nat) (h : k + 1 ≤ t.size) : (t.extract k (k + 1)).data.toList = [t.data.toList.getD k 0] := by
  have hl : k < t.data.toList.length := by rw [size_list]; exact h
  rw [list_ext, List.getD_eq_getElem?_getD, List.getElem?_eq_getElem hl, List.drop_eq_getElem_cons hl]
  rfl
theorem num_one (c : UInt8) : num [c] = c.toNat := by simp [num]
theorem big_y {t : ByteArray} {q : Int} {j : Nat} (h : j + 1 ≤ t.size) : bigS t q 1 (.on j) = ((t.data.toList.getD j 0).toNat, .on (j + 1)) := by
  unfold bigS
  rw [tak_y h]
  simp only
  rw [one_lst t j h, num_one]
theorem big_n {t : ByteArray} {q : Int} {m j : Nat} (h : ¬ j + m ≤ t.size) : bigS t q m (.on j) = (0, .off j (q + t.size)) := by
  unfold bigS
  rw [tak_n h]
  rfl
/-- What data comes to. -/
def CtP (id : List UInt8) (st fm : UInt8) (q : Int) (k e : Nat) (g : Nat) (y : ByteArray) (z : RS) : Res → Prop
  | .no => False
  | .bad n => ∃ k', z = .off k' (q + k + n)
  | .ok f n => (∃ k', z = .on k') ∧ n = e ∧ f.id = id ∧ f.st = st ∧ f.fm = fm ∧ g = f.gr.toNat ∧ y = bs f.bd
theorem data_eq (v : Int) (id : List UInt8) (st fm : UInt8) (D : ByteArray) (Q q : Int) (k h e : Nat) (hQ : Q = q + ((k + h : Nat) : Int)) (he : e = h + D.size) :
    CtP id st fm q k e (datG v fm.toNat D Q).1 (datY v fm.toNat D Q (datG v fm.toNat D Q).2) (datZ v fm.toNat D Q (datG v fm.toNat D Q).2) (paCt v id h e st fm D.data.toList) := by
  have hl : D.data.toList.length = D.size := size_list D
  unfold paCt
  cases hL : lckd v fm.toNat with
  | true =>
    obtain ⟨hg, hm, hs⟩ := lckd_all v fm.toNat hL
    have eG : datG v fm.toNat D Q = (0, .on 0) := by unfold datG; rw [hg]; rfl
    rw [eG]
    have H := meas_eq v id st fm 0 D Q q k h 0 e (by omega) hQ he
    unfold paMs at H
    rw [hm] at H
    rw [if_neg (by simp)] at H
    obtain ⟨h1, h2, h3, h4, h5, h6, h7⟩ := H
    refine ⟨h1, rfl, rfl, rfl, rfl, rfl, ?_⟩
    rw [h7]
    unfold bdy
    rw [hs]
    rfl
  | false =>
    rw [if_neg (by simp)]
    cases hg : grpd v fm.toNat with
    | false =>
      have eG : datG v fm.toNat D Q = (0, .on 0) := by unfold datG; rw [hg]; rfl
      rw [eG, if_neg (by simp)]
      have H := meas_eq v id st fm 0 D Q q k h 0 e (by omega) hQ he
      rw [List.drop_zero, Nat.add_zero] at H
      cases hr : paMs v id e h st fm 0 D.data.toList with
      | no => rw [hr] at H; exact H.elim
      | bad n => rw [hr] at H; exact H
      | ok f n =>
        rw [hr] at H
        obtain ⟨h1, h2, h3, h4, h5, h6, h7⟩ := H
        exact ⟨h1, h2, h3, h4, h5, by rw [h6]; rfl, h7⟩
    | true =>
      rw [if_pos rfl]
      by_cases h1 : 0 + 1 ≤ D.size
      · rw [if_neg (by omega)]
        have eG : datG v fm.toNat D Q = ((D.data.toList.getD 0 0).toNat, .on 1) := by unfold datG; rw [hg, if_pos rfl, big_y h1]
        rw [eG]
        have H := meas_eq v id st fm (D.data.toList.getD 0 0) D Q q k h 1 e h1 hQ he
        cases hr : paMs v id e (h + 1) st fm (D.data.toList.getD 0 0) (D.data.toList.drop 1) with
        | no => rw [hr] at H; exact H.elim
        | bad n => rw [hr] at H; exact H
        | ok f n =>
          rw [hr] at H
          obtain ⟨h1, h2, h3, h4, h5, h6, h7⟩ := H
          exact ⟨h1, h2, h3, h4, h5, by rw [h6], h7⟩
      · rw [if_pos (by omega)]
        have eG : datG v fm.toNat D Q = (0, .off 0 (Q + D.size)) := by unfold datG; rw [hg, if_pos rfl, big_n h1]
        rw [eG, dat_off]
        exact ⟨_, congrArg (RS.off 0) (by omega)⟩
end Go.Proofs.Ytkhajafjieofhaa.fl
