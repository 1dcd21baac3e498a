/- A reader of layer 1 in whatever state, by what it answers and where it is then: contracts (no frame's). -/
import Derived.Test.YtkhajafjieofhaaFlB
import Derived.Test.YtkhajafjieofhaaOct9
import Derived.Test.YtkhajafjieofhaaOct11
namespace Go.Proofs.Ytkhajafjieofhaa.fl
open Go.RowKit Go.Lib
open Go.Proofs.Ytkhajafjieofhaa.un (bs bs_list bs_size bs_app bs_back size_list wrap64)
open Go.Proofs.Ytkhajafjieofhaa.fr Go.Proofs.Ytkhajafjieofhaa.bk
open Go.Proofs.Ytkhajafjieofhaa.oct (Rd Upd num num7 plc plc_small)
set_option linter.unusedVariables false
/-- Where a reader is; it has a fault (1, there). -/
inductive RS where
  | on (k : Nat) : RS
  | off (k : Nat) (a : Int) : RS
def Rs (W : World) (b : Nat) (t : ByteArray) (q : Int) : RS → Prop
  | .on k => Rd W b t k q 0 0 ∧ k ≤ t.size
  | .off k a => Rd W b t k q 1 a ∧ k ≤ t.size
theorem Rs.below {W W' : World} {b : Nat} {t : ByteArray} {q : Int} {st : RS} (h : Rs W b t q st) (hb : Below W.heap.size W W') : Rs W' b t q st := by
  cases st with
  | on k => exact ⟨h.1.below hb h.1.lt, h.2⟩
  | off k a => exact ⟨h.1.below hb h.1.lt, h.2⟩
theorem Rs.lt {W : World} {b : Nat} {t : ByteArray} {q : Int} {st : RS} (h : Rs W b t q st) : b < W.heap.size := by
  cases st with
  | on k => exact h.1.lt
  | off k a => exact h.1.lt
theorem Rs.upd {W W' : World} {b c : Nat} {t : ByteArray} {q : Int} {st : RS} (h : Rs W b t q st) (hu : Upd c W W') (hne : b ≠ c) : Rs W' b t q st := by
  cases st with
  | on k => exact ⟨h.1.upd hu hne, h.2⟩
  | off k a => exact ⟨h.1.upd hu hne, h.2⟩
theorem upd_of {W W' : World} (b : Nat) (h : Below W.heap.size W W') : Upd b W W' := Upd.of h (Nat.le_refl _)
/-- How large things are. -/
structure Sz (t : ByteArray) (q : Int) : Prop where
  t : t.size ≤ 100000
  z : 0 ≤ q
  h : q ≤ 2000000000000
theorem Sz.max {t : ByteArray} {q : Int} (h : Sz t q) : t.size ≤ maxLen := by have := h.t; unfold maxLen; omega
theorem Sz.plc {t : ByteArray} {q : Int} (h : Sz t q) (n : Nat) (hn : n ≤ t.size) : oct.plc q (n : Int) = q + n := plc_small (by have := h.t; have := h.h; omega)
def takS (t : ByteArray) (q : Int) (n : Nat) : RS → ByteArray × RS
  | .on k => if k + n ≤ t.size then (t.extract k (k + n), .on (k + n)) else (⟨#[]⟩, .off k (q + t.size))
  | .off k a => (⟨#[]⟩, .off k a)
theorem tak_y {t : ByteArray} {q : Int} {n k : Nat} (h : k + n ≤ t.size) : takS t q n (.on k) = (t.extract k (k + n), .on (k + n)) := if_pos h
theorem tak_n {t : ByteArray} {q : Int} {n k : Nat} (h : ¬ k + n ≤ t.size) : takS t q n (.on k) = (⟨#[]⟩, .off k (q + t.size)) := if_neg h
theorem take_rs {t : ByteArray} {q : Int} (hz : Sz t q) (n : Nat) (st : RS) (w : World) (b : Nat) (h : Rs w b t q st) : Calls Try.prog 49 #[.pointer (some ⟨b, 0, none⟩), .int .i64 (n : Int)] w fun e w' => e = .returned (.string (takS t q n st).1) ∧ Rs w' b t q (takS t q n st).2 ∧ Upd b w w' := by
  have z0 := hz.z
  have z1 := hz.h
  cases st with
  | on k =>
    have hk := h.2
    by_cases hn : k + n ≤ t.size
    · rw [tak_y hn]
      refine (oct.take_ok w b t k n (t.size - k) q 0 h.1 (by omega) (by omega) hz.max).mono ?_
      rintro e w' ⟨rfl, hr, hu⟩
      exact ⟨rfl, ⟨hr, hn⟩, hu⟩
    · rw [tak_n hn]
      refine (oct.take_short w b t k (t.size - k) (n : Int) q 0 h.1 (by omega) (.inr (by omega)) hz.max z0 (by omega)).mono ?_
      rintro e w' ⟨rfl, hr, hu⟩
      rw [hz.plc _ (Nat.le_refl _)] at hr
      exact ⟨rfl, ⟨hr, hk⟩, hu⟩
  | off k a =>
    refine (oct.take_off w b t k q 1 a n h.1 rfl).mono ?_
    rintro e w' ⟨rfl, hb⟩
    exact ⟨rfl, h.below hb, upd_of b hb⟩
def bigS (t : ByteArray) (q : Int) (m : Nat) (st : RS) : Nat × RS := (num (takS t q m st).1.data.toList, (takS t q m st).2)
theorem takS_le (t : ByteArray) (q : Int) (m : Nat) (st : RS) : (takS t q m st).1.size ≤ m := by
  cases st with
  | on k =>
    by_cases hn : k + m ≤ t.size
    · rw [tak_y hn]
      show (t.extract k (k + m)).size ≤ m
      rw [ByteArray.size_extract]; omega
    · rw [tak_n hn]; exact Nat.zero_le _
  | off k a => exact Nat.zero_le _
theorem big_rs {t : ByteArray} {q : Int} (hz : Sz t q) (m : Nat) (hm : m ≤ 8) (st : RS) (w : World) (b : Nat) (h : Rs w b t q st) : Calls Try.prog 65 #[.pointer (some ⟨b, 0, none⟩), .int .i64 (m : Int)] w fun e w' => e = .returned (.int .u64 ((bigS t q m st).1 : Int)) ∧ Rs w' b t q (bigS t q m st).2 ∧ Upd b w w' := by
  have hs := takS_le t q m st
  exact oct.rbig_of _ _ (m : Int) _ (fun w' => Rs w' b t q (bigS t q m st).2 ∧ Upd b w w') w (by omega) (by omega) (by omega) (by omega) (take_rs hz m st w b h)
theorem list_ext (t : ByteArray) (k n : Nat) : (t.extract k (k + n)).data.toList = (t.data.toList.drop k).take n := by
  rw [ByteArray.data_extract, Array.toList_extract]
  simp only [List.extract]
  rw [show k + n - k = n by omega]
theorem pbt (t : ByteArray) (i : Nat) : PlainAid.bt t i = ((un.bt t i : Nat) : Int) := by
  unfold PlainAid.bt
  split
  · rename_i h
    rw [un.bt_get t i h]
  · rename_i h
    unfold un.bt
    rw [List.getD_eq_getElem?_getD, List.getElem?_eq_none (by rw [size_list]; omega)]; rfl
def safS (t : ByteArray) (q : Int) : RS → Nat × RS
  | .on k => if k + 4 ≤ t.size then match hi7 ((t.data.toList.drop k).take 4) with
      | some j => (0, .off (k + 4) (q + k + j))
      | none => (num7 ((t.data.toList.drop k).take 4), .on (k + 4))
    else (0, .off k (q + t.size))
  | .off k a => (0, .off k a)
theorem saf_n {t : ByteArray} {q : Int} {k : Nat} (h : ¬ k + 4 ≤ t.size) : safS t q (.on k) = (0, .off k (q + t.size)) := if_neg h
theorem saf_y {t : ByteArray} {q : Int} {k : Nat} (h : k + 4 ≤ t.size) (hh : hi7 ((t.data.toList.drop k).take 4) = none) : safS t q (.on k) = (num7 ((t.data.toList.drop k).take 4), .on (k + 4)) := by
  show (if k + 4 ≤ t.size then _ else _) = _
  rw [if_pos h, hh]
theorem saf_h {t : ByteArray} {q : Int} {k j : Nat} (h : k + 4 ≤ t.size) (hh : hi7 ((t.data.toList.drop k).take 4) = some j) : safS t q (.on k) = (0, .off (k + 4) (q + k + j)) := by
  show (if k + 4 ≤ t.size then _ else _) = _
  rw [if_pos h, hh]
theorem safe_rs {t : ByteArray} {q : Int} (hz : Sz t q) (st : RS) (w : World) (b : Nat) (h : Rs w b t q st) : Calls Try.prog 66 #[.pointer (some ⟨b, 0, none⟩)] w fun e w' => e = .returned (.int .i64 ((safS t q st).1 : Int)) ∧ Rs w' b t q (safS t q st).2 ∧ Upd b w w' := by
  have z0 := hz.z
  have z1 := hz.h
  have hzt := hz.t
  cases st with
  | on k =>
    have hk := h.2
    by_cases hn : k + 4 ≤ t.size
    · have hT := take_rs hz 4 (.on k) w b h
      rw [tak_y hn] at hT
      cases hh : hi7 ((t.data.toList.drop k).take 4) with
      | none =>
        rw [saf_y hn hh]
        have hl := list_ext t k 4
        unfold hi7 at hh
        rw [List.findIdx?_eq_none_iff] at hh
        rw [← hl] at hh ⊢
        exact oct.rsafe_of _ (t.extract k (k + 4)) (fun w' => Rs w' b t q (.on (k + 4)) ∧ Upd b w w') w (by rw [ByteArray.size_extract]; omega) (fun c hc => by have := hh c hc; simpa using this) hT
      | some j =>
        rw [saf_h hn hh]
        unfold hi7 at hh
        rw [List.findIdx?_eq_some_iff_getElem] at hh
        obtain ⟨hj, h1, h2⟩ := hh
        have hj4 : j < 4 := by rw [List.length_take] at hj; omega
        have hat : ∀ i (hi : i < ((t.data.toList.drop k).take 4).length), (((t.data.toList.drop k).take 4)[i]).toNat = un.bt t (k + i) := fun i hi => by
          rw [List.length_take, List.length_drop, size_list] at hi
          unfold un.bt
          rw [List.getD_eq_getElem?_getD, List.getElem?_eq_getElem (by rw [size_list]; omega), List.getElem_take, List.getElem_drop]; rfl
        refine (oct.rsafe_bad w b t k j q 0 h.1 hn hz.max hj4 (fun i hi => ?_) ?_ z0 (by omega)).mono ?_
        · have h3 := h2 i hi
          rw [hat i (by omega)] at h3
          rw [pbt]
          have : ¬ 128 ≤ un.bt t (k + i) := by simpa using h3
          omega
        · rw [hat j hj] at h1
          rw [pbt]
          have : 128 ≤ un.bt t (k + j) := by simpa using h1
          omega
        · rintro e w' ⟨rfl, hr, hu⟩
          rw [hz.plc _ (by omega)] at hr
          refine ⟨rfl, ⟨?_, hn⟩, hu⟩
          rw [show q + (k : Int) + (j : Int) = q + ((k + j : Nat) : Int) by omega]
          exact hr
    · rw [saf_n hn]
      have hT := take_rs hz 4 (.on k) w b h
      rw [tak_n hn] at hT
      exact oct.rsafe_of _ ⟨#[]⟩ (fun w' => Rs w' b t q (.off k (q + t.size)) ∧ Upd b w w') w (by decide) (fun c hc => by simp at hc) hT
  | off k a =>
    have hT := take_rs hz 4 (.off k a) w b h
    exact oct.rsafe_of _ ⟨#[]⟩ (fun w' => Rs w' b t q (.off k a) ∧ Upd b w w') w (by decide) (fun c hc => by simp at hc) hT
def resS (t : ByteArray) : RS → ByteArray × RS
  | .on k => (t.extract k t.size, .on t.size)
  | .off k a => (⟨#[]⟩, .off k a)
theorem rest_rs {t : ByteArray} {q : Int} (hz : Sz t q) (st : RS) (w : World) (b : Nat) (h : Rs w b t q st) : Calls Try.prog 27 #[.pointer (some ⟨b, 0, none⟩)] w fun e w' => e = .returned (.string (resS t st).1) ∧ Rs w' b t q (resS t st).2 ∧ Upd b w w' := by
  cases st with
  | on k =>
    have hk := h.2
    have H := oct.rest_on w b t k (t.size - k) q 0 h.1 (by omega) hz.max
    rw [show k + (t.size - k) = t.size by omega] at H
    refine H.mono ?_
    rintro e w' ⟨rfl, hr, hu⟩
    exact ⟨rfl, ⟨hr, Nat.le_refl _⟩, hu⟩
  | off k a =>
    refine (oct.rest_off w b t k q 1 a h.1 rfl).mono ?_
    rintro e w' ⟨rfl, hb⟩
    exact ⟨rfl, h.below hb, upd_of b hb⟩
def plS (q : Int) : RS → Int
  | .on k => q + k
  | .off k a => q + k
theorem at_rs {t : ByteArray} {q : Int} (hz : Sz t q) (st : RS) (w : World) (b : Nat) (h : Rs w b t q st) : Calls Try.prog 45 #[.pointer (some ⟨b, 0, none⟩)] w fun e w' => e = .returned (.int .i64 (plS q st)) ∧ w = w' := by
  have z1 := hz.h
  cases st with
  | on k =>
    have H := oct.at_on w b t k q 0 0 h.1 h.2 hz.max hz.z (by omega)
    rw [hz.plc k h.2] at H
    exact H
  | off k a =>
    have H := oct.at_on w b t k q 1 a h.1 h.2 hz.max hz.z (by omega)
    rw [hz.plc k h.2] at H
    exact H
def faS : RS → Int × Int
  | .on k => (0, 0)
  | .off k a => (1, a)
theorem fault_rs {t : ByteArray} {q : Int} (st : RS) (w : World) (b : Nat) (h : Rs w b t q st) : Calls Try.prog 30 #[.pointer (some ⟨b, 0, none⟩)] w fun e w' => e = .returned (.agg #[.int .i64 (faS st).1, .int .i64 (faS st).2]) ∧ Below w.heap.size w w' := by
  cases st with
  | on k => exact oct.fault_some w b 0 0 h.1.lt h.1.c3 h.1.c4
  | off k a => exact oct.fault_some w b 1 a h.1.lt h.1.c3 h.1.c4
def faiS (e a : Int) : RS → RS
  | .on k => if e = 0 then .on k else .off k a
  | .off k x => .off k x
theorem fail_rs {t : ByteArray} {q : Int} (e a : Int) (he : e = 0 ∨ e = 1) (st : RS) (w : World) (b : Nat) (h : Rs w b t q st) : Calls Try.prog 51 #[.pointer (some ⟨b, 0, none⟩), .int .i64 e, .int .i64 a] w fun r w' => r = .returned (.tuple #[]) ∧ Rs w' b t q (faiS e a st) ∧ Upd b w w' := by
  cases st with
  | on k =>
    unfold faiS
    rcases he with rfl | rfl
    · refine (oct.fail_ok w b t k q 0 0 a h.1).mono ?_
      rintro e w' ⟨rfl, hb⟩
      exact ⟨rfl, h.below hb, upd_of b hb⟩
    · refine (oct.fail_on w b t k q 0 1 a h.1 rfl).mono ?_
      rintro e w' ⟨rfl, hr, hu⟩
      exact ⟨rfl, ⟨hr, h.2⟩, hu⟩
  | off k x =>
    refine (oct.fail_off w b t k q 1 x e a h.1 rfl).mono ?_
    rintro e w' ⟨rfl, hb⟩
    exact ⟨rfl, h.below hb, upd_of b hb⟩
end Go.Proofs.Ytkhajafjieofhaa.fl
