/- The document's own Until of a reader of layer 1: contracts. -/
import Derived.Test.YtkhcmgnempjjcaaOct14
namespace Go.Proofs.Ytkhcmgnempjjcaa
open Go.RowKit Go.PlainAid
set_option linter.unusedVariables false
set_option maxRecDepth 100000 in
theorem mUntil_found (t e : ByteArray) (k st p : Nat) (bs at' : Int) (w : World) (hst : e.size < 1 ∧ st = 1 ∨ 1 ≤ e.size ∧ st = e.size) (hf : Found t e k st p) (ht : t.size ≤ 4000000000) :
    Calls Try.prog 45 #[.agg #[.string t, .int .i64 (k : Int), .int .i64 bs, .int .i64 0, .int .i64 at'], .string e] w fun e2 w' => e2 = .returned (.tuple #[.agg #[.string t, .int .i64 ((p + e.size : Nat) : Int), .int .i64 bs, .int .i64 0, .int .i64 at'], .string (t.extract k p)]) ∧ Below w.heap.size w w' := by
  have F := Lib.hid hf
  have hfit := hf.fits
  have hkp : k ≤ p := by obtain ⟨i, rfl⟩ := hf.pos; omega
  clear hf
  rcases hst with ⟨he, rfl⟩ | ⟨he, rfl⟩
  · have he0 : ((e.size : Int) == 0) = true := by rw [show (e.size : Int) = 0 from by omega]; rfl
    go_enter Try.func45, Try.ntmps45
    go_wp2
    go_loop [7] (fun i => ∃ a : Nat, i = .int .i64 a ∧ Pos k 1 a ∧ a ≤ p) (fun i => (t.size + 1) - (intOf i).toNat)
    case atStart => exact ⟨k, rfl, Pos.zero _ _, hkp⟩
    case round =>
      obtain ⟨a, rfl, hp, hap⟩ := hrel
      have hP := Lib.hid hp
      by_cases hlt2 : a < p
      · have hno : ((t.extract a (a + e.size)).toList == e.toList) = false := F.out.first a hp hlt2
        have hgap := hp.gap F.out.pos hlt2
        have hae : a + e.size ≤ t.size := by omega
        have hsl := slice_km t a e.size hae
        clear hp
        go_wp2
        go_round
        case rel => exact ⟨a + 1, by go_num, hP.out.next, hgap⟩
        case measure => simp [intOf]; omega
      · obtain rfl : a = p := by omega
        have hyes : ((t.extract a (a + e.size)).toList == e.toList) = true := F.out.hit
        have hsl := slice_km t a e.size hfit
        have hsl2 := slice_ab t k a hkp (by omega)
        clear hp hlt2 hap
        go_wp2
        exact bodyPost_ret (v := .tuple #[.agg #[.string t, .int .i64 ((a : Int) + (e.size : Int)), .int .i64 bs, .int .i64 0, .int .i64 at'], .string (t.extract k a)]) (by simp [results, Try.results45, go_sem]) rfl ⟨by simp, by repeat (first | (with_reducible exact Below.refl _ _) | (with_reducible refine Below.setCell ?_ (by simp) _) | (with_reducible refine Below.alloc ?_ (by simp) _))⟩
  · have he0 : ((e.size : Int) == 0) = false := by rw [beq_eq_false_iff_ne]; omega
    go_enter Try.func45, Try.ntmps45
    go_wp2
    go_loop [7] (fun i => ∃ a : Nat, i = .int .i64 a ∧ Pos k e.size a ∧ a ≤ p) (fun i => (t.size + 1) - (intOf i).toNat)
    case atStart => exact ⟨k, rfl, Pos.zero _ _, hkp⟩
    case round =>
      obtain ⟨a, rfl, hp, hap⟩ := hrel
      have hP := Lib.hid hp
      by_cases hlt2 : a < p
      · have hno : ((t.extract a (a + e.size)).toList == e.toList) = false := F.out.first a hp hlt2
        have hgap := hp.gap F.out.pos hlt2
        have hae : a + e.size ≤ t.size := by omega
        have hsl := slice_km t a e.size hae
        clear hp
        go_wp2
        go_round
        case rel => exact ⟨a + e.size, by go_num, hP.out.next, hgap⟩
        case measure => simp [intOf]; omega
      · obtain rfl : a = p := by omega
        have hyes : ((t.extract a (a + e.size)).toList == e.toList) = true := F.out.hit
        have hsl := slice_km t a e.size hfit
        have hsl2 := slice_ab t k a hkp (by omega)
        clear hp hlt2 hap
        go_wp2
        exact bodyPost_ret (v := .tuple #[.agg #[.string t, .int .i64 ((a : Int) + (e.size : Int)), .int .i64 bs, .int .i64 0, .int .i64 at'], .string (t.extract k a)]) (by simp [results, Try.results45, go_sem]) rfl ⟨by simp, by repeat (first | (with_reducible exact Below.refl _ _) | (with_reducible refine Below.setCell ?_ (by simp) _) | (with_reducible refine Below.alloc ?_ (by simp) _))⟩
set_option maxRecDepth 100000 in
theorem mUntil_lacks (t e : ByteArray) (k st : Nat) (bs at' : Int) (w : World) (hst : e.size < 1 ∧ st = 1 ∨ 1 ≤ e.size ∧ st = e.size) (hf : Lacks t e k st) (hk : k ≤ t.size) (ht : t.size ≤ 4000000000) (hes : e.size ≤ 4000000000) (z0 : 0 ≤ bs) (z1 : bs ≤ 4000000000000) :
    Calls Try.prog 45 #[.agg #[.string t, .int .i64 (k : Int), .int .i64 bs, .int .i64 0, .int .i64 at'], .string e] w fun e2 w' => e2 = .returned (.tuple #[.agg #[.string t, .int .i64 (k : Int), .int .i64 bs, .int .i64 1, .int .i64 (bs + (t.size : Int))], .string ⟨#[]⟩]) ∧ Below w.heap.size w w' := by
  have F := Lib.hid hf
  clear hf
  rcases hst with ⟨he, rfl⟩ | ⟨he, rfl⟩
  · have he0 : ((e.size : Int) == 0) = true := by rw [show (e.size : Int) = 0 from by omega]; rfl
    go_enter Try.func45, Try.ntmps45
    go_wp2
    go_loop [7] (fun i => ∃ a : Nat, i = .int .i64 a ∧ Pos k 1 a ∧ a ≤ t.size + 1) (fun i => (t.size + 2) - (intOf i).toNat)
    case atStart => exact ⟨k, rfl, Pos.zero _ _, by omega⟩
    case round =>
      obtain ⟨a, rfl, hp, hap⟩ := hrel
      have hP := Lib.hid hp
      by_cases hae : a + e.size ≤ t.size
      · have hno : ((t.extract a (a + e.size)).toList == e.toList) = false := F.out a hp hae
        have hsl := slice_km t a e.size hae
        clear hp
        go_wp2
        go_round
        case rel => exact ⟨a + 1, by go_num, hP.out.next, by omega⟩
        case measure => simp [intOf]; omega
      · have hae' : ¬ (a : Int) + (e.size : Int) ≤ (t.size : Int) := by omega
        clear hp
        go_wp2_with (go_at_call 46; refine (mFail_on _ _ _ _ _ _ _ rfl).mono ?_; rintro e1 w1 ⟨rfl, hb1⟩; have l1 : w.heap.size + 1 + 1 ≤ w1.heap.size := (by have := hb1.size; simpa using this); have q1 : w.heap.size + 1 < w1.heap.size := l1; have q0 : w.heap.size < w1.heap.size := (by omega); have g1 : Below w.heap.size w w1 := (((Below.refl w.heap.size w).alloc (Nat.le_refl _) _).alloc (by simp) _).trans (hb1.mono (by simp; omega)); have M1 := Lib.hid (((mb_new w t (k : Int) bs 0 at').alloc (.cells #[.string ⟨#[]⟩, .int .i64 0, .int .i64 0, .int .i64 0, .int .i64 0] 43)).below hb1 (by simp; omega)); obtain ⟨_, c0, c1, c2, c3, c4, fr⟩ := M1.out; have M2 : Hid (Mb w1 (w.heap.size + 1) ⟨#[]⟩ 0 0 0 0) := Lib.hid (by have X := (mb_new (w.alloc (.cells #[.string t, .int .i64 (k : Int), .int .i64 bs, .int .i64 0, .int .i64 at'] 43)) ⟨#[]⟩ 0 0 0 0).below hb1 (by simp); rwa [World.size_alloc] at X); obtain ⟨_, d0, d1, d2, d3, d4, fs⟩ := M2.out)
        exact bodyPost_ret (v := .tuple #[.agg #[.string t, .int .i64 (k : Int), .int .i64 bs, .int .i64 1, .int .i64 (bs + (t.size : Int))], .string ⟨#[]⟩]) (by simp [results, Try.results45, go_sem, d0, d1, d2, d3, d4]) rfl ⟨rfl, by repeat (first | (with_reducible exact g1) | (with_reducible exact Below.refl _ _) | (with_reducible refine Below.setCell ?_ (by simp) _) | (with_reducible refine Below.alloc ?_ (by simp; omega) _))⟩
  · have he0 : ((e.size : Int) == 0) = false := by rw [beq_eq_false_iff_ne]; omega
    go_enter Try.func45, Try.ntmps45
    go_wp2
    go_loop [7] (fun i => ∃ a : Nat, i = .int .i64 a ∧ Pos k e.size a ∧ a ≤ t.size + 1) (fun i => (t.size + 2) - (intOf i).toNat)
    case atStart => exact ⟨k, rfl, Pos.zero _ _, by omega⟩
    case round =>
      obtain ⟨a, rfl, hp, hap⟩ := hrel
      have hP := Lib.hid hp
      by_cases hae : a + e.size ≤ t.size
      · have hno : ((t.extract a (a + e.size)).toList == e.toList) = false := F.out a hp hae
        have hsl := slice_km t a e.size hae
        clear hp
        go_wp2
        go_round
        case rel => exact ⟨a + e.size, by go_num, hP.out.next, by omega⟩
        case measure => simp [intOf]; omega
      · have hae' : ¬ (a : Int) + (e.size : Int) ≤ (t.size : Int) := by omega
        clear hp
        go_wp2_with (go_at_call 46; refine (mFail_on _ _ _ _ _ _ _ rfl).mono ?_; rintro e1 w1 ⟨rfl, hb1⟩; have l1 : w.heap.size + 1 + 1 ≤ w1.heap.size := (by have := hb1.size; simpa using this); have q1 : w.heap.size + 1 < w1.heap.size := l1; have q0 : w.heap.size < w1.heap.size := (by omega); have g1 : Below w.heap.size w w1 := (((Below.refl w.heap.size w).alloc (Nat.le_refl _) _).alloc (by simp) _).trans (hb1.mono (by simp; omega)); have M1 := Lib.hid (((mb_new w t (k : Int) bs 0 at').alloc (.cells #[.string ⟨#[]⟩, .int .i64 0, .int .i64 0, .int .i64 0, .int .i64 0] 43)).below hb1 (by simp; omega)); obtain ⟨_, c0, c1, c2, c3, c4, fr⟩ := M1.out; have M2 : Hid (Mb w1 (w.heap.size + 1) ⟨#[]⟩ 0 0 0 0) := Lib.hid (by have X := (mb_new (w.alloc (.cells #[.string t, .int .i64 (k : Int), .int .i64 bs, .int .i64 0, .int .i64 at'] 43)) ⟨#[]⟩ 0 0 0 0).below hb1 (by simp); rwa [World.size_alloc] at X); obtain ⟨_, d0, d1, d2, d3, d4, fs⟩ := M2.out)
        exact bodyPost_ret (v := .tuple #[.agg #[.string t, .int .i64 (k : Int), .int .i64 bs, .int .i64 1, .int .i64 (bs + (t.size : Int))], .string ⟨#[]⟩]) (by simp [results, Try.results45, go_sem, d0, d1, d2, d3, d4]) rfl ⟨rfl, by repeat (first | (with_reducible exact g1) | (with_reducible exact Below.refl _ _) | (with_reducible refine Below.setCell ?_ (by simp) _) | (with_reducible refine Below.alloc ?_ (by simp; omega) _))⟩
end Go.Proofs.Ytkhcmgnempjjcaa
