/- The document's own reader of layer 1, a struct by value: contracts. -/
import Derived.Test.YtkhcmgnempjjcaaOct7
import Derived.Test.YtkhcmgnempjjcaaOct10
import Derived.Test.YtkhcmgnempjjcaaOct11
namespace Go.Proofs.Ytkhcmgnempjjcaa
open Go.RowKit Go.PlainAid
set_option linter.unusedVariables false
/-- Block b holds a document's reader (or its zero). -/
structure Mb (w : World) (b : Nat) (t : ByteArray) (k bs e at' : Int) : Prop where
  lt : b < w.heap.size
  c0 : w.cell? ⟨b, 0, none⟩ = some (.string t)
  c1 : w.cell? ⟨b, 1, none⟩ = some (.int .i64 k)
  c2 : w.cell? ⟨b, 2, none⟩ = some (.int .i64 bs)
  c3 : w.cell? ⟨b, 3, none⟩ = some (.int .i64 e)
  c4 : w.cell? ⟨b, 4, none⟩ = some (.int .i64 at')
  fr : ∀ o, w.frozen? ⟨b, o, none⟩ = false
theorem Mb.below {w w' : World} {b : Nat} {t : ByteArray} {k bs e at' : Int} {B : Nat} (h : Mb w b t k bs e at') (hb : Below B w w') (hB : b < B) : Mb w' b t k bs e at' := by
  have H : ∀ o, w'.cell? ⟨b, o, none⟩ = w.cell? ⟨b, o, none⟩ := fun o => hb.cell (p := ⟨b, o, none⟩) hB
  have F : ∀ o, w'.frozen? ⟨b, o, none⟩ = w.frozen? ⟨b, o, none⟩ := fun o => hb.frozen (p := ⟨b, o, none⟩) hB
  exact ⟨Nat.lt_of_lt_of_le h.lt hb.size, (H 0).trans h.c0, (H 1).trans h.c1, (H 2).trans h.c2, (H 3).trans h.c3, (H 4).trans h.c4, fun o => (F o).trans (h.fr o)⟩
theorem mb_new (w : World) (t : ByteArray) (k bs e at' : Int) : Mb (w.alloc (.cells #[.string t, .int .i64 k, .int .i64 bs, .int .i64 e, .int .i64 at'] 43)) w.heap.size t k bs e at' := by
  refine ⟨by simp, ?_, ?_, ?_, ?_, ?_, fun o => ?_⟩
  iterate 5 (rw [World.cell?_alloc_mark]; rfl)
  have := World.frozen?_alloc_mark w #[.string t, .int .i64 k, .int .i64 bs, .int .i64 e, .int .i64 at'] 43 0 0 o
  rw [this]; simp
theorem Mb.alloc {w : World} {b : Nat} {t : ByteArray} {k bs e at' : Int} (h : Mb w b t k bs e at') (o : Obj) : Mb (w.alloc o) b t k bs e at' :=
  h.below ((Below.refl _ _).alloc (Nat.le_refl _) o) h.lt
theorem bcell {W w1 : World} (hb : Below W.heap.size W w1) : (∀ b o, b < W.heap.size → w1.cell? ⟨b, o, none⟩ = W.cell? ⟨b, o, none⟩) ∧ (∀ b o, b < W.heap.size → w1.frozen? ⟨b, o, none⟩ = W.frozen? ⟨b, o, none⟩) :=
  ⟨fun b o h => hb.cell (p := ⟨b, o, none⟩) h, fun b o h => hb.frozen (p := ⟨b, o, none⟩) h⟩
theorem mLeft_off (t : ByteArray) (k bs e at' : Int) (w : World) (he : (e != 0) = true) :
    Calls Try.prog 27 #[.agg #[.string t, .int .i64 k, .int .i64 bs, .int .i64 e, .int .i64 at']] w fun e' w' => e' = .returned (.int .i64 0) ∧ Below w.heap.size w w' := by
  go_enter Try.func27, Try.ntmps27
  go_wp2
  go_ret
  exact ⟨rfl, (Below.refl _ _).alloc (Nat.le_refl _) _⟩
theorem mLeft_on (t : ByteArray) (k l : Nat) (bs at' : Int) (w : World) (hk : k + l = t.size) (ht : t.size ≤ 4000000000) :
    Calls Try.prog 27 #[.agg #[.string t, .int .i64 k, .int .i64 bs, .int .i64 0, .int .i64 at']] w fun e' w' => e' = .returned (.int .i64 l) ∧ Below w.heap.size w w' := by
  have HK := Lib.hid hk
  have hk' : k ≤ t.size := by omega
  clear hk
  go_enter Try.func27, Try.ntmps27
  go_wp2
  go_ret
  exact ⟨ret_int (by have := HK.out; omega), (Below.refl _ _).alloc (Nat.le_refl _) _⟩
theorem mFail_on (t : ByteArray) (k bs at' c n : Int) (w : World) (hc : (c != 0) = true) :
    Calls Try.prog 46 #[.agg #[.string t, .int .i64 k, .int .i64 bs, .int .i64 0, .int .i64 at'], .int .i64 c, .int .i64 n] w fun e' w' => e' = .returned (.agg #[.string t, .int .i64 k, .int .i64 bs, .int .i64 c, .int .i64 n]) ∧ Below w.heap.size w w' := by
  go_enter Try.func46, Try.ntmps46
  go_wp2
  exact bodyPost_ret (v := .agg #[.string t, .int .i64 k, .int .i64 bs, .int .i64 c, .int .i64 n]) (by simp [results, Try.results46, go_sem]) rfl ⟨rfl, by repeat (first | (with_reducible exact Below.refl _ _) | (with_reducible refine Below.setCell ?_ (by simp) _) | (with_reducible refine Below.alloc ?_ (by simp) _))⟩
theorem mFail_ok (t : ByteArray) (k bs e at' n : Int) (w : World) :
    Calls Try.prog 46 #[.agg #[.string t, .int .i64 k, .int .i64 bs, .int .i64 e, .int .i64 at'], .int .i64 0, .int .i64 n] w fun e' w' => e' = .returned (.agg #[.string t, .int .i64 k, .int .i64 bs, .int .i64 e, .int .i64 at']) ∧ Below w.heap.size w w' := by
  by_cases he : (e == 0) = true
  all_goals
    go_enter Try.func46, Try.ntmps46
    go_wp2
    exact bodyPost_ret (v := .agg #[.string t, .int .i64 k, .int .i64 bs, .int .i64 e, .int .i64 at']) (by simp [results, Try.results46, go_sem]) rfl ⟨rfl, by repeat (first | (with_reducible exact Below.refl _ _) | (with_reducible refine Below.setCell ?_ (by simp) _) | (with_reducible refine Below.alloc ?_ (by simp) _))⟩
theorem mFail_off (t : ByteArray) (k bs e at' c n : Int) (w : World) (he : (e == 0) = false) :
    Calls Try.prog 46 #[.agg #[.string t, .int .i64 k, .int .i64 bs, .int .i64 e, .int .i64 at'], .int .i64 c, .int .i64 n] w fun e' w' => e' = .returned (.agg #[.string t, .int .i64 k, .int .i64 bs, .int .i64 e, .int .i64 at']) ∧ Below w.heap.size w w' := by
  go_enter Try.func46, Try.ntmps46
  go_wp2
  exact bodyPost_ret (v := .agg #[.string t, .int .i64 k, .int .i64 bs, .int .i64 e, .int .i64 at']) (by simp [results, Try.results46, go_sem]) rfl ⟨rfl, by repeat (first | (with_reducible exact Below.refl _ _) | (with_reducible refine Below.setCell ?_ (by simp) _) | (with_reducible refine Below.alloc ?_ (by simp) _))⟩
theorem mTake_off (t : ByteArray) (k bs e at' n : Int) (w : World) (he : (e != 0) = true) :
    Calls Try.prog 40 #[.agg #[.string t, .int .i64 k, .int .i64 bs, .int .i64 e, .int .i64 at'], .int .i64 n] w fun e' w' => e' = .returned (.tuple #[.agg #[.string t, .int .i64 k, .int .i64 bs, .int .i64 e, .int .i64 at'], .string ⟨#[]⟩]) ∧ Below w.heap.size w w' := by
  go_enter Try.func40, Try.ntmps40
  go_wp2
  exact bodyPost_ret (v := .tuple #[.agg #[.string t, .int .i64 k, .int .i64 bs, .int .i64 e, .int .i64 at'], .string ⟨#[]⟩]) (by simp [results, Try.results40, go_sem]) rfl ⟨rfl, by repeat (first | (with_reducible exact Below.refl _ _) | (with_reducible refine Below.setCell ?_ (by simp) _) | (with_reducible refine Below.alloc ?_ (by simp) _))⟩
theorem mTake_ok (t : ByteArray) (k n l : Nat) (bs at' : Int) (w : World) (hk : k + l = t.size) (hn : n ≤ l) (ht : t.size ≤ 4000000000) :
    Calls Try.prog 40 #[.agg #[.string t, .int .i64 (k : Int), .int .i64 bs, .int .i64 0, .int .i64 at'], .int .i64 n] w fun e' w' => e' = .returned (.tuple #[.agg #[.string t, .int .i64 ((k + n : Nat) : Int), .int .i64 bs, .int .i64 0, .int .i64 at'], .string (t.extract k (k + n))]) ∧ Below w.heap.size w w' := by
  have HK := Lib.hid hk
  have hnl : (n : Int) ≤ (l : Int) := by omega
  have hkn : k + n ≤ t.size := by omega
  have hsl := slice_km t k n hkn
  clear hk
  go_enter Try.func40, Try.ntmps40
  go_wp2_with (go_at_call 27; refine (mLeft_on _ _ _ _ _ _ HK.out ht).mono ?_; rintro e1 w1 ⟨rfl, hb1⟩; have l1 : w.heap.size + 1 + 1 ≤ w1.heap.size := (by have := hb1.size; simpa using this); have g1 : Below w.heap.size w w1 := (((Below.refl w.heap.size w).alloc (Nat.le_refl _) _).alloc (by simp) _).trans (hb1.mono (by simp; omega)); have M1 := Lib.hid (((mb_new w t (k : Int) bs 0 at').alloc (.cells #[.string ⟨#[]⟩, .int .i64 0, .int .i64 0, .int .i64 0, .int .i64 0] 43)).below hb1 (by simp; omega)); obtain ⟨_, c0, c1, c2, c3, c4, fr⟩ := M1.out; have M2 := Lib.hid ((mb_new (w.alloc (.cells #[.string t, .int .i64 (k : Int), .int .i64 bs, .int .i64 0, .int .i64 at'] 43)) ⟨#[]⟩ 0 0 0 0).below hb1 (by simp)); obtain ⟨_, d0, d1, d2, d3, d4, fs⟩ := M2.out; simp only [World.size_alloc] at d0 d1 d2 d3 d4 fs)
  exact bodyPost_ret (v := .tuple #[.agg #[.string t, .int .i64 ((k : Int) + (n : Int)), .int .i64 bs, .int .i64 0, .int .i64 at'], .string (t.extract k (k + n))]) (by simp [results, Try.results40, go_sem, d0, d1, d2, d3, d4]) rfl ⟨by simp, by repeat (first | (with_reducible exact g1) | (with_reducible exact Below.refl _ _) | (with_reducible refine Below.setCell ?_ (by simp) _) | (with_reducible refine Below.alloc ?_ (by simp; omega) _))⟩
theorem mTake_short (t : ByteArray) (k l : Nat) (n bs at' : Int) (w : World) (hk : k + l = t.size) (hn : n < 0 ∨ (l : Int) < n) (ht : t.size ≤ 4000000000) (z0 : 0 ≤ bs) (z1 : bs ≤ 4000000000000) :
    Calls Try.prog 40 #[.agg #[.string t, .int .i64 (k : Int), .int .i64 bs, .int .i64 0, .int .i64 at'], .int .i64 n] w fun e' w' => e' = .returned (.tuple #[.agg #[.string t, .int .i64 (k : Int), .int .i64 bs, .int .i64 1, .int .i64 (bs + (t.size : Int))], .string ⟨#[]⟩]) ∧ Below w.heap.size w w' := by
  have HK := Lib.hid hk
  clear hk
  rcases hn with hn | hn
  · go_enter Try.func40, Try.ntmps40
    go_wp2_with (go_at_call 46; refine (mFail_on _ _ _ _ _ _ _ rfl).mono ?_; rintro e1 w1 ⟨rfl, hb1⟩; have l1 : w.heap.size + 1 + 1 ≤ w1.heap.size := (by have := hb1.size; simpa using this); have g1 : Below w.heap.size w w1 := (((Below.refl w.heap.size w).alloc (Nat.le_refl _) _).alloc (by simp) _).trans (hb1.mono (by simp; omega)); have M1 := Lib.hid (((mb_new w t (k : Int) bs 0 at').alloc (.cells #[.string ⟨#[]⟩, .int .i64 0, .int .i64 0, .int .i64 0, .int .i64 0] 43)).below hb1 (by simp; omega)); obtain ⟨_, c0, c1, c2, c3, c4, fr⟩ := M1.out; have M2 := Lib.hid ((mb_new (w.alloc (.cells #[.string t, .int .i64 (k : Int), .int .i64 bs, .int .i64 0, .int .i64 at'] 43)) ⟨#[]⟩ 0 0 0 0).below hb1 (by simp)); obtain ⟨_, d0, d1, d2, d3, d4, fs⟩ := M2.out; simp only [World.size_alloc] at d0 d1 d2 d3 d4 fs)
    exact bodyPost_ret (v := .tuple #[.agg #[.string t, .int .i64 (k : Int), .int .i64 bs, .int .i64 1, .int .i64 (bs + (t.size : Int))], .string ⟨#[]⟩]) (by simp [results, Try.results40, go_sem, d0, d1, d2, d3, d4]) rfl ⟨rfl, by repeat (first | (with_reducible exact g1) | (with_reducible exact Below.refl _ _) | (with_reducible refine Below.setCell ?_ (by simp) _) | (with_reducible refine Below.alloc ?_ (by simp; omega) _))⟩
  · have hn' : ¬ n < 0 := by omega
    go_enter Try.func40, Try.ntmps40
    go_wp2_with (first | (go_at_call 27; refine (mLeft_on _ _ _ _ _ _ HK.out ht).mono ?_; rintro e1 w1 ⟨rfl, hb1⟩; have l1 : w.heap.size + 1 + 1 ≤ w1.heap.size := (by have := hb1.size; simpa using this); have g1 : Below w.heap.size w w1 := (((Below.refl w.heap.size w).alloc (Nat.le_refl _) _).alloc (by simp) _).trans (hb1.mono (by simp; omega)); have M1 := Lib.hid (((mb_new w t (k : Int) bs 0 at').alloc (.cells #[.string ⟨#[]⟩, .int .i64 0, .int .i64 0, .int .i64 0, .int .i64 0] 43)).below hb1 (by simp; omega)); obtain ⟨_, c0, c1, c2, c3, c4, fr⟩ := M1.out; have M2 := Lib.hid ((mb_new (w.alloc (.cells #[.string t, .int .i64 (k : Int), .int .i64 bs, .int .i64 0, .int .i64 at'] 43)) ⟨#[]⟩ 0 0 0 0).below hb1 (by simp)); obtain ⟨_, d0, d1, d2, d3, d4, fs⟩ := M2.out; simp only [World.size_alloc] at d0 d1 d2 d3 d4 fs) | (go_at_call 46; refine (mFail_on _ _ _ _ _ _ _ rfl).mono ?_; rintro e1 w2 ⟨rfl, hb2⟩; have g2 := g1.trans (hb2.mono g1.size); have l2 : w.heap.size + 1 + 1 ≤ w2.heap.size := Nat.le_trans l1 hb2.size; obtain ⟨_, c0, c1, c2, c3, c4, fr⟩ := M1.out.below hb2 M1.out.lt; obtain ⟨_, d0, d1, d2, d3, d4, fs⟩ := M2.out.below hb2 M2.out.lt; simp only [World.size_alloc] at d0 d1 d2 d3 d4 fs))
    exact bodyPost_ret (v := .tuple #[.agg #[.string t, .int .i64 (k : Int), .int .i64 bs, .int .i64 1, .int .i64 (bs + (t.size : Int))], .string ⟨#[]⟩]) (by simp [results, Try.results40, go_sem, d0, d1, d2, d3, d4]) rfl ⟨rfl, by repeat (first | (with_reducible exact g2) | (with_reducible exact Below.refl _ _) | (with_reducible refine Below.setCell ?_ (by simp) _) | (with_reducible refine Below.alloc ?_ (by simp; omega) _))⟩
end Go.Proofs.Ytkhcmgnempjjcaa
