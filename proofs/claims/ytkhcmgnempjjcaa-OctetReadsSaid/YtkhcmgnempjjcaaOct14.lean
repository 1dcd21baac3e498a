/- The document's own Safe and Want of a reader of layer 1: contracts. -/
import Derived.Test.YtkhcmgnempjjcaaOct13
namespace Go.Proofs.Ytkhcmgnempjjcaa
open Go.RowKit Go.PlainAid
set_option linter.unusedVariables false
set_option maxRecDepth 100000 in
theorem mSafe_bad (t : ByteArray) (k j : Nat) (bs at' : Int) (w : World) (hk : k + 4 ≤ t.size) (ht : t.size ≤ 4000000000) (hj : j < 4) (hlo : ∀ i, i < j → bt t (k + i) < 128) (hhi : 128 ≤ bt t (k + j)) (z0 : 0 ≤ bs) (z1 : bs ≤ 4000000000000) :
    Calls Try.prog 43 #[.agg #[.string t, .int .i64 (k : Int), .int .i64 bs, .int .i64 0, .int .i64 at']] w fun e2 w' => e2 = .returned (.tuple #[.agg #[.string t, .int .i64 ((k + 4 : Nat) : Int), .int .i64 bs, .int .i64 1, .int .i64 (bs + ((k + j : Nat) : Int))], .int .i64 0]) ∧ Below w.heap.size w w' := by
  have T := fun w => mTake_ok t k 4 (t.size - k) bs at' w (by omega) (by omega) ht
  have hlo' : ∀ i, i < j → bt (t.extract k (k + 4)) i < 128 := fun i hi => by rw [bt_extract t k 4 i hk (by omega)]; exact hlo i hi
  have hhi' : 128 ≤ bt (t.extract k (k + 4)) j := by rw [bt_extract t k 4 j hk hj]; exact hhi
  have hs : (t.extract k (k + 4)).size = 4 := by rw [ByteArray.size_extract]; omega
  generalize t.extract k (k + 4) = nx at T hlo' hhi' hs
  have HT := Lib.hid T; have LO := Lib.hid hlo'; have HI := Lib.hid hhi'; have HS := Lib.hid hs
  clear T hlo' hhi' hs hlo hhi
  go_enter Try.func43, Try.ntmps43
  go_wp2_with (go_at_call 40; refine (HT.out _).mono ?_; rintro e1 w1 ⟨rfl, hb1⟩; have l1 : w.heap.size + 1 + 1 ≤ w1.heap.size := (by have := hb1.size; simpa using this); have q1 : w.heap.size + 1 < w1.heap.size := l1; have q0 : w.heap.size < w1.heap.size := (by omega); have g1 : Below w.heap.size w w1 := (((Below.refl w.heap.size w).alloc (Nat.le_refl _) _).alloc (by simp) _).trans (hb1.mono (by simp; omega)); have M1 := Lib.hid (((mb_new w t (k : Int) bs 0 at').alloc (.cells #[.string ⟨#[]⟩, .int .i64 0, .int .i64 0, .int .i64 0, .int .i64 0] 43)).below hb1 (by simp; omega)); obtain ⟨_, c0, c1, c2, c3, c4, fr⟩ := M1.out; have M2 : Hid (Mb w1 (w.heap.size + 1) ⟨#[]⟩ 0 0 0 0) := Lib.hid (by have X := (mb_new (w.alloc (.cells #[.string t, .int .i64 (k : Int), .int .i64 bs, .int .i64 0, .int .i64 at'] 43)) ⟨#[]⟩ 0 0 0 0).below hb1 (by simp); rwa [World.size_alloc] at X); obtain ⟨_, d0, d1, d2, d3, d4, fs⟩ := M2.out)
  go_loop [7, 8] (fun n i => ∃ q : Nat, q ≤ j ∧ i = .int .i64 q ∧ ∃ v : Int, n = .int .i64 v) (fun _ i => nx.size - (intOf i).toNat)
  case atStart => exact ⟨0, Nat.zero_le _, rfl, 0, rfl⟩
  case round =>
    obtain ⟨q, hq, rfl, v, rfl⟩ := hrel
    have hqs : q < nx.size := by have := HS.out; omega
    by_cases hqj : q < j
    · have hb : ((nx[q].toNat : Nat) : Int) < 128 := by rw [get_bt]; exact LO.out q hqj
      go_wp2
      go_round
      case rel => exact ⟨q + 1, by omega, by go_num, _, rfl⟩
      case measure => simp [intOf]; omega
    · obtain rfl : q = j := by omega
      have hb : 128 ≤ ((nx[q].toNat : Nat) : Int) := by rw [get_bt]; exact HI.out
      clear hqj
      have q2 : Hid (Mb (w1.alloc (.cells #[.string t, .int .i64 ((k : Int) + 4), .int .i64 bs, .int .i64 0, .int .i64 at'] 43)) (w.heap.size + 1) ⟨#[]⟩ 0 0 0 0) := Lib.hid (M2.out.alloc _)
      go_wp2_with (go_at_call 46; refine (mFail_on _ _ _ _ _ _ _ rfl).mono ?_; rintro e1 w2 ⟨rfl, hb2⟩; have g2 : Below w.heap.size w w2 := (g1.alloc g1.size _).trans (hb2.mono (by have := g1.size; simp; omega)); obtain ⟨_, d0, d1, d2, d3, d4, fs⟩ := q2.out.below hb2 q2.out.lt)
      have he : Hid (bs + (k : Int) + (q : Int) = bs + ((k + q : Nat) : Int)) := Lib.hid (by omega)
      exact bodyPost_ret (v := .tuple #[.agg #[.string t, .int .i64 ((k : Int) + 4), .int .i64 bs, .int .i64 1, .int .i64 (bs + (k : Int) + (q : Int))], .int .i64 0]) (by simp [results, Try.results43, go_sem, d0, d1, d2, d3, d4]) rfl ⟨by rw [he.out]; rfl, by repeat (first | (with_reducible exact g2) | (with_reducible exact Below.refl _ _) | (with_reducible refine Below.setCell ?_ (by simp) _) | (with_reducible refine Below.alloc ?_ (by simp; omega) _))⟩
theorem mWant_off (t s : ByteArray) (k bs e at' : Int) (w : World) (he : (e != 0) = true) :
    Calls Try.prog 44 #[.agg #[.string t, .int .i64 k, .int .i64 bs, .int .i64 e, .int .i64 at'], .string s] w fun e2 w' => e2 = .returned (.tuple #[.agg #[.string t, .int .i64 k, .int .i64 bs, .int .i64 e, .int .i64 at'], .bool false]) ∧ Below w.heap.size w w' := by
  go_enter Try.func44, Try.ntmps44
  go_wp2
  exact bodyPost_ret (v := .tuple #[.agg #[.string t, .int .i64 k, .int .i64 bs, .int .i64 e, .int .i64 at'], .bool false]) (by simp [results, Try.results44, go_sem]) rfl ⟨rfl, by repeat (first | (with_reducible exact Below.refl _ _) | (with_reducible refine Below.setCell ?_ (by simp) _) | (with_reducible refine Below.alloc ?_ (by simp) _))⟩
theorem mUntil_off (t s : ByteArray) (k bs e at' : Int) (w : World) (he : (e != 0) = true) :
    Calls Try.prog 45 #[.agg #[.string t, .int .i64 k, .int .i64 bs, .int .i64 e, .int .i64 at'], .string s] w fun e2 w' => e2 = .returned (.tuple #[.agg #[.string t, .int .i64 k, .int .i64 bs, .int .i64 e, .int .i64 at'], .string ⟨#[]⟩]) ∧ Below w.heap.size w w' := by
  go_enter Try.func45, Try.ntmps45
  go_wp2
  exact bodyPost_ret (v := .tuple #[.agg #[.string t, .int .i64 k, .int .i64 bs, .int .i64 e, .int .i64 at'], .string ⟨#[]⟩]) (by simp [results, Try.results45, go_sem]) rfl ⟨rfl, by repeat (first | (with_reducible exact Below.refl _ _) | (with_reducible refine Below.setCell ?_ (by simp) _) | (with_reducible refine Below.alloc ?_ (by simp) _))⟩
set_option maxRecDepth 100000 in
theorem mWant_ok (t s : ByteArray) (k m : Nat) (bs at' : Int) (w : World) (hg : Agree t s k m) (hm : m = s.size) (ht : t.size ≤ 4000000000) :
    Calls Try.prog 44 #[.agg #[.string t, .int .i64 (k : Int), .int .i64 bs, .int .i64 0, .int .i64 at'], .string s] w fun e2 w' => e2 = .returned (.tuple #[.agg #[.string t, .int .i64 ((k + m : Nat) : Int), .int .i64 bs, .int .i64 0, .int .i64 at'], .bool true]) ∧ Below w.heap.size w w' := by
  have G := Lib.hid hg
  have hkt := hg.kt
  subst hm
  clear hg
  go_enter Try.func44, Try.ntmps44
  go_wp2
  go_loopw [6] (fun i w1 => ∃ j : Nat, j ≤ s.size ∧ i = .int .i64 j ∧ Below ((w.alloc (.cells #[.string t, .int .i64 (k : Int), .int .i64 bs, .int .i64 0, .int .i64 at'] 43)).alloc (.cells #[.string ⟨#[]⟩, .int .i64 0, .int .i64 0, .int .i64 0, .int .i64 0] 43)).heap.size ((w.alloc (.cells #[.string t, .int .i64 (k : Int), .int .i64 bs, .int .i64 0, .int .i64 at'] 43)).alloc (.cells #[.string ⟨#[]⟩, .int .i64 0, .int .i64 0, .int .i64 0, .int .i64 0] 43)) w1) (fun i _ => s.size - (intOf i).toNat)
  case atStart => exact ⟨0, Nat.zero_le _, rfl, Below.refl _ _⟩
  case round =>
    obtain ⟨j, hj, rfl, hb1⟩ := hrel
    obtain ⟨w1, hw⟩ : ∃ x, x = wr := ⟨_, rfl⟩
    subst hw
    have l1 : w.heap.size + 1 + 1 ≤ w1.heap.size := (by have := hb1.size; simpa using this); have q1 : w.heap.size + 1 < w1.heap.size := l1; have q0 : w.heap.size < w1.heap.size := (by omega); have g1 : Below w.heap.size w w1 := (((Below.refl w.heap.size w).alloc (Nat.le_refl _) _).alloc (by simp) _).trans (hb1.mono (by simp; omega)); have M1 := Lib.hid (((mb_new w t (k : Int) bs 0 at').alloc (.cells #[.string ⟨#[]⟩, .int .i64 0, .int .i64 0, .int .i64 0, .int .i64 0] 43)).below hb1 (by simp; omega)); obtain ⟨_, c0, c1, c2, c3, c4, fr⟩ := M1.out; have M2 : Hid (Mb w1 (w.heap.size + 1) ⟨#[]⟩ 0 0 0 0) := Lib.hid (by have X := (mb_new (w.alloc (.cells #[.string t, .int .i64 (k : Int), .int .i64 bs, .int .i64 0, .int .i64 at'] 43)) ⟨#[]⟩ 0 0 0 0).below hb1 (by simp); rwa [World.size_alloc] at X); obtain ⟨_, d0, d1, d2, d3, d4, fs⟩ := M2.out
    by_cases hlt : j < s.size
    · have hkj : k + j < t.size := by omega
      have hkj' : (k : Int) + (j : Int) < (t.size : Int) := by omega
      have hc : (((t[k + j]'hkj).toNat : Nat) : Int) = (((s[j]'hlt).toNat : Nat) : Int) := by rw [get_bt, get_bt]; exact G.out.same j hlt
      have hc1 : ((((t[k + j]'hkj).toNat : Nat) : Int) != (((s[j]'hlt).toNat : Nat) : Int)) = false := by rw [hc]; simp
      clear hc
      go_wp2_with fail
      have b3 : (0 : Int) ≤ (k : Int) + (j : Int) := by omega
      have e2 : ((k : Int) + (j : Int)).toNat = k + j := by omega
      have e1 : IntKind.i64.wrap ((k : Int) + (j : Int)) = (k : Int) + (j : Int) := IntWalk.i64_in _ (by omega)
      go_quiet (fail)
      clear e1
      go_wp2
      go_roundw
      case rel => exact ⟨j + 1, by omega, by go_num, below_drewN hb1 _⟩
      case measure => simp [intOf]; omega
    · obtain rfl : j = s.size := by omega
      clear hlt
      go_wp2
      exact bodyPost_ret (v := .tuple #[.agg #[.string t, .int .i64 ((k : Int) + (s.size : Int)), .int .i64 bs, .int .i64 0, .int .i64 at'], .bool true]) (by simp [results, Try.results44, go_sem, d0, d1, d2, d3, d4]) rfl ⟨by simp, by repeat (first | (with_reducible exact g1) | (with_reducible exact Below.refl _ _) | (with_reducible refine Below.setCell ?_ (by simp) _) | (with_reducible refine Below.alloc ?_ (by simp; omega) _))⟩
set_option maxRecDepth 100000 in
theorem mWant_no (t s : ByteArray) (k m : Nat) (bs at' : Int) (w : World) (hg : Agree t s k m) (hm : m < s.size) (ht : t.size ≤ 4000000000) (hss : s.size ≤ 4000000000) (z0 : 0 ≤ bs) (z1 : bs ≤ 4000000000000) :
    Calls Try.prog 44 #[.agg #[.string t, .int .i64 (k : Int), .int .i64 bs, .int .i64 0, .int .i64 at'], .string s] w fun e2 w' => e2 = .returned (.tuple #[.agg #[.string t, .int .i64 (k : Int), .int .i64 bs, .int .i64 1, .int .i64 (bs + ((k + m : Nat) : Int))], .bool false]) ∧ Below w.heap.size w w' := by
  have G := Lib.hid hg
  have hkt := hg.kt
  clear hg
  go_enter Try.func44, Try.ntmps44
  go_wp2
  go_loopw [6] (fun i w1 => ∃ j : Nat, j ≤ m ∧ i = .int .i64 j ∧ Below ((w.alloc (.cells #[.string t, .int .i64 (k : Int), .int .i64 bs, .int .i64 0, .int .i64 at'] 43)).alloc (.cells #[.string ⟨#[]⟩, .int .i64 0, .int .i64 0, .int .i64 0, .int .i64 0] 43)).heap.size ((w.alloc (.cells #[.string t, .int .i64 (k : Int), .int .i64 bs, .int .i64 0, .int .i64 at'] 43)).alloc (.cells #[.string ⟨#[]⟩, .int .i64 0, .int .i64 0, .int .i64 0, .int .i64 0] 43)) w1) (fun i _ => s.size - (intOf i).toNat)
  case atStart => exact ⟨0, Nat.zero_le _, rfl, Below.refl _ _⟩
  case round =>
    obtain ⟨j, hj, rfl, hb1⟩ := hrel
    obtain ⟨w1, hw⟩ : ∃ x, x = wr := ⟨_, rfl⟩
    subst hw
    have l1 : w.heap.size + 1 + 1 ≤ w1.heap.size := (by have := hb1.size; simpa using this); have q1 : w.heap.size + 1 < w1.heap.size := l1; have q0 : w.heap.size < w1.heap.size := (by omega); have g1 : Below w.heap.size w w1 := (((Below.refl w.heap.size w).alloc (Nat.le_refl _) _).alloc (by simp) _).trans (hb1.mono (by simp; omega)); have M1 := Lib.hid (((mb_new w t (k : Int) bs 0 at').alloc (.cells #[.string ⟨#[]⟩, .int .i64 0, .int .i64 0, .int .i64 0, .int .i64 0] 43)).below hb1 (by simp; omega)); obtain ⟨_, c0, c1, c2, c3, c4, fr⟩ := M1.out; have M2 : Hid (Mb w1 (w.heap.size + 1) ⟨#[]⟩ 0 0 0 0) := Lib.hid (by have X := (mb_new (w.alloc (.cells #[.string t, .int .i64 (k : Int), .int .i64 bs, .int .i64 0, .int .i64 at'] 43)) ⟨#[]⟩ 0 0 0 0).below hb1 (by simp); rwa [World.size_alloc] at X); obtain ⟨_, d0, d1, d2, d3, d4, fs⟩ := M2.out
    have hlt : j < s.size := by omega
    by_cases hjm : j < m
    · have hkj : k + j < t.size := by omega
      have hkj' : (k : Int) + (j : Int) < (t.size : Int) := by omega
      have hc : (((t[k + j]'hkj).toNat : Nat) : Int) = (((s[j]'hlt).toNat : Nat) : Int) := by rw [get_bt, get_bt]; exact G.out.same j hjm
      have hc1 : ((((t[k + j]'hkj).toNat : Nat) : Int) != (((s[j]'hlt).toNat : Nat) : Int)) = false := by rw [hc]; simp
      clear hc
      go_wp2_with fail
      have b3 : (0 : Int) ≤ (k : Int) + (j : Int) := by omega
      have e2 : ((k : Int) + (j : Int)).toNat = k + j := by omega
      have e1 : IntKind.i64.wrap ((k : Int) + (j : Int)) = (k : Int) + (j : Int) := IntWalk.i64_in _ (by omega)
      go_quiet (fail)
      clear e1
      go_wp2
      go_roundw
      case rel => exact ⟨j + 1, by omega, by go_num, below_drewN hb1 _⟩
      case measure => simp [intOf]; omega
    · obtain rfl : j = m := by omega
      clear hjm
      by_cases hkm : k + j < t.size
      · have hkj' : (k : Int) + (j : Int) < (t.size : Int) := by omega
        have hc : (((t[k + j]'hkm).toNat : Nat) : Int) ≠ (((s[j]'hlt).toNat : Nat) : Int) := by rw [get_bt, get_bt]; exact G.out.stop hlt hkm
        have hc1 : ((((t[k + j]'hkm).toNat : Nat) : Int) != (((s[j]'hlt).toNat : Nat) : Int)) = true := by simpa using hc
        clear hc
        go_wp2_with fail
        have b3 : (0 : Int) ≤ (k : Int) + (j : Int) := by omega
        have e2 : ((k : Int) + (j : Int)).toNat = k + j := by omega
        have e1 : IntKind.i64.wrap ((k : Int) + (j : Int)) = (k : Int) + (j : Int) := IntWalk.i64_in _ (by omega)
        go_quiet (fail)
        clear e1
        have hbd : Below w1.heap.size w1 (w1.drewN nq) := below_drewN (Below.refl _ _) nq
        have G1 : Below w.heap.size w (w1.drewN nq) := below_drewN g1 nq
        have N1 := Lib.hid (M1.out.below hbd M1.out.lt)
        have N2 := Lib.hid (M2.out.below hbd M2.out.lt)
        go_wp2_with (go_at_call 46; refine (mFail_on _ _ _ _ _ _ _ rfl).mono ?_; rintro e1 w2 ⟨rfl, hb2⟩; have g2 : Below w.heap.size w w2 := G1.trans (hb2.mono G1.size); obtain ⟨_, c0, c1, c2, c3, c4, fr⟩ := N1.out.below hb2 N1.out.lt; obtain ⟨_, d0, d1, d2, d3, d4, fs⟩ := N2.out.below hb2 N2.out.lt)
        exact bodyPost_ret (v := .tuple #[.agg #[.string t, .int .i64 (k : Int), .int .i64 bs, .int .i64 1, .int .i64 (bs + (k : Int) + (j : Int))], .bool false]) (by simp [results, Try.results44, go_sem, d0, d1, d2, d3, d4]) rfl ⟨by rw [show bs + ((k + j : Nat) : Int) = bs + (k : Int) + (j : Int) from by omega], by repeat (first | (with_reducible exact g2) | (with_reducible exact Below.refl _ _) | (with_reducible refine Below.setCell ?_ (by simp) _) | (with_reducible refine Below.alloc ?_ (by simp; omega) _))⟩
      · have hkt' : ¬ (k : Int) + (j : Int) < (t.size : Int) := by omega
        go_wp2_with (go_at_call 46; refine (mFail_on _ _ _ _ _ _ _ rfl).mono ?_; rintro e1 w2 ⟨rfl, hb2⟩; have g2 := g1.trans (hb2.mono g1.size); have l2 : w.heap.size + 1 + 1 ≤ w2.heap.size := Nat.le_trans l1 hb2.size; have q1 : w.heap.size + 1 < w2.heap.size := l2; have q0 : w.heap.size < w2.heap.size := (by omega); obtain ⟨_, c0, c1, c2, c3, c4, fr⟩ := M1.out.below hb2 M1.out.lt; obtain ⟨_, d0, d1, d2, d3, d4, fs⟩ := M2.out.below hb2 M2.out.lt)
        exact bodyPost_ret (v := .tuple #[.agg #[.string t, .int .i64 (k : Int), .int .i64 bs, .int .i64 1, .int .i64 (bs + (t.size : Int))], .bool false]) (by simp [results, Try.results44, go_sem, d0, d1, d2, d3, d4]) rfl ⟨by rw [show bs + ((k + j : Nat) : Int) = bs + (t.size : Int) from by omega], by repeat (first | (with_reducible exact g2) | (with_reducible exact Below.refl _ _) | (with_reducible refine Below.setCell ?_ (by simp) _) | (with_reducible refine Below.alloc ?_ (by simp; omega) _))⟩
end Go.Proofs.Ytkhcmgnempjjcaa
