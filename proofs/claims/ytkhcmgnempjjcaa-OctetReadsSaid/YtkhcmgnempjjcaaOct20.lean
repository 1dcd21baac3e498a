/- Whatever is read, the program and the document are of one mind, and come to one state: a contract of do. -/
import Derived.Test.YtkhcmgnempjjcaaOct17
import Derived.Test.YtkhcmgnempjjcaaOct19
namespace Go.Proofs.Ytkhcmgnempjjcaa
open Go.RowKit Go.PlainAid
set_option linter.unusedVariables false
/-- What a call of the program leaves where nothing is read any more. -/
theorem off_to {f : Nat} {args : Array Value} {w : World} {b : Nat} {t : ByteArray} {k bs e at' : Int} {v : Value} (h : Rd w b t k bs e at')
    (hc : Calls Try.prog f args w fun e2 w' => e2 = .returned v ∧ Below w.heap.size w w') :
    Calls Try.prog f args w fun e2 w' => e2 = .returned v ∧ Rd w' b t k bs e at' ∧ Upd b w w' :=
  hc.mono fun e2 w' ⟨he, hb⟩ => ⟨he, h.below hb h.lt, Upd.of hb (Nat.le_refl _)⟩
/-- Take, of both. -/
theorem take_both (b : Nat) (t : ByteArray) (k : Nat) (bs e at' n : Int) (hk : k ≤ t.size) (ht : t.size ≤ 2000) (z0 : 0 ≤ bs) (z1 : bs ≤ 1099511627776) :
    ∃ (k' : Nat) (e' a' : Int) (s : ByteArray), k' ≤ t.size ∧ (s.size : Int) ≤ max n 0 ∧
      (∀ w, Calls Try.prog 40 #[.agg #[.string t, .int .i64 (k : Int), .int .i64 bs, .int .i64 e, .int .i64 at'], .int .i64 n] w fun e2 w' => e2 = .returned (.tuple #[.agg #[.string t, .int .i64 (k' : Int), .int .i64 bs, .int .i64 e', .int .i64 a'], .string s]) ∧ Below w.heap.size w w') ∧
      (∀ w, Rd w b t k bs e at' → Calls Try.prog 32 #[.pointer (some ⟨b, 0, none⟩), .int .i64 n] w fun e2 w' => e2 = .returned (.string s) ∧ Rd w' b t k' bs e' a' ∧ Upd b w w') := by
  have hm : t.size ≤ maxLen := by unfold maxLen; omega
  obtain ⟨l, hl⟩ : ∃ l, k + l = t.size := ⟨t.size - k, by omega⟩
  by_cases he : e = 0
  · subst he
    by_cases hn : n < 0 ∨ (l : Int) < n
    · refine ⟨k, 1, bs + (t.size : Int), ⟨#[]⟩, hk, by simp [ByteArray.size]; omega, fun w => mTake_short t k l n bs at' w hl hn (by omega) z0 (by omega), fun w h => ?_⟩
      have := take_short w b t k l n bs at' h hl hn hm z0 (by omega)
      rwa [plc_small (by omega)] at this
    · obtain ⟨m, rfl⟩ := Int.eq_ofNat_of_zero_le (show 0 ≤ n from by omega)
      exact ⟨k + m, 0, at', t.extract k (k + m), by omega, by rw [ByteArray.size_extract]; omega, fun w => mTake_ok t k m l bs at' w hl (by omega) (by omega), fun w h => take_ok w b t k m l bs at' h hl (by omega) hm⟩
  · have he' : (e != 0) = true := by simpa using he
    exact ⟨k, e, at', ⟨#[]⟩, hk, by simp [ByteArray.size]; omega, fun w => mTake_off t k bs e at' n w he', fun w h => off_to h (take_off w b t k bs e at' n h he')⟩
/-- What do comes to. -/
def DoEnds (b : Nat) (t : ByteArray) (k : Nat) (bs e at' q on oc : Int) (os : ByteArray) : Prop :=
  ∃ (k' : Nat) (e' a' : Int), k' ≤ t.size ∧ ∀ w, Rd w b t k bs e at' → Calls Try.prog 26 #[.pointer (some ⟨b, 0, none⟩), .agg #[.string t, .int .i64 (k : Int), .int .i64 bs, .int .i64 e, .int .i64 at'], .agg #[.int .i64 q, .int .i64 on, .int .i64 oc, .string os]] w fun e2 w' => e2 = .returned (.tuple #[.agg #[.string t, .int .i64 (k' : Int), .int .i64 bs, .int .i64 e', .int .i64 a'], .bool true]) ∧ Rd w' b t k' bs e' a' ∧ Upd b w w'
theorem ends0 (b : Nat) (t : ByteArray) (k : Nat) (bs e at' on oc : Int) (os : ByteArray) (hk : k ≤ t.size) (ht : t.size ≤ 2000) (z0 : 0 ≤ bs) (z1 : bs ≤ 1099511627776) : DoEnds b t k bs e at' 0 on oc os := by
  obtain ⟨k', e', a', s, h1, _, h2, h3⟩ := take_both b t k bs e at' on hk ht z0 z1
  exact ⟨k', e', a', h1, fun w h => do_take w b t k bs e at' k' e' a' on oc os s h h2 h3⟩
theorem ends1 (b : Nat) (t : ByteArray) (k : Nat) (bs e at' on oc : Int) (os : ByteArray) (hk : k ≤ t.size) (ht : t.size ≤ 2000) (z0 : 0 ≤ bs) (z1 : bs ≤ 1099511627776) : DoEnds b t k bs e at' 1 on oc os := by
  have hm : t.size ≤ maxLen := by unfold maxLen; omega
  obtain ⟨l, hl⟩ : ∃ l, k + l = t.size := ⟨t.size - k, by omega⟩
  by_cases he : e = 0
  · subst he
    exact ⟨k + l, 0, at', by omega, fun w h => do_rest w b t k bs 0 at' _ 0 at' on oc l os (t.extract k (k + l)) h (fun w => mLeft_on t k l bs at' w hl (by omega)) (fun w => mTake_ok t k l l bs at' w hl (Nat.le_refl _) (by omega)) (fun w h => rest_on w b t k l bs at' h hl hm)⟩
  · have he' : (e != 0) = true := by simpa using he
    exact ⟨k, e, at', hk, fun w h => do_rest w b t k bs e at' k e at' on oc 0 os ⟨#[]⟩ h (fun w => mLeft_off t k bs e at' w he') (fun w => mTake_off t k bs e at' 0 w he') (fun w h => off_to h (rest_off w b t k bs e at' h he'))⟩
theorem ends2 (b : Nat) (t : ByteArray) (k : Nat) (bs e at' on oc : Int) (os : ByteArray) (hk : k ≤ t.size) (ht : t.size ≤ 2000) (z0 : 0 ≤ bs) (z1 : bs ≤ 1099511627776) : DoEnds b t k bs e at' 2 on oc os := by
  have hm : t.size ≤ maxLen := by unfold maxLen; omega
  obtain ⟨l, hl⟩ : ∃ l, k + l = t.size := ⟨t.size - k, by omega⟩
  by_cases he : e = 0
  · subst he
    obtain ⟨m, hn⟩ : ∃ m : Nat, on < 0 ∧ m = 0 ∨ on = m ∧ m ≤ l ∨ (l : Int) < on ∧ m = l := by
      by_cases h1 : on < 0
      · exact ⟨0, .inl ⟨h1, rfl⟩⟩
      · by_cases h2 : (l : Int) < on
        · exact ⟨l, .inr (.inr ⟨h2, rfl⟩)⟩
        · exact ⟨on.toNat, .inr (.inl ⟨by omega, by omega⟩)⟩
    exact ⟨k, 0, at', hk, fun w h => do_peek w b t k bs 0 at' on oc os (t.extract k (k + m)) h (fun w => mPeek_on t k m l bs at' on w hl (by omega) hn) (fun w h => peek_m w b t k m l bs at' on h hl hm hn)⟩
  · have he' : (e != 0) = true := by simpa using he
    exact ⟨k, e, at', hk, fun w h => do_peek w b t k bs e at' on oc os ⟨#[]⟩ h (fun w => mPeek_off t k bs e at' on w he') (fun w h => peek_off w b t k bs e at' on h he')⟩
theorem ends3 (b : Nat) (t : ByteArray) (k : Nat) (bs e at' on oc : Int) (os : ByteArray) (hk : k ≤ t.size) (ht : t.size ≤ 2000) (z0 : 0 ≤ bs) (z1 : bs ≤ 1099511627776) (n0 : -9223372036854775808 ≤ on) (n1 : on ≤ 9223372036854775807) : DoEnds b t k bs e at' 3 on oc os := by
  obtain ⟨m, hmm⟩ : ∃ m : Nat, min (max on 0) 8 = m := ⟨(min (max on 0) 8).toNat, by omega⟩
  obtain ⟨k', e', a', s, h1, hs, h2, h3⟩ := take_both b t k bs e at' m hk ht z0 z1
  exact ⟨k', e', a', h1, fun w h => do_big w b t k bs e at' k' e' a' on oc m _ os s h (fun w => refSize_any on m w n0 n1 hmm) h2 (fun w => mNumber_any s w (by omega)) (fun w h => rbig_of _ on m s (fun w' => Rd w' b t k' bs e' a' ∧ Upd b w w') w n0 n1 hmm (by omega) (h3 w h))⟩
theorem ends4 (b : Nat) (t : ByteArray) (k : Nat) (bs e at' on oc : Int) (os : ByteArray) (hk : k ≤ t.size) (ht : t.size ≤ 2000) (z0 : 0 ≤ bs) (z1 : bs ≤ 1099511627776) (n0 : -9223372036854775808 ≤ on) (n1 : on ≤ 9223372036854775807) : DoEnds b t k bs e at' 4 on oc os := by
  obtain ⟨m, hmm⟩ : ∃ m : Nat, min (max on 0) 8 = m := ⟨(min (max on 0) 8).toNat, by omega⟩
  obtain ⟨k', e', a', s, h1, hs, h2, h3⟩ := take_both b t k bs e at' m hk ht z0 z1
  have hrs : (rev s).size ≤ 8 := by unfold rev; rw [size_of_list, List.length_reverse]; have : s.data.toList.length = s.size := (by simp); omega
  exact ⟨k', e', a', h1, fun w h => do_small w b t k bs e at' k' e' a' on oc m _ os s (rev s) h (fun w => refSize_any on m w n0 n1 hmm) h2 (fun w => refBack_any s w (by omega)) (fun w => mNumber_any (rev s) w hrs) (fun w h => by
    have := rsmall_of _ on m s (fun w' => Rd w' b t k' bs e' a' ∧ Upd b w w') w n0 n1 hmm (by omega) (h3 w h)
    have e : (rev s).data.toList = s.data.toList.reverse := by simp [rev]
    rw [e]
    exact this)⟩
theorem ends5 (b : Nat) (t : ByteArray) (k : Nat) (bs e at' on oc : Int) (os : ByteArray) (hk : k ≤ t.size) (ht : t.size ≤ 2000) (z0 : 0 ≤ bs) (z1 : bs ≤ 1099511627776) : DoEnds b t k bs e at' 5 on oc os := by
  have hm : t.size ≤ maxLen := by unfold maxLen; omega
  have empty : ∀ i, i < (⟨#[]⟩ : ByteArray).size → bt ⟨#[]⟩ i < 128 := fun i hi => absurd hi (by simp [ByteArray.size])
  by_cases he : e = 0
  · subst he
    by_cases h4 : k + 4 ≤ t.size
    · by_cases hlo : ∀ i, i < 4 → bt t (k + i) < 128
      · have hx : ∀ i, i < (t.extract k (k + 4)).size → bt (t.extract k (k + 4)) i < 128 := fun i hi => by
          rw [ByteArray.size_extract] at hi
          rw [bt_extract t k 4 i h4 (by omega)]
          exact hlo i (by omega)
        have hc : ∀ c ∈ (t.extract k (k + 4)).data.toList, c.toNat < 128 := fun c hm => by
          obtain ⟨i, hi, rfl⟩ := List.mem_iff_getElem.1 hm
          have hi' : i < (t.extract k (k + 4)).size := by rw [Array.length_toList] at hi; exact hi
          have := hx i hi'
          rw [← get_bt _ i hi'] at this
          have e : (t.extract k (k + 4)).data.toList[i]'hi = (t.extract k (k + 4))[i] := rfl
          rw [e]; omega
        have hs : (t.extract k (k + 4)).size ≤ 4 := by rw [ByteArray.size_extract]; omega
        exact ⟨k + 4, 0, at', h4, fun w h => do_safe w b t k bs 0 at' _ 0 at' on oc os _ h (fun w => mSafe_ok t k _ bs 0 at' 0 at' _ w hs hx hk (by omega) z0 (by omega) (fun w => mTake_ok t k 4 (t.size - k) bs at' w (by omega) (by omega) (by omega))) (fun w h => rsafe_of _ _ (fun w' => Rd w' b t ((k + 4 : Nat) : Int) bs 0 at' ∧ Upd b w w') w hs hc (take_ok w b t k 4 (t.size - k) bs at' h (by omega) (by omega) hm))⟩
      · obtain ⟨j, hj, hjl, hjh⟩ : ∃ j, j < 4 ∧ (∀ i, i < j → bt t (k + i) < 128) ∧ 128 ≤ bt t (k + j) := by
          by_cases a0 : bt t (k + 0) < 128
          · by_cases a1 : bt t (k + 1) < 128
            · by_cases a2 : bt t (k + 2) < 128
              · by_cases a3 : bt t (k + 3) < 128
                · exact absurd (fun i hi => by
                    match i, hi with
                    | 0, _ => exact a0
                    | 1, _ => exact a1
                    | 2, _ => exact a2
                    | 3, _ => exact a3) hlo
                · exact ⟨3, by omega, fun i hi => by
                    match i, hi with
                    | 0, _ => exact a0
                    | 1, _ => exact a1
                    | 2, _ => exact a2, by omega⟩
              · exact ⟨2, by omega, fun i hi => by
                  match i, hi with
                  | 0, _ => exact a0
                  | 1, _ => exact a1, by omega⟩
            · exact ⟨1, by omega, fun i hi => by
                match i, hi with
                | 0, _ => exact a0, by omega⟩
          · exact ⟨0, by omega, fun i hi => by omega, by omega⟩
        refine ⟨k + 4, 1, bs + ((k + j : Nat) : Int), h4, fun w h => do_safe w b t k bs 0 at' _ 1 _ on oc os 0 h (fun w => mSafe_bad t k j bs at' w h4 (by omega) hj hjl hjh z0 (by omega)) (fun w h => ?_)⟩
        have := rsafe_bad w b t k j bs at' h h4 hm hj hjl hjh z0 (by omega)
        rwa [plc_small (by omega)] at this
    · refine ⟨k, 1, bs + (t.size : Int), hk, fun w h => do_safe w b t k bs 0 at' _ 1 _ on oc os (num7 (⟨#[]⟩ : ByteArray).data.toList) h (fun w => mSafe_ok t k _ bs 0 at' 1 _ ⟨#[]⟩ w (by decide) empty hk (by omega) z0 (by omega) (fun w => mTake_short t k (t.size - k) 4 bs at' w (by omega) (by omega) (by omega) z0 (by omega))) (fun w h => rsafe_of _ _ (fun w' => Rd w' b t k bs 1 (bs + (t.size : Int)) ∧ Upd b w w') w (by decide) (by intro c h; cases h) ?_)⟩
      have := take_short w b t k (t.size - k) 4 bs at' h (by omega) (by omega) hm z0 (by omega)
      rwa [plc_small (by omega)] at this
  · have he' : (e != 0) = true := by simpa using he
    exact ⟨k, e, at', hk, fun w h => do_safe w b t k bs e at' _ e at' on oc os (num7 (⟨#[]⟩ : ByteArray).data.toList) h (fun w => mSafe_ok t k _ bs e at' e at' ⟨#[]⟩ w (by decide) empty hk (by omega) z0 (by omega) (fun w => mTake_off t k bs e at' 4 w he')) (fun w h => rsafe_of _ _ (fun w' => Rd w' b t k bs e at' ∧ Upd b w w') w (by decide) (by intro c h; cases h) (off_to h (take_off w b t k bs e at' 4 h he')))⟩
theorem ends6 (b : Nat) (t : ByteArray) (k : Nat) (bs e at' on oc : Int) (os : ByteArray) (hk : k ≤ t.size) (ht : t.size ≤ 2000) (z0 : 0 ≤ bs) (z1 : bs ≤ 1099511627776) (hos : os.size ≤ 200) : DoEnds b t k bs e at' 6 on oc os := by
  have hm : t.size ≤ maxLen := by unfold maxLen; omega
  have hm2 : os.size ≤ maxLen := by unfold maxLen; omega
  by_cases he : e = 0
  · subst he
    obtain ⟨m, hg⟩ := agree_ex t os k hk
    have hkt := hg.kt
    by_cases h1 : m = os.size
    · exact ⟨k + m, 0, at', hg.kt, fun w h => do_want w b t k bs 0 at' _ 0 at' on oc os true h (fun w => mWant_ok t os k m bs at' w hg h1 (by omega)) (fun w h => want_ok w b t os k m bs at' h hg h1 hm)⟩
    · have h2 : m < os.size := by have := hg.ms; omega
      refine ⟨k, 1, bs + ((k + m : Nat) : Int), hk, fun w h => do_want w b t k bs 0 at' _ 1 _ on oc os false h (fun w => mWant_no t os k m bs at' w hg h2 (by omega) (by omega) z0 (by omega)) (fun w h => ?_)⟩
      by_cases h3 : k + m < t.size
      · have := want_miss w b t os k m bs at' h hg h2 h3 hm hm2 z0 (by omega)
        rwa [plc_small (by omega)] at this
      · have := want_end w b t os k m bs at' h hg h2 (by omega) hm hm2 z0 (by omega)
        rwa [plc_small (by omega)] at this
  · have he' : (e != 0) = true := by simpa using he
    exact ⟨k, e, at', hk, fun w h => do_want w b t k bs e at' _ e at' on oc os false h (fun w => mWant_off t os k bs e at' w he') (fun w h => off_to h (want_off w b t k bs e at' os h he'))⟩
theorem ends7 (b : Nat) (t : ByteArray) (k : Nat) (bs e at' on oc : Int) (os : ByteArray) (hk : k ≤ t.size) (ht : t.size ≤ 2000) (z0 : 0 ≤ bs) (z1 : bs ≤ 1099511627776) (hos : os.size ≤ 200) : DoEnds b t k bs e at' 7 on oc os := by
  by_cases he : e = 0
  · subst he
    obtain ⟨st, hst, hpos⟩ : ∃ st, (os.size < 1 ∧ st = 1 ∨ 1 ≤ os.size ∧ st = os.size) ∧ 0 < st := by
      by_cases h : os.size < 1
      · exact ⟨1, .inl ⟨h, rfl⟩, by omega⟩
      · exact ⟨os.size, .inr ⟨by omega, rfl⟩, by omega⟩
    rcases until_ex t os k st hpos with ⟨p, hf⟩ | hl
    · exact ⟨p + os.size, 0, at', hf.fits, fun w h => do_until w b t k bs 0 at' _ 0 at' on oc os (t.extract k p) h (fun w => mUntil_found t os k st p bs at' w hst hf (by omega)) (fun w h => until_found w b t os k st p bs at' h hst hf (by omega))⟩
    · refine ⟨k, 1, bs + (t.size : Int), hk, fun w h => do_until w b t k bs 0 at' _ 1 _ on oc os ⟨#[]⟩ h (fun w => mUntil_lacks t os k st bs at' w hst hl hk (by omega) (by omega) z0 (by omega)) (fun w h => ?_)⟩
      have := until_lacks w b t os k st bs at' h hst hl hk (by omega) (by omega) z0 (by omega)
      rwa [plc_small (by omega)] at this
  · have he' : (e != 0) = true := by simpa using he
    exact ⟨k, e, at', hk, fun w h => do_until w b t k bs e at' _ e at' on oc os ⟨#[]⟩ h (fun w => mUntil_off t os k bs e at' w he') (fun w h => off_to h (until_off w b t k bs e at' os h he'))⟩
theorem ends8 (b : Nat) (t : ByteArray) (k : Nat) (bs e at' on oc : Int) (os : ByteArray) (hk : k ≤ t.size) (ht : t.size ≤ 2000) (z0 : 0 ≤ bs) (z1 : bs ≤ 1099511627776) : DoEnds b t k bs e at' 8 on oc os := by
  by_cases hc : oc = 0
  · subst hc
    exact ⟨k, e, at', hk, fun w h => do_fail w b t k bs e at' _ e at' on 0 os h (fun w => mFail_ok t k bs e at' on w) (fun w h => off_to h (fail_ok w b t k bs e at' on h))⟩
  · by_cases he : e = 0
    · subst he
      exact ⟨k, oc, on, hk, fun w h => do_fail w b t k bs 0 at' _ oc on on oc os h (fun w => mFail_on t k bs at' oc on w (by simpa using hc)) (fun w h => fail_on w b t k bs at' oc on h (by simpa using hc))⟩
    · exact ⟨k, e, at', hk, fun w h => do_fail w b t k bs e at' _ e at' on oc os h (fun w => mFail_off t k bs e at' oc on w (by simpa using he)) (fun w h => off_to h (fail_off w b t k bs e at' oc on h (by simpa using he)))⟩
theorem ends_any (b : Nat) (t : ByteArray) (k : Nat) (bs e at' on oc : Int) (os : ByteArray) (hk : k ≤ t.size) (ht : t.size ≤ 2000) (z0 : 0 ≤ bs) (z1 : bs ≤ 1099511627776) (q : Int) (hos : os.size ≤ 200) (n0 : -9223372036854775808 ≤ on) (n1 : on ≤ 9223372036854775807) : DoEnds b t k bs e at' q on oc os := by
  by_cases h0 : q = 0
  · subst h0; exact ends0 b t k bs e at' on oc os hk ht z0 z1
  by_cases h1 : q = 1
  · subst h1; exact ends1 b t k bs e at' on oc os hk ht z0 z1
  by_cases h2 : q = 2
  · subst h2; exact ends2 b t k bs e at' on oc os hk ht z0 z1
  by_cases h3 : q = 3
  · subst h3; exact ends3 b t k bs e at' on oc os hk ht z0 z1 n0 n1
  by_cases h4 : q = 4
  · subst h4; exact ends4 b t k bs e at' on oc os hk ht z0 z1 n0 n1
  by_cases h5 : q = 5
  · subst h5; exact ends5 b t k bs e at' on oc os hk ht z0 z1
  by_cases h6 : q = 6
  · subst h6; exact ends6 b t k bs e at' on oc os hk ht z0 z1 hos
  by_cases h7 : q = 7
  · subst h7; exact ends7 b t k bs e at' on oc os hk ht z0 z1 hos
  by_cases h8 : q = 8
  · subst h8; exact ends8 b t k bs e at' on oc os hk ht z0 z1
  exact ⟨k, e, at', hk, fun w h => do_none w b t k bs e at' q on oc os h (by simpa using h0) (by simpa using h1) (by simpa using h2) (by simpa using h3) (by simpa using h4) (by simpa using h5) (by simpa using h6) (by simpa using h7) (by simpa using h8)⟩
end Go.Proofs.Ytkhcmgnempjjcaa
