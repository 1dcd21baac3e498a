/- The walk of the law PointPlain of layer 2. -/
import Derived.Test.YtkhcmgnempjjcaaDoorPt5
namespace Go.Proofs.YtkhcmgnempjjcaaDoor
open Go.RowKit Go.Lib
set_option linter.unusedVariables false
/-- The first j bytes are all repeat (first | (with_reducible exact Below.refl _ _) | (with_reducible refine Below.setCell ?_ (by simp) _) | (with_reducible refine Below.alloc ?_ (by simp) _)) 128. -/
def plainTo (s : ByteArray) (j : Nat) : Bool := (s.data.toList.take j).all (fun b => decide (b.toNat < 128))
theorem plainTo_zero (s : ByteArray) : plainTo s 0 = true := by simp [plainTo]
theorem plainTo_succ (s : ByteArray) (j : Nat) (h : j < s.size) : plainTo s (j + 1) = (plainTo s j && decide (s[j].toNat < 128)) := by
  have hk : j < s.data.toList.length := by rw [Array.length_toList]; exact h
  unfold plainTo
  rw [List.take_add_one, List.getElem?_eq_getElem hk, List.all_append]
  have h3 : s.data.toList[j] = s[j] := rfl
  rw [h3]
  simp
theorem plainTo_all (s : ByteArray) : plainTo s s.size = isPlain s := by
  unfold plainTo isPlain
  rw [List.take_of_length_le (by rw [Array.length_toList]; exact Nat.le_refl _)]
theorem sc_plain (s : ByteArray) (hp : isPlain s = true) : ∀ f pos, s.size ≤ pos + f → (sc s f pos).2 = none ∧ (sc s f pos).1.length = s.size - pos
  | 0, pos, h => by simp [sc]; omega
  | f + 1, pos, h => by
    by_cases hlt : pos < s.size
    · have hk : pos < s.data.toList.length := by rw [Array.length_toList]; exact hlt
      have h1 : (s[pos]'hlt).toNat < 128 := by
        have h1 := List.all_eq_true.1 hp _ (List.getElem_mem hk)
        have h2 : (s.data.toList[pos]).toNat < 128 := by simpa using h1
        exact h2
      have hd := decode_ascii s pos hlt h1
      have hb : bad s pos = false := by
        unfold bad
        rw [hd]
        have : ((s[pos]'hlt).toNat == 65533) = false := by simp; omega
        simp [this]
      rw [sc_good s f pos hlt hb, hd]
      have ih := sc_plain s hp f (pos + 1) (by omega)
      refine ⟨ih.1, ?_⟩
      simp only [List.length_cons]
      rw [ih.2]; omega
    · rw [sc_end s (f + 1) pos hlt]; simp; omega
set_option maxRecDepth 100000 in
theorem plain_walk (s : ByteArray) (w : World) (hs : s.size ≤ maxLen) (hT : Tabs w) : Calls Tryd.prog 6 #[.string s] w fun e w' => e = .returned (.bool true) ∧ Below w.heap.size w w' := by
  unfold maxLen at hs
  have HT := Lib.hid hT
  clear hT
  by_cases hbig : 2000 < s.size
  · go_enter Tryd.func6, Tryd.ntmps6
    go_wp2_with (go_at_call 11; refine (awake_any _ HT.out).mono ?_; rintro e1 w1 ⟨rfl, hb1⟩)
    go_ret
    exact ⟨rfl, hb1⟩
  · have hpl := fun w2 => plain_any s w2 (by omega)
    have hva := fun w2 hT2 => valid_any s w2 (by omega) hT2
    have hco := fun w2 hT2 => count_any s w2 (by omega) hT2
    have hsc : isPlain s = true → (scan s).2.isNone = true ∧ (scan s).1.length = s.size := fun h => by
      have := sc_plain s h s.size 0 (by omega)
      exact ⟨by unfold scan; rw [this.1]; rfl, by unfold scan; rw [this.2]; omega⟩
    have hall := Lib.hid (plainTo_all s)
    obtain ⟨V, hV⟩ : ∃ V, V = isPlain s := ⟨_, rfl⟩
    rw [← hV] at hpl hsc hall
    generalize (scan s).2.isNone = X at hva hco hsc
    generalize (scan s).1.length = M at hco hsc
    have HPL := Lib.hid hpl; have HVA := Lib.hid hva; have HCO := Lib.hid hco; have HSC := Lib.hid hsc
    clear hpl hva hco hsc hV
    go_enter Tryd.func6, Tryd.ntmps6
    go_wp2_with fail
    go_loopw [3, 11] (fun v i wr => wr = w ∧ ∃ j : Nat, j ≤ s.size ∧ i = .int .i64 j ∧ v = .bool (plainTo s j)) (fun _ i _ => s.size - (RowKit.intOf i).toNat)
    case atStart => exact ⟨rfl, 0, Nat.zero_le _, rfl, by rw [plainTo_zero]⟩
    case round =>
      obtain ⟨rfl, j, hj, rfl, rfl⟩ := hrel
      by_cases hlt : j < s.size
      · have hsu := plainTo_succ s j hlt
        have HSU := Lib.hid hsu
        clear hsu
        cases hq : plainTo s j with
        | true =>
          have HQ := Lib.hid hq
          clear hq
          go_wp2
          refine ⟨⟨trivial, j + 1, by omega, by go_num, ?_⟩, by simp [RowKit.intOf]; omega⟩
          rw [HSU.out, HQ.out, Bool.true_and]
          exact congrArg Value.bool (decide_eq_decide.2 (by omega))
        | false =>
          have HQ := Lib.hid hq
          clear hq
          go_wp2
          go_roundw
          case rel => exact ⟨trivial, j + 1, by omega, by go_num, by rw [HSU.out, HQ.out]; rfl⟩
          case measure => simp [RowKit.intOf]; omega
      · obtain rfl : j = s.size := by omega
        clear hlt
        rw [hall.out]
        cases V with
        | true =>
          obtain ⟨rfl, rfl⟩ := HSC.out rfl
          go_wp2_with (first | (go_at_call 11; refine (awake_any _ HT.out).mono ?_; rintro e1 w1 ⟨rfl, hb1⟩) | (go_at_call 22; refine (HPL.out _).mono ?_; rintro e2 w2 ⟨rfl, rfl⟩) | (go_at_call 18; refine (HVA.out _ (HT.out.below hb1)).mono ?_; rintro e3 w3 ⟨rfl, hb3⟩) | (go_at_call 17; refine (HCO.out _ ((HT.out.below hb1).below hb3)).mono ?_; rintro e4 w4 ⟨rfl, hb4⟩))
          go_ret
          have g3 := hb1.trans (hb3.mono hb1.size)
          exact ⟨rfl, g3.trans (hb4.mono g3.size)⟩
        | false =>
          go_wp2_with (first | (go_at_call 11; refine (awake_any _ HT.out).mono ?_; rintro e1 w1 ⟨rfl, hb1⟩) | (go_at_call 22; refine (HPL.out _).mono ?_; rintro e2 w2 ⟨rfl, rfl⟩))
          go_ret
          exact ⟨rfl, hb1⟩
end Go.Proofs.YtkhcmgnempjjcaaDoor
