/- The landed johab: Pairs: a contract. -/
import Derived.Test.YtiamabeapomabaaDoorJoC
import Derived.Test.YtiamabeapomabaaDoorJo1
import Derived.Test.YtiamabeapomabaaDoorTb2
namespace Go.Proofs.YtiamabeapomabaaDoor.jo
open Go.RowKit Go.Lib
open Go.Proofs.YtiamabeapomabaaDoor.tb (RowP pc pc_len pc_app pc_one pc_get add_of below_own new_cells owns_below2)
set_option linter.unusedVariables false
theorem rowP_ofE {B n : Nat} {e : TypeId} {v : Value} {l : List (Int × Int)} {w : World} (h : w.ownsRow B e 2 v n (pc l)) : ∃ A c, v = .slice A n c ∧ RowP w A n c l := by
  have hn : l.length = n := by have := h.1; rw [pc_len] at this; omega
  obtain ⟨hl, ⟨rfl, h0⟩ | ⟨g, cap, cur, rfl, hB, hg, h1, h2, h3, h4⟩⟩ := h
  · refine ⟨none, 0, by rw [h0], .inl ⟨rfl, h0, rfl, List.length_eq_zero_iff.1 (by omega)⟩⟩
  · refine ⟨_, _, rfl, .inr ⟨_, rfl, h1, h2, hn, fun i hi => ?_⟩⟩
    have hx := pc_get l i (by omega)
    have hc : ∀ k, k < n * 2 → w.cell? ((⟨g, 0, none⟩ : Addr).add k) = (pc l)[k]? := fun k hk => by
      have e : (⟨g, 0, none⟩ : Addr).add k = ⟨g, k, none⟩ := by unfold Addr.add; by_cases h : k = 0 <;> simp [h]
      rw [e, ← h4, List.getElem?_take_of_lt hk, Array.getElem?_toList]
      simp [World.cell?, hg]
    rw [add_of, hc _ (by omega), hc _ (by omega)]
    exact hx
theorem rpair_info : (Tryd.prog.info? 37).map (fun i => (i.zero, i.size, i.bytes)) = some (some (.agg #[.int .i64 0, .int .i32 0]), 2, 16) := by kernel_rfl
theorem prs_le : ∀ n, (prs n).length ≤ n
  | 0 => by simp [prs]
  | n + 1 => by
    have := prs_le n
    unfold prs
    rw [List.length_append]
    split <;> simp <;> omega
theorem prs_zero {j : Nat} (h : sgn (32768 + j) = 0) : prs (j + 1) = prs j := by conv => lhs; unfold prs; rw [if_pos h, List.append_nil]
theorem prs_some {j : Nat} (h : sgn (32768 + j) ≠ 0) : prs (j + 1) = prs j ++ [(((32768 + j : Nat) : Int), ((sgn (32768 + j) : Nat) : Int))] := by conv => lhs; unfold prs; rw [if_neg h]
theorem wrap8 {x : Int} {b : Nat} (h : x % 256 = (b : Int)) : IntKind.u8.wrap x = (b : Int) := by rw [IntKind.wrap_u8]; exact h
set_option maxRecDepth 100000 in
set_option maxHeartbeats 4000000 in
theorem pairs_any (w : World) (hK : KD w) : Calls Tryd.prog 13 #[] w fun e w' => ∃ A c, e = .returned (.slice A 11223 c) ∧ RowP w' A 11223 c (prs 32768) ∧ Below w.heap.size w w' := by
  obtain ⟨i0, hi0, hzz⟩ := Option.map_eq_some_iff.1 rpair_info
  simp only [Prod.mk.injEq] at hzz
  obtain ⟨hz, hsi, hby⟩ := hzz
  have HK := Lib.hid hK
  clear hK
  go_enter Tryd.func13, Tryd.ntmps13
  go_wp2_with fail
  go_loopw [1, 2] (fun v i wr => ∃ (j : Nat) (C : Int), Hid (C = 32768 + (j : Int) ∧ j ≤ 32768) ∧ i = .int .i64 C ∧ wr.ownsRow w.heap.size 37 2 v (prs j).length (pc (prs j)) ∧ Below w.heap.size w wr) (fun _ i _ => 65536 - (RowKit.intOf i).toNat)
  case atStart => exact ⟨0, 32768, Lib.hid ⟨rfl, by omega⟩, rfl, ⟨rfl, .inl ⟨rfl, rfl⟩⟩, Below.refl _ _⟩
  case round =>
    obtain ⟨j, C, hj, rfl, hown, hB⟩ := hrel
    have HOW := Lib.hid hown; have HB := Lib.hid hB; have hz1 := hB.size
    have KR := Lib.hid (HK.out.below hB HK.out.lt)
    clear hown hB
    by_cases hlt : C < 65536
    · have hj1 := hj.out
      have hC0 : 32768 ≤ C := by omega
      obtain ⟨a, b, hab, ha, hb⟩ : ∃ a b : Nat, 32768 + j = a * 256 + b ∧ a < 256 ∧ b < 256 := ⟨(32768 + j) / 256, (32768 + j) % 256, by omega, by omega, by omega⟩
      have wa : IntKind.u8.wrap (C / 256) = (a : Int) := wrap8 (by omega)
      have wb : IntKind.u8.wrap C = (b : Int) := wrap8 (by omega)
      have HS := Lib.hid (fun w2 hk => sign_any a b w2 ha hb hk)
      rw [← hab] at HS
      have hsg : sg (32768 + j) = sgn (32768 + j) := if_neg (by omega)
      rw [hsg] at HS
      have hle : (prs j).length ≤ 32768 := by have := prs_le j; omega
      by_cases hS : sgn (32768 + j) = 0
      · have HP := Lib.hid (prs_zero hS)
        rw [hS] at HS
        replace HS : Hid (∀ w2, KD w2 → Calls Tryd.prog 7 #[.int .u8 a, .int .u8 b] w2 fun e w' => e = .returned (.tuple #[.int .i32 0, .bool false]) ∧ Below w2.heap.size w2 w') := HS
        clear hS hsg hab hj1 ha hb
        go_wp2_with (go_at_call 7; refine (HS.out _ KR.out).mono ?_; rintro e2 w2 ⟨rfl, hb2⟩; have O2 := Lib.hid (owns_below2 HOW.out hb2 (Nat.le_refl _)); have B2 := Lib.hid (HB.out.trans (hb2.mono hz1)); clear hb2)
        go_roundw
        case rel => exact ⟨j + 1, C + 1, Lib.hid (by have := hj.out; omega), rfl, by rw [HP.out]; exact O2.out, B2.out⟩
        case measure => simp [RowKit.intOf]; omega
      · have HP := Lib.hid (prs_some hS)
        rw [sV_pos hS] at HS
        rw [show ((32768 + j : Nat) : Int) = C by omega] at HP
        generalize ((sgn (32768 + j) : Nat) : Int) = S at *
        clear hS hsg hab hj1 ha hb
        go_wp2_with (first
          | (go_at_call 7; refine (HS.out _ KR.out).mono ?_; rintro e2 w2 ⟨rfl, hb2⟩; have O2 := Lib.hid (owns_below2 HOW.out hb2 (Nat.le_refl _)); have B2 := Lib.hid (HB.out.trans (hb2.mono hz1)); have z2 : w.heap.size ≤ w2.heap.size := Nat.le_trans hz1 hb2.size; clear hb2)
          | (at_builtin; refine wpList_append_own _ rfl _ _ 34 rfl w.heap.size 37 i0 _ 2 16 Tryd.underlying34 hi0 hz hsi hby rfl (by decide) _ _ _ rfl (O2.out.alloc _) ⟨w2.heap.size, 0, none⟩ 1 1 [.int .i64 C, .int .i32 S] rfl rfl (new_cells w2 _ _ _) (fun u hu => by simp at hu; rcases hu with rfl | rfl <;> rfl) (by unfold maxLen; omega) (by omega) (by first | omega | (simp; omega)) ?_; intro v5 w5 hown5 hgrow _; have HO5 := Lib.hid hown5; have HB5 := Lib.hid (below_own (B2.out.alloc z2 (.cells #[.int .i64 C, .int .i32 S] 37)) (by first | omega | (simp; omega)) (O2.out.alloc _) hgrow); clear hown5 hgrow))
        go_roundw
        case rel => exact ⟨j + 1, C + 1, Lib.hid (by have := hj.out; omega), rfl, by rw [HP.out, pc_app, pc_one, List.length_append]; exact HO5.out, HB5.out⟩
        case measure => simp [RowKit.intOf]; omega
    · have hj1 := hj.out
      obtain rfl : j = 32768 := by omega
      have hlen : (prs 32768).length = 11223 := by rw [prs_len, cnt_all]
      rw [hlen] at HOW
      obtain ⟨A2, c2, rfl, hrow⟩ := rowP_ofE HOW.out
      have HRW := Lib.hid hrow
      clear hrow hlen hj1
      go_wp2_with fail
      go_ret
      exact ⟨A2, c2, rfl, HRW.out, HB.out⟩
end Go.Proofs.YtiamabeapomabaaDoor.jo
