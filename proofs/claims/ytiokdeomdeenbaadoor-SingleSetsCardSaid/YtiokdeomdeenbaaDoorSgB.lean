/- The law SingleSets of layer 5. -/
import Derived.Test.YtiokdeomdeenbaaDoorSg9
namespace Go.Proofs.YtiokdeomdeenbaaDoor.sg
open Go.RowKit Go.Lib
open Go.Proofs.YtiokdeomdeenbaaDoor.tb
set_option linter.unusedVariables false
theorem tbl_take (c : Int) (j : Nat) (h : j < 256) : (tbl c).take (j + 1) = (tbl c).take j ++ [((j : Int), sgn c j)] := by
  have hl : j < (tbl c).length := by rw [tbl_len]; exact h
  rw [List.take_add_one, List.getElem?_eq_getElem hl]
  simp [tbl]
set_option maxRecDepth 100000 in
set_option maxHeartbeats 4000000 in
theorem sets_good (c : Int) (w : World) (hT : pt.Tabs w) (h0 : 0 ≤ c) (h1 : c ≤ 3) :
    Calls Tryd.prog 7 #[.int .i64 c] w fun e w' => e = .returned (.bool true) ∧ Below w.heap.size w w' := by
  have HAW := Lib.hid (fun w2 h2 => awake5_any w2 h2)
  have HBD : Hid (∀ W, Calls Tryd.prog 17 #[.agg #[.int .i64 0, .int .i64 0]] W fun e w' => e = .returned (.bool false) ∧ Below W.heap.size W w') := Lib.hid (fun W => pt.bad_any W 0 0)
  have HT := Lib.hid hT
  have HOF := Lib.hid (fun w2 h2 => of_any c w2 h2 h0 h1)
  obtain ⟨i0, hi0, hzz⟩ := Option.map_eq_some_iff.1 pair_info
  simp only [Prod.mk.injEq] at hzz
  obtain ⟨hz, hsi, hby⟩ := hzz
  have n0 : ¬ c < 0 := by omega
  have n1 : ¬ 3 < c := by omega
  clear hT
  go_enter Tryd.func7, Tryd.ntmps7
  go_wp2_with (first | (go_at_call 27; (with_reducible refine (HOF.out _ HT.out).mono ?_); rintro e1 w1 ⟨X, rfl, hx, hb1⟩; have hst := (fun wx (a : Addr) m => run_store (P := Tryd.prog) (w := wx) (a := a) X m (TE.one hx)); have LL := Lib.hid (Lw.new (c := c) hb1 hx); obtain ⟨_, z0, z1, z2, _⟩ := k2z w1; obtain ⟨⟨_, y0, y1, y2, _⟩, _, _⟩ := LL.out; clear hx hb1))
  go_loopw [5, 34] (fun v i wr => ∃ j : Nat, j ≤ 256 ∧ i = .int .i64 j ∧ wr.ownsRow (w1.heap.size + 1) 42 2 v j (pc ((tbl c).take j)) ∧ Below (w1.heap.size + 1) (w1.alloc (.cells #[X, .int .i64 c] 56)) wr) (fun _ i _ => 256 - (RowKit.intOf i).toNat)
  case atStart => exact ⟨0, Nat.zero_le _, rfl, World.ownsRow_nil _ _ _ _, Below.refl _ _⟩
  case round =>
    obtain ⟨j, hj, rfl, hown, hB⟩ := hrel
    have HOW := Lib.hid hown; have HB := Lib.hid hB
    have hz1 : w1.heap.size + 1 ≤ wr.heap.size := by have := hB.size; rw [World.size_alloc] at this; exact this
    clear hown hB
    by_cases hlt : j < 256
    · have hlt' : (j : Int) < 256 := by omega
      have hu8 : IntKind.u8.wrap (j : Int) = (j : Int) := by simp [IntKind.wrap, IntKind.bits, IntKind.signed]; omega
      have HSG : Hid (∀ W, Calls Tryd.prog 29 #[.int .i64 c, .int .u8 (j : Int)] W fun e w' => e = .returned (.int .i32 (sgn c j)) ∧ Below W.heap.size W w') := Lib.hid (fun W => sign_any c j W h0 h1 hlt)
      have HTK := Lib.hid (tbl_take c j hlt)
      generalize sgn c j = S at *
      go_wp2_with (first
        | (go_at_call 29; refine (HSG.out _).mono ?_; rintro e3 w3 ⟨rfl, hb3⟩; have O3 := Lib.hid (owns_below2 HOW.out hb3 (Nat.le_refl _)); have B3 := Lib.hid (HB.out.trans (hb3.mono hz1)); have z3 : w1.heap.size + 1 ≤ w3.heap.size := Nat.le_trans hz1 hb3.size; clear hb3)
        | (at_builtin; refine wpList_append_own _ rfl _ _ 33 rfl (w1.heap.size + 1) 42 i0 _ 2 16 Tryd.underlying33 hi0 hz hsi hby rfl (by decide) _ _ _ rfl (O3.out.alloc _) ⟨w3.heap.size, 0, none⟩ 1 1 [.int .i64 (j : Int), .int .i32 S] rfl rfl (new_cells w3 _ _ _) (fun u hu => by simp at hu; rcases hu with rfl | rfl <;> rfl) (by unfold maxLen; omega) (by omega) (by first | omega | (simp; omega)) ?_; intro v5 w5 hown5 hgrow _; have HO5 := Lib.hid hown5; have HB5 := Lib.hid (below_own (B3.out.alloc z3 (.cells #[.int .i64 (j : Int), .int .i32 S] 42)) (by first | omega | (simp; omega)) (O3.out.alloc _) hgrow); clear hown5 hgrow))
      go_roundw
      case rel => exact ⟨j + 1, by omega, by go_num, by rw [HTK.out, pc_app, pc_one]; exact HO5.out, HB5.out⟩
      case measure => simp [RowKit.intOf]; omega
    · obtain rfl : j = 256 := by omega
      have e : (tbl c).take 256 = tbl c := List.take_of_length_le (by rw [tbl_len]; exact Nat.le_refl _)
      rw [e] at HOW
      obtain ⟨A2, c2, rfl, hrow⟩ := rowP_of HOW.out
      have HIS : Hid (∀ W, TE TBr W X (tbl c) → RowP W A2 256 c2 (tbl c) → Calls Tryd.prog 18 #[.agg #[X], .slice A2 256 c2] W fun e w' => e = .returned (.bool true) ∧ Below W.heap.size W w') := Lib.hid (fun W h2 h3 => tb.tab.is h2 h3 (by decide))
      have RR := Lib.hid hrow
      have LL := Lib.hid (LL.out.below (HB.out.mono (by rw [World.size_alloc]; exact Nat.le_refl _)))
      obtain ⟨⟨_, y0, y1, y2, _⟩, _, _⟩ := LL.out
      clear hrow e
      go_wp2_with (first
        | (go_at_call 28; (with_reducible refine (HAW.out _ (HT.out.below LL.out.b)).mono ?_); rintro e9 w9 ⟨rfl, hb9⟩; have LL := Lib.hid (LL.out.below hb9); have RR := Lib.hid (RR.out.below hb9); obtain ⟨⟨_, y0, y1, y2, _⟩, _, _⟩ := LL.out; clear hb9)
        | (go_at_call 18; (with_reducible refine (HIS.out _ LL.out.t RR.out).mono ?_); rintro e10 w10 ⟨rfl, hb10⟩; have LL := Lib.hid (LL.out.below hb10); clear hb10))
      go_ret
      exact ⟨rfl, LL.out.b⟩
set_option maxRecDepth 100000 in
set_option maxHeartbeats 4000000 in
theorem SingleSets_walk (c : Int) (w : World) (hT : pt.Tabs w) :
    Calls Tryd.prog 7 #[.int .i64 c] w fun e w' => e = .returned (.bool true) ∧ Below w.heap.size w w' := by
  have HAW := Lib.hid (fun w2 h2 => awake5_any w2 h2)
  have HBD : Hid (∀ W, Calls Tryd.prog 17 #[.agg #[.int .i64 0, .int .i64 0]] W fun e w' => e = .returned (.bool false) ∧ Below W.heap.size W w') := Lib.hid (fun W => pt.bad_any W 0 0)
  have HT := Lib.hid hT
  have HSZ : Hid (∀ W, TE TBr W (.slice none 0 0) [] → Calls Tryd.prog 16 #[.agg #[.slice none 0 0]] W fun e w' => e = .returned (.int .i64 0) ∧ Below W.heap.size W w') := Lib.hid (fun W h => tbr_size W _ [] h (by decide))
  by_cases c0 : c < 0
  · have HON := Lib.hid (fun w2 => of_none c w2 (.inl c0))
    clear hT
    go_enter Tryd.func7, Tryd.ntmps7
    go_wp2_with (first | (go_at_call 27; (with_reducible refine (HON.out _).mono ?_); rintro e1 w1 ⟨rfl, hb1⟩; have LL := Lib.hid (Lw.new (X := .slice none 0 0) (c := 0) hb1 (te_nil w1)); obtain ⟨_, z0, z1, z2, _⟩ := k2z w1; obtain ⟨⟨_, y0, y1, y2, _⟩, _, _⟩ := LL.out; clear hb1) | (go_at_call 28; (with_reducible refine (HAW.out _ (HT.out.below LL.out.b)).mono ?_); rintro e9 w9 ⟨rfl, hb9⟩; have LL := Lib.hid (LL.out.below hb9); obtain ⟨⟨_, y0, y1, y2, _⟩, _, _⟩ := LL.out; clear hb9) | (go_at_call 16; (with_reducible refine (HSZ.out _ LL.out.t).mono ?_); rintro e8 w8 ⟨rfl, hb8⟩; have LL := Lib.hid (LL.out.below hb8); obtain ⟨⟨_, y0, y1, y2, _⟩, _, _⟩ := LL.out; clear hb8))
    go_ret
    exact ⟨rfl, LL.out.b⟩
  by_cases c3 : 3 < c
  · have HON := Lib.hid (fun w2 => of_none c w2 (.inr c3))
    clear hT
    go_enter Tryd.func7, Tryd.ntmps7
    go_wp2_with (first | (go_at_call 27; (with_reducible refine (HON.out _).mono ?_); rintro e1 w1 ⟨rfl, hb1⟩; have LL := Lib.hid (Lw.new (X := .slice none 0 0) (c := 0) hb1 (te_nil w1)); obtain ⟨_, z0, z1, z2, _⟩ := k2z w1; obtain ⟨⟨_, y0, y1, y2, _⟩, _, _⟩ := LL.out; clear hb1) | (go_at_call 28; (with_reducible refine (HAW.out _ (HT.out.below LL.out.b)).mono ?_); rintro e9 w9 ⟨rfl, hb9⟩; have LL := Lib.hid (LL.out.below hb9); obtain ⟨⟨_, y0, y1, y2, _⟩, _, _⟩ := LL.out; clear hb9) | (go_at_call 16; (with_reducible refine (HSZ.out _ LL.out.t).mono ?_); rintro e8 w8 ⟨rfl, hb8⟩; have LL := Lib.hid (LL.out.below hb8); obtain ⟨⟨_, y0, y1, y2, _⟩, _, _⟩ := LL.out; clear hb8))
    go_ret
    exact ⟨rfl, LL.out.b⟩
  exact sets_good c w hT (by omega) (by omega)
end Go.Proofs.YtiokdeomdeenbaaDoor.sg
