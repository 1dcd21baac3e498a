/- The laws SingleReads and SingleParts of layer 5. -/
import Derived.Test.YtiokdeomdeenbaaDoorSg8
namespace Go.Proofs.YtiokdeomdeenbaaDoor.sg
open Go.RowKit Go.Lib
open Go.Proofs.YtiokdeomdeenbaaDoor.tb
set_option linter.unusedVariables false
/-- What stands once a charset is made and laid. -/
structure Lw (w : World) (b : Nat) (X : Value) (c : Int) (l : List (Int × Int)) (W : World) : Prop where
  s : K2 W b 56 X (.int .i64 c)
  t : TE TBr W X l
  b : Below w.heap.size w W
theorem Lw.below {w : World} {b : Nat} {X : Value} {c : Int} {l : List (Int × Int)} {W W' : World} (h : Lw w b X c l W) (hb : Below W.heap.size W W') : Lw w b X c l W' :=
  ⟨h.s.below hb h.s.lt, te_below h.t hb, h.b.trans (hb.mono h.b.size)⟩
theorem Lw.new {w W : World} {X : Value} {c : Int} {l : List (Int × Int)} (hb : Below w.heap.size w W) (ht : TE TBr W X l) : Lw w W.heap.size X c l (W.alloc (.cells #[X, .int .i64 c] 56)) := by
  have hA : Below W.heap.size W (W.alloc (.cells #[X, .int .i64 c] 56)) := (Below.refl _ _).alloc (Nat.le_refl _) _
  exact ⟨k2_new _ _ _ _, te_below ht hA, hb.trans (hA.mono hb.size)⟩
set_option maxRecDepth 100000 in
set_option maxHeartbeats 4000000 in
theorem reads_good (c : Int) (b : ByteArray) (w : World) (hT : pt.Tabs w) (h0 : 0 ≤ c) (h1 : c ≤ 3) (hb : ¬ 300 < b.size) :
    Calls Tryd.prog 8 #[.int .i64 c, .string b] w fun e w' => e = .returned (.bool true) ∧ Below w.heap.size w w' := by
  have HAW := Lib.hid (fun w2 h2 => awake5_any w2 h2)
  have HBD : Hid (∀ W, Calls Tryd.prog 17 #[.agg #[.int .i64 0, .int .i64 0]] W fun e w' => e = .returned (.bool false) ∧ Below W.heap.size W w') := Lib.hid (fun W => pt.bad_any W 0 0)
  have HT := Lib.hid hT
  have HOF := Lib.hid (fun w2 h2 => of_any c w2 h2 h0 h1)
  have hl : b.data.toList.length = b.size := by rw [Array.length_toList]; rfl
  have htm := txt_most (sdec c b.data.toList)
  rw [sdec_len, hl] at htm
  have hd := fun W X h => decode_any c c X b W h0 h1 (by omega) h
  have hr := fun W => refDecode_any c b W h0 h1 (by omega)
  have he := fun W X hW h => encode_good c c X (sdec c b.data.toList) W h0 h1 (by omega) (sdec_valid h0 h1 _) h hW
  rw [senc_sdec h0 h1] at he
  have hbb : (⟨b.data.toList.toArray⟩ : ByteArray) = b := by cases b; simp
  have he2 : ∀ W X, pt.Tabs W → TE TBr W X (tbl c) → Calls Tryd.prog 31 #[.agg #[X, .int .i64 c], .string (pt.txt (sdec c b.data.toList))] W fun e w' => e = .returned (.tuple #[.string b, .agg #[.int .i64 0, .int .i64 0]]) ∧ Below W.heap.size W w' := fun W X hW h => (he W X hW h).mono fun e w' hh => ⟨by rw [hh.1]; simp only [if_true]; rw [hbb]; rfl, hh.2⟩
  have n0 : ¬ c < 0 := by omega
  have n1 : ¬ 3 < c := by omega
  have n2 : ¬ (300 : Int) < (b.size : Int) := by omega
  generalize pt.txt (sdec c b.data.toList) = T at *
  have HD := Lib.hid hd; have HRD := Lib.hid hr; have HE := Lib.hid he2
  clear hT hd hr he he2 hbb hl htm
  go_enter Tryd.func8, Tryd.ntmps8
  go_wp2_with (first
    | (go_at_call 27; (with_reducible refine (HOF.out _ HT.out).mono ?_); rintro e1 w1 ⟨X, rfl, hx, hb1⟩; have hst := (fun wx (a : Addr) m => run_store (P := Tryd.prog) (w := wx) (a := a) X m (TE.one hx)); have LL := Lib.hid (Lw.new (c := c) hb1 hx); obtain ⟨_, z0, z1, z2, _⟩ := k2z w1; obtain ⟨⟨_, y0, y1, y2, _⟩, _, _⟩ := LL.out; clear hx hb1)
    | (go_at_call 30; (with_reducible refine (HD.out _ X LL.out.t).mono ?_); rintro e2 w2 ⟨rfl, hb2⟩; have hA : Below w2.heap.size w2 (w2.alloc (.cells #[.int .i64 0, .int .i64 0] 30)) := (Below.refl _ _).alloc (Nat.le_refl _) _; have LL := Lib.hid ((LL.out.below hb2).below hA); have FF := Lib.hid (pt.f2_new w2 0 0 30); obtain ⟨⟨_, y0, y1, y2, _⟩, _, _⟩ := LL.out; obtain ⟨_, FF0, FF1, FF2, FF3⟩ := FF.out; clear hb2 hA)
    | (go_at_call 31; (with_reducible refine (HE.out _ X (HT.out.below LL.out.b) LL.out.t).mono ?_); rintro e3 w3 ⟨rfl, hb3⟩; have hA : Below w3.heap.size w3 (w3.alloc (.cells #[.int .i64 0, .int .i64 0] 30)) := (Below.refl _ _).alloc (Nat.le_refl _) _; have LL := Lib.hid ((LL.out.below hb3).below hA); have FF := Lib.hid ((FF.out.below hb3 FF.out.lt).below hA (Nat.lt_of_lt_of_le FF.out.lt hb3.size)); obtain ⟨_, n30, n31, n32, n33⟩ := pt.f2_new w3 0 0 30; have GG := Lib.hid (pt.f2_new w3 (0) (0) 30); obtain ⟨⟨_, y0, y1, y2, _⟩, _, _⟩ := LL.out; obtain ⟨_, GG0, GG1, GG2, GG3⟩ := GG.out; clear hb3 hA)
    | (go_at_call 28; (with_reducible refine (HAW.out _ (HT.out.below LL.out.b)).mono ?_); rintro e4 w4 ⟨rfl, hb4⟩; have LL := Lib.hid (LL.out.below hb4); have FF := Lib.hid (FF.out.below hb4 FF.out.lt); obtain ⟨_, FF0, FF1, _, _⟩ := FF.out; have GG := Lib.hid (GG.out.below hb4 GG.out.lt); obtain ⟨_, GG0, GG1, _, _⟩ := GG.out; obtain ⟨⟨_, y0, y1, y2, _⟩, _, _⟩ := LL.out; clear hb4)
    | (go_at_call 32; (with_reducible refine (HRD.out _).mono ?_); rintro e5 w5 ⟨rfl, hb5⟩; have LL := Lib.hid (LL.out.below hb5); have FF := Lib.hid (FF.out.below hb5 FF.out.lt); obtain ⟨_, FF0, FF1, _, _⟩ := FF.out; have GG := Lib.hid (GG.out.below hb5 GG.out.lt); obtain ⟨_, GG0, GG1, _, _⟩ := GG.out; obtain ⟨⟨_, y0, y1, y2, _⟩, _, _⟩ := LL.out; clear hb5)
    | (go_at_call 17; (with_reducible refine (HBD.out _).mono ?_); rintro e6 w6 ⟨rfl, hb6⟩; have LL := Lib.hid (LL.out.below hb6); have FF := Lib.hid (FF.out.below hb6 FF.out.lt); obtain ⟨_, FF0, FF1, _, _⟩ := FF.out; have GG := Lib.hid (GG.out.below hb6 GG.out.lt); obtain ⟨_, GG0, GG1, _, _⟩ := GG.out; obtain ⟨⟨_, y0, y1, y2, _⟩, _, _⟩ := LL.out; clear hb6))
  go_ret
  exact ⟨rfl, LL.out.b⟩
set_option maxRecDepth 100000 in
set_option maxHeartbeats 4000000 in
theorem SingleReads_walk (c : Int) (b : ByteArray) (w : World) (hT : pt.Tabs w) :
    Calls Tryd.prog 8 #[.int .i64 c, .string b] w fun e w' => e = .returned (.bool true) ∧ Below w.heap.size w w' := by
  have HAW := Lib.hid (fun w2 h2 => awake5_any w2 h2)
  have HBD : Hid (∀ W, Calls Tryd.prog 17 #[.agg #[.int .i64 0, .int .i64 0]] W fun e w' => e = .returned (.bool false) ∧ Below W.heap.size W w') := Lib.hid (fun W => pt.bad_any W 0 0)
  have HT := Lib.hid hT
  by_cases c0 : c < 0
  · have HON := Lib.hid (fun w2 => of_none c w2 (.inl c0))
    clear hT
    go_enter Tryd.func8, Tryd.ntmps8
    go_wp2_with (first | (go_at_call 27; (with_reducible refine (HON.out _).mono ?_); rintro e1 w1 ⟨rfl, hb1⟩; have LL := Lib.hid (Lw.new (X := .slice none 0 0) (c := 0) hb1 (te_nil w1)); obtain ⟨_, z0, z1, z2, _⟩ := k2z w1; obtain ⟨⟨_, y0, y1, y2, _⟩, _, _⟩ := LL.out; clear hb1) | (go_at_call 28; (with_reducible refine (HAW.out _ (HT.out.below LL.out.b)).mono ?_); rintro e9 w9 ⟨rfl, hb9⟩; have LL := Lib.hid (LL.out.below hb9); clear hb9))
    go_ret
    exact ⟨rfl, LL.out.b⟩
  by_cases c3 : 3 < c
  · have HON := Lib.hid (fun w2 => of_none c w2 (.inr c3))
    clear hT
    go_enter Tryd.func8, Tryd.ntmps8
    go_wp2_with (first | (go_at_call 27; (with_reducible refine (HON.out _).mono ?_); rintro e1 w1 ⟨rfl, hb1⟩; have LL := Lib.hid (Lw.new (X := .slice none 0 0) (c := 0) hb1 (te_nil w1)); obtain ⟨_, z0, z1, z2, _⟩ := k2z w1; obtain ⟨⟨_, y0, y1, y2, _⟩, _, _⟩ := LL.out; clear hb1) | (go_at_call 28; (with_reducible refine (HAW.out _ (HT.out.below LL.out.b)).mono ?_); rintro e9 w9 ⟨rfl, hb9⟩; have LL := Lib.hid (LL.out.below hb9); clear hb9))
    go_ret
    exact ⟨rfl, LL.out.b⟩
  have h0 : 0 ≤ c := by omega
  have h1 : c ≤ 3 := by omega
  have HOF := Lib.hid (fun w2 h2 => of_any c w2 h2 h0 h1)
  by_cases b0 : 300 < b.size
  · have b0' : (300 : Int) < (b.size : Int) := by omega
    clear hT
    go_enter Tryd.func8, Tryd.ntmps8
    go_wp2_with (first | (go_at_call 27; (with_reducible refine (HOF.out _ HT.out).mono ?_); rintro e1 w1 ⟨X, rfl, hx, hb1⟩; have hst := (fun wx (a : Addr) m => run_store (P := Tryd.prog) (w := wx) (a := a) X m (TE.one hx)); have LL := Lib.hid (Lw.new (c := c) hb1 hx); obtain ⟨_, z0, z1, z2, _⟩ := k2z w1; obtain ⟨⟨_, y0, y1, y2, _⟩, _, _⟩ := LL.out; clear hx hb1) | (go_at_call 28; (with_reducible refine (HAW.out _ (HT.out.below LL.out.b)).mono ?_); rintro e9 w9 ⟨rfl, hb9⟩; have LL := Lib.hid (LL.out.below hb9); clear hb9))
    go_ret
    exact ⟨rfl, LL.out.b⟩
  exact reads_good c b w hT h0 h1 b0
set_option maxRecDepth 100000 in
set_option maxHeartbeats 4000000 in
theorem parts_good (c : Int) (a b : ByteArray) (w : World) (hT : pt.Tabs w) (h0 : 0 ≤ c) (h1 : c ≤ 3) (ha : ¬ 200 < a.size) (hb : ¬ 200 < b.size) :
    Calls Tryd.prog 10 #[.int .i64 c, .string a, .string b] w fun e w' => e = .returned (.bool true) ∧ Below w.heap.size w w' := by
  have HAW := Lib.hid (fun w2 h2 => awake5_any w2 h2)
  have HBD : Hid (∀ W, Calls Tryd.prog 17 #[.agg #[.int .i64 0, .int .i64 0]] W fun e w' => e = .returned (.bool false) ∧ Below W.heap.size W w') := Lib.hid (fun W => pt.bad_any W 0 0)
  have HT := Lib.hid hT
  have HOF := Lib.hid (fun w2 h2 => of_any c w2 h2 h0 h1)
  have hla : a.data.toList.length = a.size := by rw [Array.length_toList]; rfl
  have hlb : b.data.toList.length = b.size := by rw [Array.length_toList]; rfl
  have hta := txt_most (sdec c a.data.toList)
  have htb := txt_most (sdec c b.data.toList)
  rw [sdec_len, hla] at hta
  rw [sdec_len, hlb] at htb
  have hs : (a ++ b).size = a.size + b.size := by simp
  have hda := fun W X h => decode_any c c X a W h0 h1 (by omega) h
  have hdb := fun W X h => decode_any c c X b W h0 h1 (by omega) h
  have hdc := fun W X h => decode_any c c X (a ++ b) W h0 h1 (by omega) h
  rw [data_app, sdec_app, txt_app] at hdc
  have n0 : ¬ c < 0 := by omega
  have n1 : ¬ 3 < c := by omega
  have n2 : ¬ (200 : Int) < (a.size : Int) := by omega
  have n3 : ¬ (200 : Int) < (b.size : Int) := by omega
  generalize pt.txt (sdec c a.data.toList) = S at *
  generalize pt.txt (sdec c b.data.toList) = T at *
  have o0 : ¬ 9223372036854775807 < a.size + b.size := by omega
  have o1 : ¬ 9223372036854775807 < S.size + T.size := by omega
  have HDA := Lib.hid hda; have HDB := Lib.hid hdb; have HDC := Lib.hid hdc
  clear hT hda hdb hdc hla hlb hta htb hs
  go_enter Tryd.func10, Tryd.ntmps10
  go_wp2_with (first
    | (go_at_call 27; (with_reducible refine (HOF.out _ HT.out).mono ?_); rintro e1 w1 ⟨X, rfl, hx, hb1⟩; have hst := (fun wx (a : Addr) m => run_store (P := Tryd.prog) (w := wx) (a := a) X m (TE.one hx)); have LL := Lib.hid (Lw.new (c := c) hb1 hx); obtain ⟨_, z0, z1, z2, _⟩ := k2z w1; obtain ⟨⟨_, y0, y1, y2, _⟩, _, _⟩ := LL.out; clear hx hb1)
    | (go_at_call 30; (with_reducible refine (HDA.out _ X LL.out.t).mono ?_); rintro e2 w2 ⟨rfl, hb2⟩; have hA : Below w2.heap.size w2 (w2.alloc (.cells #[.int .i64 0, .int .i64 0] 30)) := (Below.refl _ _).alloc (Nat.le_refl _) _; have LL := Lib.hid ((LL.out.below hb2).below hA); have FF := Lib.hid (pt.f2_new w2 0 0 30); obtain ⟨⟨_, y0, y1, y2, _⟩, _, _⟩ := LL.out; obtain ⟨_, FF0, FF1, FF2, FF3⟩ := FF.out; clear hb2 hA)
    | (go_at_call 30; (with_reducible refine (HDB.out _ X LL.out.t).mono ?_); rintro e3 w3 ⟨rfl, hb3⟩; have hA : Below w3.heap.size w3 (w3.alloc (.cells #[.int .i64 0, .int .i64 0] 30)) := (Below.refl _ _).alloc (Nat.le_refl _) _; have LL := Lib.hid ((LL.out.below hb3).below hA); have FF := Lib.hid ((FF.out.below hb3 FF.out.lt).below hA (Nat.lt_of_lt_of_le FF.out.lt hb3.size)); have GG := Lib.hid (pt.f2_new w3 0 0 30); obtain ⟨⟨_, y0, y1, y2, _⟩, _, _⟩ := LL.out; obtain ⟨_, GG0, GG1, GG2, GG3⟩ := GG.out; clear hb3 hA)
    | (go_at_call 30; (with_reducible refine (HDC.out _ X LL.out.t).mono ?_); rintro e4 w4 ⟨rfl, hb4⟩; have hA : Below w4.heap.size w4 (w4.alloc (.cells #[.int .i64 0, .int .i64 0] 30)) := (Below.refl _ _).alloc (Nat.le_refl _) _; have LL := Lib.hid ((LL.out.below hb4).below hA); have FF := Lib.hid ((FF.out.below hb4 FF.out.lt).below hA (Nat.lt_of_lt_of_le FF.out.lt hb4.size)); have GG := Lib.hid ((GG.out.below hb4 GG.out.lt).below hA (Nat.lt_of_lt_of_le GG.out.lt hb4.size)); have EE := Lib.hid (pt.f2_new w4 0 0 30); obtain ⟨⟨_, y0, y1, y2, _⟩, _, _⟩ := LL.out; obtain ⟨_, EE0, EE1, EE2, EE3⟩ := EE.out; clear hb4 hA)
    | (go_at_call 28; (with_reducible refine (HAW.out _ (HT.out.below LL.out.b)).mono ?_); rintro e5 w5 ⟨rfl, hb5⟩; have LL := Lib.hid (LL.out.below hb5); have FF := Lib.hid (FF.out.below hb5 FF.out.lt); obtain ⟨_, FF0, FF1, _, _⟩ := FF.out; have GG := Lib.hid (GG.out.below hb5 GG.out.lt); obtain ⟨_, GG0, GG1, _, _⟩ := GG.out; have EE := Lib.hid (EE.out.below hb5 EE.out.lt); obtain ⟨_, EE0, EE1, _, _⟩ := EE.out; obtain ⟨⟨_, y0, y1, y2, _⟩, _, _⟩ := LL.out; clear hb5)
    | (go_at_call 17; (with_reducible refine (HBD.out _).mono ?_); rintro e6 w6 ⟨rfl, hb6⟩; have LL := Lib.hid (LL.out.below hb6); have FF := Lib.hid (FF.out.below hb6 FF.out.lt); obtain ⟨_, FF0, FF1, _, _⟩ := FF.out; have GG := Lib.hid (GG.out.below hb6 GG.out.lt); obtain ⟨_, GG0, GG1, _, _⟩ := GG.out; have EE := Lib.hid (EE.out.below hb6 EE.out.lt); obtain ⟨_, EE0, EE1, _, _⟩ := EE.out; obtain ⟨⟨_, y0, y1, y2, _⟩, _, _⟩ := LL.out; clear hb6))
  go_ret
  exact ⟨rfl, LL.out.b⟩
set_option maxRecDepth 100000 in
set_option maxHeartbeats 4000000 in
theorem SingleParts_walk (c : Int) (a b : ByteArray) (w : World) (hT : pt.Tabs w) :
    Calls Tryd.prog 10 #[.int .i64 c, .string a, .string b] w fun e w' => e = .returned (.bool true) ∧ Below w.heap.size w w' := by
  have HAW := Lib.hid (fun w2 h2 => awake5_any w2 h2)
  have HBD : Hid (∀ W, Calls Tryd.prog 17 #[.agg #[.int .i64 0, .int .i64 0]] W fun e w' => e = .returned (.bool false) ∧ Below W.heap.size W w') := Lib.hid (fun W => pt.bad_any W 0 0)
  have HT := Lib.hid hT
  by_cases c0 : c < 0
  · have HON := Lib.hid (fun w2 => of_none c w2 (.inl c0))
    clear hT
    go_enter Tryd.func10, Tryd.ntmps10
    go_wp2_with (first | (go_at_call 27; (with_reducible refine (HON.out _).mono ?_); rintro e1 w1 ⟨rfl, hb1⟩; have LL := Lib.hid (Lw.new (X := .slice none 0 0) (c := 0) hb1 (te_nil w1)); obtain ⟨_, z0, z1, z2, _⟩ := k2z w1; obtain ⟨⟨_, y0, y1, y2, _⟩, _, _⟩ := LL.out; clear hb1) | (go_at_call 28; (with_reducible refine (HAW.out _ (HT.out.below LL.out.b)).mono ?_); rintro e9 w9 ⟨rfl, hb9⟩; have LL := Lib.hid (LL.out.below hb9); clear hb9))
    go_ret
    exact ⟨rfl, LL.out.b⟩
  by_cases c3 : 3 < c
  · have HON := Lib.hid (fun w2 => of_none c w2 (.inr c3))
    clear hT
    go_enter Tryd.func10, Tryd.ntmps10
    go_wp2_with (first | (go_at_call 27; (with_reducible refine (HON.out _).mono ?_); rintro e1 w1 ⟨rfl, hb1⟩; have LL := Lib.hid (Lw.new (X := .slice none 0 0) (c := 0) hb1 (te_nil w1)); obtain ⟨_, z0, z1, z2, _⟩ := k2z w1; obtain ⟨⟨_, y0, y1, y2, _⟩, _, _⟩ := LL.out; clear hb1) | (go_at_call 28; (with_reducible refine (HAW.out _ (HT.out.below LL.out.b)).mono ?_); rintro e9 w9 ⟨rfl, hb9⟩; have LL := Lib.hid (LL.out.below hb9); clear hb9))
    go_ret
    exact ⟨rfl, LL.out.b⟩
  have h0 : 0 ≤ c := by omega
  have h1 : c ≤ 3 := by omega
  have HOF := Lib.hid (fun w2 h2 => of_any c w2 h2 h0 h1)
  by_cases b0 : 200 < a.size
  · have b0' : (200 : Int) < (a.size : Int) := by omega
    clear hT
    go_enter Tryd.func10, Tryd.ntmps10
    go_wp2_with (first | (go_at_call 27; (with_reducible refine (HOF.out _ HT.out).mono ?_); rintro e1 w1 ⟨X, rfl, hx, hb1⟩; have hst := (fun wx (a : Addr) m => run_store (P := Tryd.prog) (w := wx) (a := a) X m (TE.one hx)); have LL := Lib.hid (Lw.new (c := c) hb1 hx); obtain ⟨_, z0, z1, z2, _⟩ := k2z w1; obtain ⟨⟨_, y0, y1, y2, _⟩, _, _⟩ := LL.out; clear hx hb1) | (go_at_call 28; (with_reducible refine (HAW.out _ (HT.out.below LL.out.b)).mono ?_); rintro e9 w9 ⟨rfl, hb9⟩; have LL := Lib.hid (LL.out.below hb9); clear hb9))
    go_ret
    exact ⟨rfl, LL.out.b⟩
  by_cases b1 : 200 < b.size
  · have b1' : (200 : Int) < (b.size : Int) := by omega
    clear hT
    go_enter Tryd.func10, Tryd.ntmps10
    go_wp2_with (first | (go_at_call 27; (with_reducible refine (HOF.out _ HT.out).mono ?_); rintro e1 w1 ⟨X, rfl, hx, hb1⟩; have hst := (fun wx (a : Addr) m => run_store (P := Tryd.prog) (w := wx) (a := a) X m (TE.one hx)); have LL := Lib.hid (Lw.new (c := c) hb1 hx); obtain ⟨_, z0, z1, z2, _⟩ := k2z w1; obtain ⟨⟨_, y0, y1, y2, _⟩, _, _⟩ := LL.out; clear hx hb1) | (go_at_call 28; (with_reducible refine (HAW.out _ (HT.out.below LL.out.b)).mono ?_); rintro e9 w9 ⟨rfl, hb9⟩; have LL := Lib.hid (LL.out.below hb9); clear hb9))
    go_ret
    exact ⟨rfl, LL.out.b⟩
  exact parts_good c a b w hT h0 h1 b0 b1
end Go.Proofs.YtiokdeomdeenbaaDoor.sg
