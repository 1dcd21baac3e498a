/- The law SingleWrites of layer 5. -/
import Derived.Test.YtiokdeomdeenbaaDoorSg9
namespace Go.Proofs.YtiokdeomdeenbaaDoor.sg
open Go.RowKit Go.Lib
open Go.Proofs.YtiokdeomdeenbaaDoor.tb
set_option linter.unusedVariables false
theorem senc_len (c : Int) : ∀ (l : List Int) (a : Nat), (senc c a l).1.length ≤ l.length
  | [], a => Nat.le_refl _
  | p :: l, a => by
    show (if byte c p < 0 then _ else _ : List UInt8 × Option Nat).1.length ≤ _
    split
    · exact Nat.zero_le _
    · have := senc_len c l (a + (encodeRuneZ p).length)
      simp only [List.length_cons]
      omega
theorem nums_least : ∀ l : List Int, l.length ≤ (pt.nums l).length
  | [] => Nat.le_refl _
  | x :: l => by
    have h1 := nums_least l
    have h2 := (encodeRuneZ_length x).1
    have e : (pt.nums (x :: l)).length = (encodeRuneZ x).length + (pt.nums l).length := by simp [pt.nums]
    simp only [List.length_cons]
    omega
theorem zs_len (t : ByteArray) (h : (pt.scan t).2 = none) : (pt.zsOf t).length ≤ t.size := by
  have h1 := congrArg ByteArray.size (pt.txt_back t h)
  have h2 : (pt.zsOf t).length ≤ (pt.txt (pt.zsOf t)).size := by
    show _ ≤ (strOfNums (pt.nums _)).size
    rw [strOfNums_size]
    exact nums_least _
  omega
set_option maxRecDepth 100000 in
set_option maxHeartbeats 4000000 in
theorem writes_bad (A : Nat) (c : Int) (t : ByteArray) (w : World) (hT : pt.Tabs w) (h0 : 0 ≤ c) (h1 : c ≤ 3) (hb : ¬ 300 < t.size) (h : (pt.scan t).2 = some A) :
    Calls Tryd.prog 9 #[.int .i64 c, .string t] w fun e w' => e = .returned (.bool true) ∧ Below w.heap.size w w' := by
  have HAW := Lib.hid (fun w2 h2 => awake5_any w2 h2)
  have HBD : Hid (∀ W, Calls Tryd.prog 17 #[.agg #[.int .i64 0, .int .i64 0]] W fun e w' => e = .returned (.bool false) ∧ Below W.heap.size W w') := Lib.hid (fun W => pt.bad_any W 0 0)
  have HT := Lib.hid hT
  have HOF := Lib.hid (fun w2 h2 => of_any c w2 h2 h0 h1)
  have HE := Lib.hid (fun W X hW hx => encode_bad A c X (tbl c) t W (by omega) h hx hW)
  have HRP := Lib.hid (fun W => pt.refPoints_none t A W (by omega) h)
  have HFT : Hid (∀ W, Calls Tryd.prog 34 #[.int .i64 A] W fun e w' => e = .returned (.agg #[.int .i64 2, .int .i64 A]) ∧ Below W.heap.size W w') := Lib.hid (fun W => by
    have h := pt.fault_any A W
    rw [if_neg (by omega), if_neg (by omega)] at h
    exact h)
  have n0 : ¬ c < 0 := by omega
  have n1 : ¬ 3 < c := by omega
  have n2 : ¬ (300 : Int) < (t.size : Int) := by omega
  have n3 : (0 : Int) ≤ (A : Int) := by omega
  clear hT h
  go_enter Tryd.func9, Tryd.ntmps9
  go_wp2_with (first
    | (go_at_call 27; (with_reducible refine (HOF.out _ HT.out).mono ?_); rintro e1 w1 ⟨X, rfl, hx, hb1⟩; have hst := (fun wx (a : Addr) m => run_store (P := Tryd.prog) (w := wx) (a := a) X m (TE.one hx)); have LL := Lib.hid (Lw.new (c := c) hb1 hx); obtain ⟨_, z0, z1, z2, _⟩ := k2z w1; obtain ⟨⟨_, y0, y1, y2, _⟩, _, _⟩ := LL.out; clear hx hb1)
    | (go_at_call 31; (with_reducible refine (HE.out _ X (HT.out.below LL.out.b) LL.out.t).mono ?_); rintro e3 w3 ⟨rfl, hb3⟩; have hA : Below w3.heap.size w3 (w3.alloc (.cells #[.int .i64 2, .int .i64 A] 30)) := (Below.refl _ _).alloc (Nat.le_refl _) _; have LL := Lib.hid ((LL.out.below hb3).below hA); obtain ⟨_, n30, n31, n32, n33⟩ := pt.f2_new w3 0 0 30; have FF := Lib.hid (pt.f2_new w3 (2) (A) 30); obtain ⟨⟨_, y0, y1, y2, _⟩, _, _⟩ := LL.out; obtain ⟨_, FF0, FF1, FF2, FF3⟩ := FF.out; clear hb3 hA)
    | (go_at_call 33; (with_reducible refine (HRP.out _).mono ?_); rintro e4 w4 ⟨rfl, hb4⟩; have LL := Lib.hid (LL.out.below hb4); have FF := Lib.hid (FF.out.below hb4 FF.out.lt); obtain ⟨_, FF0, FF1, _, _⟩ := FF.out; obtain ⟨⟨_, y0, y1, y2, _⟩, _, _⟩ := LL.out; clear hb4))
  have DL := Lib.hid (LL.out.below (Below.refl _ _).drew)
  have DF := Lib.hid (FF.out.below (Below.refl _ _).drew FF.out.lt)
  go_region_held3 (fun w' => w'.cell? ⟨w3.heap.size, 0, none⟩ = some (.int .i64 2) ∧ w'.cell? ⟨w3.heap.size, 1, none⟩ = some (.int .i64 A)) (go_keep) (first
    | (go_at_call 28; (with_reducible refine (HAW.out _ (HT.out.below DL.out.b)).mono ?_); rintro e5 w5 ⟨rfl, hb5⟩; have EL := Lib.hid (DL.out.below hb5); have EF := Lib.hid (DF.out.below hb5 DF.out.lt); obtain ⟨_, a0, a1, _, _⟩ := EF.out; clear hb5)
    | (go_at_call 34; (with_reducible refine (HFT.out _).mono ?_); rintro e6 w6 ⟨rfl, hb6⟩; have GL := Lib.hid (EL.out.below hb6); have GF := Lib.hid (EF.out.below hb6 EF.out.lt); obtain ⟨_, g0, g1, _, _⟩ := GF.out; clear hb6))
  all_goals go_wp2_with fail
  go_ret
  exact ⟨rfl, GL.out.b⟩
set_option maxRecDepth 100000 in
set_option maxHeartbeats 4000000 in
theorem writes_far (c : Int) (t : ByteArray) (zs : List Int) (w : World) (hT : pt.Tabs w) (h0 : 0 ≤ c) (h1 : c ≤ 3) (hb : ¬ 300 < t.size) (hsc : (pt.scan t).2 = none) (hzs : zs = pt.zsOf t) (ht : pt.txt zs = t) (hv : zs.all validRune = true) (hzl : zs.length ≤ 300) (a : Nat) (hr : (senc c 0 zs).2 = some a) :
    Calls Tryd.prog 9 #[.int .i64 c, .string t] w fun e w' => e = .returned (.bool true) ∧ Below w.heap.size w w' := by
  have HAW := Lib.hid (fun w2 h2 => awake5_any w2 h2)
  have HBD : Hid (∀ W, Calls Tryd.prog 17 #[.agg #[.int .i64 0, .int .i64 0]] W fun e w' => e = .returned (.bool false) ∧ Below W.heap.size W w') := Lib.hid (fun W => pt.bad_any W 0 0)
  have HT := Lib.hid hT
  have HOF := Lib.hid (fun w2 h2 => of_any c w2 h2 h0 h1)
  have he := fun W X hW hx => encode_good c c X zs W h0 h1 (by rw [ht]; omega) hv hx hW
  have hrp := fun W => pt.refPoints_row t zs.length W (by omega) hsc (by rw [hzs])
  have hre := fun p d W h => refEncode_any c p zs.length d zs W h0 h1 h (by omega) hv
  rw [← hzs] at hrp
  have he2 : ∀ W X, pt.Tabs W → TE TBr W X (tbl c) → Calls Tryd.prog 31 #[.agg #[X, .int .i64 c], .string t] W fun e w' => e = .returned (.tuple #[.string ⟨#[]⟩, .agg #[.int .i64 6, .int .i64 a]]) ∧ Below W.heap.size W w' := fun W X hW hx => by
    have h := he W X hW hx
    rw [ht] at h
    unfold SEnc at h
    rw [hr] at h
    exact h
  have hre2 : ∀ p d W, pt.RowI W p zs.length d zs → Calls Tryd.prog 35 #[.int .i64 c, .slice p zs.length d] W fun e w' => e = .returned (.tuple #[.string ⟨#[]⟩, .int .i64 a]) ∧ Below W.heap.size W w' := fun p d W hx => by
    have h := hre p d W hx
    unfold Enc5 at h
    rw [hr] at h
    exact h
  have n4 : (0 : Int) ≤ (a : Int) := by omega
  have n0 : ¬ c < 0 := by omega
  have n1 : ¬ 3 < c := by omega
  have n2 : ¬ (300 : Int) < (t.size : Int) := by omega
  have n3 : decide ((0 : Int) ≤ -1) = false := rfl
  obtain ⟨N, hN⟩ : ∃ N, N = zs.length := ⟨_, rfl⟩
  rw [← hN] at hrp hre2
  have HRP := Lib.hid hrp; have HRE := Lib.hid hre2; have HE := Lib.hid he2
  clear hT he hrp hre hre2 he2 hN
  go_enter Tryd.func9, Tryd.ntmps9
  go_wp2_with (first
    | (go_at_call 27; (with_reducible refine (HOF.out _ HT.out).mono ?_); rintro e1 w1 ⟨X, rfl, hx, hb1⟩; have hst := (fun wx (a : Addr) m => run_store (P := Tryd.prog) (w := wx) (a := a) X m (TE.one hx)); have LL := Lib.hid (Lw.new (c := c) hb1 hx); obtain ⟨_, z0, z1, z2, _⟩ := k2z w1; obtain ⟨⟨_, y0, y1, y2, _⟩, _, _⟩ := LL.out; clear hx hb1)
    | (go_at_call 31; (with_reducible refine (HE.out _ X (HT.out.below LL.out.b) LL.out.t).mono ?_); rintro e3 w3 ⟨rfl, hb3⟩; have hA : Below w3.heap.size w3 (w3.alloc (.cells #[.int .i64 6, .int .i64 a] 30)) := (Below.refl _ _).alloc (Nat.le_refl _) _; have LL := Lib.hid ((LL.out.below hb3).below hA); obtain ⟨_, n30, n31, n32, n33⟩ := pt.f2_new w3 0 0 30; have FF := Lib.hid (pt.f2_new w3 (6) (a) 30); obtain ⟨⟨_, y0, y1, y2, _⟩, _, _⟩ := LL.out; obtain ⟨_, FF0, FF1, FF2, FF3⟩ := FF.out; clear hb3 hA)
    | (go_at_call 33; (with_reducible refine (HRP.out _).mono ?_); rintro e4 w4 ⟨q, d, rfl, hr, hb4⟩; have LL := Lib.hid (LL.out.below hb4); have FF := Lib.hid (FF.out.below hb4 FF.out.lt); have RR := Lib.hid hr; obtain ⟨⟨_, y0, y1, y2, _⟩, _, _⟩ := LL.out; obtain ⟨_, FF0, FF1, _, _⟩ := FF.out; clear hb4 hr)
    | (go_at_call 35; (with_reducible refine (HRE.out _ _ _ RR.out).mono ?_); rintro e5 w5 ⟨rfl, hb5⟩; have LL := Lib.hid (LL.out.below hb5); have FF := Lib.hid (FF.out.below hb5 FF.out.lt); obtain ⟨_, FF0, FF1, _, _⟩ := FF.out; obtain ⟨⟨_, y0, y1, y2, _⟩, _, _⟩ := LL.out; clear hb5)
    | (go_at_call 28; (with_reducible refine (HAW.out _ (HT.out.below LL.out.b)).mono ?_); rintro e6 w6 ⟨rfl, hb6⟩; have LL := Lib.hid (LL.out.below hb6); have FF := Lib.hid (FF.out.below hb6 FF.out.lt); obtain ⟨_, FF0, FF1, _, _⟩ := FF.out; obtain ⟨⟨_, y0, y1, y2, _⟩, _, _⟩ := LL.out; clear hb6))
  go_ret
  exact ⟨rfl, LL.out.b⟩
set_option maxRecDepth 100000 in
set_option maxHeartbeats 4000000 in
theorem writes_near (c : Int) (t : ByteArray) (zs : List Int) (w : World) (hT : pt.Tabs w) (h0 : 0 ≤ c) (h1 : c ≤ 3) (hb : ¬ 300 < t.size) (hsc : (pt.scan t).2 = none) (hzs : zs = pt.zsOf t) (ht : pt.txt zs = t) (hv : zs.all validRune = true) (hzl : zs.length ≤ 300) (hr : (senc c 0 zs).2 = none) :
    Calls Tryd.prog 9 #[.int .i64 c, .string t] w fun e w' => e = .returned (.bool true) ∧ Below w.heap.size w w' := by
  have HAW := Lib.hid (fun w2 h2 => awake5_any w2 h2)
  have HBD : Hid (∀ W, Calls Tryd.prog 17 #[.agg #[.int .i64 0, .int .i64 0]] W fun e w' => e = .returned (.bool false) ∧ Below W.heap.size W w') := Lib.hid (fun W => pt.bad_any W 0 0)
  have HT := Lib.hid hT
  have HOF := Lib.hid (fun w2 h2 => of_any c w2 h2 h0 h1)
  have he := fun W X hW hx => encode_good c c X zs W h0 h1 (by rw [ht]; omega) hv hx hW
  have hrp := fun W => pt.refPoints_row t zs.length W (by omega) hsc (by rw [hzs])
  have hre := fun p d W h => refEncode_any c p zs.length d zs W h0 h1 h (by omega) hv
  rw [← hzs] at hrp
  have he2 : ∀ W X, pt.Tabs W → TE TBr W X (tbl c) → Calls Tryd.prog 31 #[.agg #[X, .int .i64 c], .string t] W fun e w' => e = .returned (.tuple #[.string ⟨(senc c 0 zs).1.toArray⟩, .agg #[.int .i64 0, .int .i64 0]]) ∧ Below W.heap.size W w' := fun W X hW hx => by
    have h := he W X hW hx
    rw [ht] at h
    unfold SEnc at h
    rw [hr] at h
    exact h
  have hre2 : ∀ p d W, pt.RowI W p zs.length d zs → Calls Tryd.prog 35 #[.int .i64 c, .slice p zs.length d] W fun e w' => e = .returned (.tuple #[.string ⟨(senc c 0 zs).1.toArray⟩, .int .i64 (-1)]) ∧ Below W.heap.size W w' := fun p d W hx => by
    have h := hre p d W hx
    unfold Enc5 at h
    rw [hr] at h
    exact h
  have hd : ∀ W X, TE TBr W X (tbl c) → Calls Tryd.prog 30 #[.agg #[X, .int .i64 c], .string ⟨(senc c 0 zs).1.toArray⟩] W fun e w' => e = .returned (.tuple #[.string t, .agg #[.int .i64 0, .int .i64 0]]) ∧ Below W.heap.size W w' := fun W X hx => by
    have h := decode_any c c X ⟨(senc c 0 zs).1.toArray⟩ W h0 h1 (by have := senc_len c zs 0; show (senc c 0 zs).1.toArray.size ≤ _; rw [List.size_toArray]; omega) hx
    rw [show (⟨(senc c 0 zs).1.toArray⟩ : ByteArray).data.toList = (senc c 0 zs).1 from rfl, sdec_senc zs 0 hr, ht] at h
    exact h
  generalize (⟨(senc c 0 zs).1.toArray⟩ : ByteArray) = R at *
  have HD := Lib.hid hd
  clear hd
  have n0 : ¬ c < 0 := by omega
  have n1 : ¬ 3 < c := by omega
  have n2 : ¬ (300 : Int) < (t.size : Int) := by omega
  have n3 : decide ((0 : Int) ≤ -1) = false := rfl
  obtain ⟨N, hN⟩ : ∃ N, N = zs.length := ⟨_, rfl⟩
  rw [← hN] at hrp hre2
  have HRP := Lib.hid hrp; have HRE := Lib.hid hre2; have HE := Lib.hid he2
  clear hT he hrp hre hre2 he2 hN
  go_enter Tryd.func9, Tryd.ntmps9
  go_wp2_with (first
    | (go_at_call 27; (with_reducible refine (HOF.out _ HT.out).mono ?_); rintro e1 w1 ⟨X, rfl, hx, hb1⟩; have hst := (fun wx (a : Addr) m => run_store (P := Tryd.prog) (w := wx) (a := a) X m (TE.one hx)); have LL := Lib.hid (Lw.new (c := c) hb1 hx); obtain ⟨_, z0, z1, z2, _⟩ := k2z w1; obtain ⟨⟨_, y0, y1, y2, _⟩, _, _⟩ := LL.out; clear hx hb1)
    | (go_at_call 31; (with_reducible refine (HE.out _ X (HT.out.below LL.out.b) LL.out.t).mono ?_); rintro e3 w3 ⟨rfl, hb3⟩; have hA : Below w3.heap.size w3 (w3.alloc (.cells #[.int .i64 0, .int .i64 0] 30)) := (Below.refl _ _).alloc (Nat.le_refl _) _; have LL := Lib.hid ((LL.out.below hb3).below hA); obtain ⟨_, n30, n31, n32, n33⟩ := pt.f2_new w3 0 0 30; have FF := Lib.hid (pt.f2_new w3 (0) (0) 30); obtain ⟨⟨_, y0, y1, y2, _⟩, _, _⟩ := LL.out; obtain ⟨_, FF0, FF1, FF2, FF3⟩ := FF.out; clear hb3 hA)
    | (go_at_call 33; (with_reducible refine (HRP.out _).mono ?_); rintro e4 w4 ⟨q, d, rfl, hr, hb4⟩; have LL := Lib.hid (LL.out.below hb4); have FF := Lib.hid (FF.out.below hb4 FF.out.lt); have RR := Lib.hid hr; obtain ⟨⟨_, y0, y1, y2, _⟩, _, _⟩ := LL.out; obtain ⟨_, FF0, FF1, _, _⟩ := FF.out; clear hb4 hr)
    | (go_at_call 35; (with_reducible refine (HRE.out _ _ _ RR.out).mono ?_); rintro e5 w5 ⟨rfl, hb5⟩; have LL := Lib.hid (LL.out.below hb5); have FF := Lib.hid (FF.out.below hb5 FF.out.lt); obtain ⟨_, FF0, FF1, _, _⟩ := FF.out; obtain ⟨⟨_, y0, y1, y2, _⟩, _, _⟩ := LL.out; clear hb5)
    | (go_at_call 30; (with_reducible refine (HD.out _ X LL.out.t).mono ?_); rintro e6 w6 ⟨rfl, hb6⟩; have hA : Below w6.heap.size w6 (w6.alloc (.cells #[.int .i64 0, .int .i64 0] 30)) := (Below.refl _ _).alloc (Nat.le_refl _) _; have LL := Lib.hid ((LL.out.below hb6).below hA); have FF := Lib.hid ((FF.out.below hb6 FF.out.lt).below hA (Nat.lt_of_lt_of_le FF.out.lt hb6.size)); have GG := Lib.hid (pt.f2_new w6 0 0 30); obtain ⟨⟨_, y0, y1, y2, _⟩, _, _⟩ := LL.out; obtain ⟨_, GG0, GG1, GG2, GG3⟩ := GG.out; clear hb6 hA)
    | (go_at_call 28; (with_reducible refine (HAW.out _ (HT.out.below LL.out.b)).mono ?_); rintro e7 w7 ⟨rfl, hb7⟩; have LL := Lib.hid (LL.out.below hb7); have FF := Lib.hid (FF.out.below hb7 FF.out.lt); obtain ⟨_, FF0, FF1, _, _⟩ := FF.out; have GG := Lib.hid (GG.out.below hb7 GG.out.lt); obtain ⟨_, GG0, GG1, _, _⟩ := GG.out; obtain ⟨⟨_, y0, y1, y2, _⟩, _, _⟩ := LL.out; clear hb7)
    | (go_at_call 17; (with_reducible refine (HBD.out _).mono ?_); rintro e8 w8 ⟨rfl, hb8⟩; have LL := Lib.hid (LL.out.below hb8); have FF := Lib.hid (FF.out.below hb8 FF.out.lt); obtain ⟨_, FF0, FF1, _, _⟩ := FF.out; have GG := Lib.hid (GG.out.below hb8 GG.out.lt); obtain ⟨_, GG0, GG1, _, _⟩ := GG.out; obtain ⟨⟨_, y0, y1, y2, _⟩, _, _⟩ := LL.out; clear hb8))
  go_ret
  exact ⟨rfl, LL.out.b⟩
theorem writes_all (c : Int) (t : ByteArray) (w : World) (hT : pt.Tabs w) (h0 : 0 ≤ c) (h1 : c ≤ 3) (hb : ¬ 300 < t.size) :
    Calls Tryd.prog 9 #[.int .i64 c, .string t] w fun e w' => e = .returned (.bool true) ∧ Below w.heap.size w w' := by
  cases h : (pt.scan t).2 with
  | some A => exact writes_bad A c t w hT h0 h1 hb h
  | none =>
    have hl := zs_len t h
    cases hr : (senc c 0 (pt.zsOf t)).2 with
    | some a => exact writes_far c t _ w hT h0 h1 hb h rfl (pt.txt_back t h) (pt.zsOf_valid t) (by omega) a hr
    | none => exact writes_near c t _ w hT h0 h1 hb h rfl (pt.txt_back t h) (pt.zsOf_valid t) (by omega) hr
set_option maxRecDepth 100000 in
set_option maxHeartbeats 4000000 in
theorem SingleWrites_walk (c : Int) (t : ByteArray) (w : World) (hT : pt.Tabs w) :
    Calls Tryd.prog 9 #[.int .i64 c, .string t] w fun e w' => e = .returned (.bool true) ∧ Below w.heap.size w w' := by
  have HAW := Lib.hid (fun w2 h2 => awake5_any w2 h2)
  have HBD : Hid (∀ W, Calls Tryd.prog 17 #[.agg #[.int .i64 0, .int .i64 0]] W fun e w' => e = .returned (.bool false) ∧ Below W.heap.size W w') := Lib.hid (fun W => pt.bad_any W 0 0)
  have HT := Lib.hid hT
  by_cases c0 : c < 0
  · have HON := Lib.hid (fun w2 => of_none c w2 (.inl c0))
    clear hT
    go_enter Tryd.func9, Tryd.ntmps9
    go_wp2_with (first | (go_at_call 27; (with_reducible refine (HON.out _).mono ?_); rintro e1 w1 ⟨rfl, hb1⟩; have LL := Lib.hid (Lw.new (X := .slice none 0 0) (c := 0) hb1 (te_nil w1)); obtain ⟨_, z0, z1, z2, _⟩ := k2z w1; obtain ⟨⟨_, y0, y1, y2, _⟩, _, _⟩ := LL.out; clear hb1) | (go_at_call 28; (with_reducible refine (HAW.out _ (HT.out.below LL.out.b)).mono ?_); rintro e9 w9 ⟨rfl, hb9⟩; have LL := Lib.hid (LL.out.below hb9); clear hb9))
    go_ret
    exact ⟨rfl, LL.out.b⟩
  by_cases c3 : 3 < c
  · have HON := Lib.hid (fun w2 => of_none c w2 (.inr c3))
    clear hT
    go_enter Tryd.func9, Tryd.ntmps9
    go_wp2_with (first | (go_at_call 27; (with_reducible refine (HON.out _).mono ?_); rintro e1 w1 ⟨rfl, hb1⟩; have LL := Lib.hid (Lw.new (X := .slice none 0 0) (c := 0) hb1 (te_nil w1)); obtain ⟨_, z0, z1, z2, _⟩ := k2z w1; obtain ⟨⟨_, y0, y1, y2, _⟩, _, _⟩ := LL.out; clear hb1) | (go_at_call 28; (with_reducible refine (HAW.out _ (HT.out.below LL.out.b)).mono ?_); rintro e9 w9 ⟨rfl, hb9⟩; have LL := Lib.hid (LL.out.below hb9); clear hb9))
    go_ret
    exact ⟨rfl, LL.out.b⟩
  have h0 : 0 ≤ c := by omega
  have h1 : c ≤ 3 := by omega
  have HOF := Lib.hid (fun w2 h2 => of_any c w2 h2 h0 h1)
  by_cases b0 : 300 < t.size
  · have b0' : (300 : Int) < (t.size : Int) := by omega
    clear hT
    go_enter Tryd.func9, Tryd.ntmps9
    go_wp2_with (first | (go_at_call 27; (with_reducible refine (HOF.out _ HT.out).mono ?_); rintro e1 w1 ⟨X, rfl, hx, hb1⟩; have hst := (fun wx (a : Addr) m => run_store (P := Tryd.prog) (w := wx) (a := a) X m (TE.one hx)); have LL := Lib.hid (Lw.new (c := c) hb1 hx); obtain ⟨_, z0, z1, z2, _⟩ := k2z w1; obtain ⟨⟨_, y0, y1, y2, _⟩, _, _⟩ := LL.out; clear hx hb1) | (go_at_call 28; (with_reducible refine (HAW.out _ (HT.out.below LL.out.b)).mono ?_); rintro e9 w9 ⟨rfl, hb9⟩; have LL := Lib.hid (LL.out.below hb9); clear hb9))
    go_ret
    exact ⟨rfl, LL.out.b⟩
  exact writes_all c t w hT h0 h1 b0
end Go.Proofs.YtiokdeomdeenbaaDoor.sg
