/- The landed tail: Print: a contract. -/
import Derived.Test.YtidlkkhmmgkicaaTl2
namespace Go.Proofs.Ytidlkkhmmgkicaa.tl
open Go.RowKit Go.Lib
open Go.Proofs.Ytidlkkhmmgkicaa.un (bs bs_list bs_size bs_app bs_back size_list bt bt_lt bt_get index_bt wrap64 data_app drop_at drop_end u0)
open Go.Proofs.Ytidlkkhmmgkicaa.ta Go.Proofs.Ytidlkkhmmgkicaa.ob Go.Proofs.Ytidlkkhmmgkicaa.bk
set_option linter.unusedVariables false
/-- The blocks that Print keeps. -/
structure Pr (w : World) (vs : List Value) (p5 p6 D : Nat) (x6 : List Value) (W : World) : Prop where
  s : Bk W w.heap.size vs
  r : Bk W (w.heap.size + 1) [.int .i64 0, .int .i64 0]
  x : Bk W p5 [.int .i64 30, .int .i64 30, .int .i64 30, .int .i64 4, .int .i64 (D : Int)]
  y : Bk W p6 x6
  b : Below w.heap.size w W
  h5 : w.heap.size + 1 < p5
  h6 : p5 < p6
section
variable {w W W' : World} {vs x6 : List Value} {p5 p6 D : Nat}
theorem Pr.below (h : Pr w vs p5 p6 D x6 W) (hb : Below W.heap.size W W') : Pr w vs p5 p6 D x6 W' :=
  ⟨h.s.below hb, h.r.below hb, h.x.below hb, h.y.below hb, h.b.trans (hb.mono h.b.size), h.h5, h.h6⟩
theorem Pr.alloc (h : Pr w vs p5 p6 D x6 W) (o : Obj) : Pr w vs p5 p6 D x6 (W.alloc o) := h.below ((Below.refl _ _).alloc (Nat.le_refl _) _)
theorem Pr.drew (h : Pr w vs p5 p6 D x6 W) : Pr w vs p5 p6 D x6 W.drew := ⟨h.s.drew, h.r.drew, h.x.drew, h.y.drew, h.b.drew, h.h5, h.h6⟩
theorem Pr.put (h : Pr w vs p5 p6 D x6 W) (k : Nat) (u : Value) (hk : k < x6.length) : Pr w vs p5 p6 D (x6.set k u) (W.setCell ⟨p6, k, none⟩ u) :=
  have h5 := h.h5
  have h6 := h.h6
  ⟨h.s.other _ _ (by show p6 ≠ _; omega), h.r.other _ _ (by show p6 ≠ _; omega), h.x.other _ _ (by show p6 ≠ _; omega), h.y.set k u hk, h.b.setCell (p := ⟨p6, k, none⟩) (by show w.heap.size ≤ p6; omega) _, h5, h6⟩
end
/-- Two texts, joined. -/
theorem join_2 (x y : ByteArray) (W : World) (hx : x.size ≤ 1000) (hy : y.size ≤ 1000) : Calls Try.prog 41 #[.slice (some ⟨W.heap.size, 0, none⟩) 2 2] (W.alloc (.cells #[.string x, .string y] 9)) fun e w' => e = .returned (.string (bs (x.data.toList ++ y.data.toList))) ∧ Below (W.alloc (.cells #[.string x, .string y] 9)).heap.size (W.alloc (.cells #[.string x, .string y] 9)) w' := by
  have h := join_any W.heap.size 0 2 [x, y] (W.alloc (.cells #[.string x, .string y] 9)) (fun j u hj => by
    rw [Nat.zero_add]
    match j, hj with
    | 0, hj => simp at hj; subst hj; rw [World.cell?_alloc_mark]; rfl
    | 1, hj => simp at hj; subst hj; rw [World.cell?_alloc_mark]; rfl
    | (j + 2), hj => simp at hj) (by rw [World.size_alloc]; omega) (by simp) (by simp) (by simp; omega)
  simp only [List.map_cons, List.map_nil, List.flatten_cons, List.flatten_nil, List.append_nil] at h
  exact h
theorem join_4 (x y z t : ByteArray) (W : World) (hx : x.size ≤ 1000) (hy : y.size ≤ 1000) (hz : z.size ≤ 1000) (ht : t.size ≤ 1000) : Calls Try.prog 41 #[.slice (some ⟨W.heap.size, 0, none⟩) 4 4] (W.alloc (.cells #[.string x, .string y, .string z, .string t] 9)) fun e w' => e = .returned (.string (bs (x.data.toList ++ (y.data.toList ++ (z.data.toList ++ t.data.toList))))) ∧ Below (W.alloc (.cells #[.string x, .string y, .string z, .string t] 9)).heap.size (W.alloc (.cells #[.string x, .string y, .string z, .string t] 9)) w' := by
  have h := join_any W.heap.size 0 4 [x, y, z, t] (W.alloc (.cells #[.string x, .string y, .string z, .string t] 9)) (fun j u hj => by
    rw [Nat.zero_add]
    match j, hj with
    | 0, hj => simp at hj; subst hj; rw [World.cell?_alloc_mark]; rfl
    | 1, hj => simp at hj; subst hj; rw [World.cell?_alloc_mark]; rfl
    | 2, hj => simp at hj; subst hj; rw [World.cell?_alloc_mark]; rfl
    | 3, hj => simp at hj; subst hj; rw [World.cell?_alloc_mark]; rfl
    | (j + 4), hj => simp at hj) (by rw [World.size_alloc]; omega) (by simp) (by simp) (by simp; omega)
  simp only [List.map_cons, List.map_nil, List.flatten_cons, List.flatten_nil, List.append_nil] at h
  exact h
theorem join_5 (p : Nat) (x0 x1 x2 x3 x4 : ByteArray) (W : World) (h : Bk W p [.string x0, .string x1, .string x2, .string x3, .string x4]) (h0 : x0.size ≤ 1000) (h1 : x1.size ≤ 1000) (h2 : x2.size ≤ 1000) (h3 : x3.size ≤ 1000) (h4 : x4.size ≤ 1000) : Calls Try.prog 41 #[.slice (some ⟨p, 0, none⟩) 5 5] W fun e w' => e = .returned (.string (bs (x0.data.toList ++ (x1.data.toList ++ (x2.data.toList ++ (x3.data.toList ++ x4.data.toList)))))) ∧ Below W.heap.size W w' := by
  have h := join_any p 0 5 [x0, x1, x2, x3, x4] W (fun j u hj => by
    rw [Nat.zero_add]
    match j, hj with
    | 0, hj => simp at hj; subst hj; exact h.c 0 _ rfl
    | 1, hj => simp at hj; subst hj; exact h.c 1 _ rfl
    | 2, hj => simp at hj; subst hj; exact h.c 2 _ rfl
    | 3, hj => simp at hj; subst hj; exact h.c 3 _ rfl
    | 4, hj => simp at hj; subst hj; exact h.c 4 _ rfl
    | (j + 5), hj => simp at hj) h.lt (by simp) (by simp) (by simp; omega)
  simp only [List.map_cons, List.map_nil, List.flatten_cons, List.flatten_nil, List.append_nil] at h
  exact h
theorem bad_gen (W : World) (c a : Int) (b : Bool) (h : (c != 0) = b) : Calls Try.prog 26 #[.agg #[.int .i64 c, .int .i64 a]] W fun e w' => e = .returned (.bool b) ∧ Below W.heap.size W w' := by rw [← h]; exact bad_any W c a
set_option maxRecDepth 100000 in
set_option maxHeartbeats 4000000 in
theorem print_bad (a b c d e : ByteArray) (tr g : Nat) (w : World) (ht : tr < 256) (hg : g < 256) (ha : a.size ≤ maxLen) (hb : b.size ≤ maxLen) (hc : c.size ≤ maxLen) (hd : d.size ≤ maxLen) (he : e.size ≤ maxLen) (hbad : ¬ (chk tr 0 [a, b, c, d, e]).1 = 0) : Calls Try.prog 22 #[tlV a b c d e tr g] w fun r w' => r = .returned (.tuple #[.string ⟨#[]⟩, ftV (chk tr 0 [a, b, c, d, e])]) ∧ Below w.heap.size w w' := by
  have HCK := Lib.hid (fun W => check_any a b c d e tr g W ht ha hb hc hd he)
  unfold tlV at *
  unfold ftV at *
  obtain ⟨q, hq⟩ : ∃ q : Int, q = ((chk tr 0 [a, b, c, d, e]).1 : Int) := ⟨_, rfl⟩
  obtain ⟨at', hat⟩ : ∃ q : Int, q = ((chk tr 0 [a, b, c, d, e]).2 : Int) := ⟨_, rfl⟩
  have HBD := Lib.hid (fun W => bad_gen W q at' true (by rw [bne_iff_ne]; omega))
  rw [← hq, ← hat] at HCK ⊢
  clear hq hat hbad ha hb hc hd he
  go_enter Try.func22, Try.ntmps22
  go_wp2_with (first
    | (go_at_call 24; refine (HCK.out _).mono ?_; rintro e1 w1 ⟨rfl, hb1⟩; have S1 := Lib.hid ((((Bk.new w 31 [.string a, .string b, .string c, .string d, .string e, .int .u8 (tr : Int), .int .u8 (g : Int)]).alloc (.cells #[.int .i64 0, .int .i64 0] 43)).below hb1).alloc (.cells #[.int .i64 q, .int .i64 at'] 43)); have R1 : Hid (Bk (w1.alloc (.cells #[.int .i64 q, .int .i64 at'] 43)) (w.heap.size + 1) [.int .i64 0, .int .i64 0]) := Lib.hid (by have X := Bk.new (w.alloc (.cells #[.string a, .string b, .string c, .string d, .string e, .int .u8 (tr : Int), .int .u8 (g : Int)] 31)) 43 [.int .i64 0, .int .i64 0]; rw [World.size_alloc] at X; exact (X.below hb1).alloc _); have G1 : Hid (w.heap.size + 1 < w1.heap.size) := Lib.hid (by have X := hb1.size; rw [World.size_alloc, World.size_alloc] at X; omega); have B1 : Hid (Below w.heap.size w (w1.alloc (.cells #[.int .i64 q, .int .i64 at'] 43))) := Lib.hid (((((Below.refl _ _).alloc (Nat.le_refl _) _).alloc (by rw [World.size_alloc]; omega) _).trans (hb1.mono (by rw [World.size_alloc, World.size_alloc]; omega))).alloc (by have X := G1.out; omega) _); have F1 := Lib.hid (Bk.new w1 43 [.int .i64 q, .int .i64 at']); clear hb1 HCK)
    | (go_at_call 26; refine (HBD.out _).mono ?_; rintro e2 w2 ⟨rfl, hb2⟩; have S2 := Lib.hid (S1.out.below hb2); have R2 := Lib.hid (R1.out.below hb2); have F2 := Lib.hid (F1.out.below hb2); have B2 := Lib.hid (B1.out.trans (hb2.mono B1.out.size)); have G2 : Hid (w1.heap.size < w2.heap.size) := Lib.hid F2.out.lt; have y0 := S2.out.c 0 _ rfl; have y1 := S2.out.c 1 _ rfl; have y2 := S2.out.c 2 _ rfl; have y3 := S2.out.c 3 _ rfl; have y4 := S2.out.c 4 _ rfl; have y5 := S2.out.c 5 _ rfl; have y6 := S2.out.c 6 _ rfl; have f0 := F2.out.c 0 _ rfl; have f1 := F2.out.c 1 _ rfl; have r0 := R2.out.c 0 _ rfl; have r1 := R2.out.c 1 _ rfl; have rf := R2.out.f; clear hb2 S1 R1 F1 B1 HBD))
  go_region
  go_wp2_with fail
  refine bodyPost_ret (v := .tuple #[.string ⟨#[]⟩, .agg #[.int .i64 q, .int .i64 at']]) (by simp [results, Try.results22, go_sem, r0, r1]) rfl ⟨rfl, ?_⟩
  exact ((B2.out.setCell (p := ⟨w.heap.size + 1, 0, none⟩) (Nat.le_succ _) _).setCell (p := ⟨w.heap.size + 1, 1, none⟩) (Nat.le_succ _) _).drew
set_option maxRecDepth 100000 in
set_option maxHeartbeats 8000000 in
theorem print_good (a b c d e : ByteArray) (tr g : Nat) (w : World) (ht : tr < 256) (hg : g < 256) (ha : a.size ≤ maxLen) (hb : b.size ≤ maxLen) (hc : c.size ≤ maxLen) (hd : d.size ≤ maxLen) (he : e.size ≤ maxLen) (hok : (chk tr 0 [a, b, c, d, e]).1 = 0) : Calls Try.prog 22 #[tlV a b c d e tr g] w fun r w' => r = .returned (.tuple #[.string (bs (prA tr g [a, b, c, d, e])), ftV (chk tr 0 [a, b, c, d, e])]) ∧ Below w.heap.size w w' := by
  have HCK := Lib.hid (fun W => check_any a b c d e tr g W ht ha hb hc hd he)
  have HRM := Lib.hid (fun W => room_any a b c d e tr g W ht)
  have HTX := Lib.hid (fun W => texts_any a b c d e W)
  have HTK := Lib.hid (fun W => track_any a b c d e tr g W ht)
  have H := ok_of tr a b c d e hok
  have hat0 : (chk tr 0 [a, b, c, d, e]) = (0, 0) := by
    have h1 := H.a1; have h2 := H.b1; have h3 := H.c1; have h4 := H.d1; have h5 := H.e1
    simp only [chk]
    rw [if_neg (by simpa using H.a0), if_neg (by show ¬ 30 < _; omega), if_neg (by simpa using H.b0), if_neg (by show ¬ 30 < _; omega), if_neg (by simpa using H.c0), if_neg (by show ¬ 30 < _; omega), if_neg (by simpa using H.d0), if_neg (by show ¬ 4 < _; omega), if_neg (by simpa using H.e0), if_neg (by show ¬ wd 4 tr < _; omega)]
  unfold tlV at *
  unfold ftV at *
  rw [hat0] at HCK ⊢
  obtain ⟨q, hq⟩ : ∃ q : Int, q = 0 := ⟨_, rfl⟩
  obtain ⟨at', hat⟩ : ∃ q : Int, q = 0 := ⟨_, rfl⟩
  have HBD := Lib.hid (fun W => bad_gen W q at' false (by rw [hq]; rfl))
  change Hid (∀ W : World, Calls _ _ _ W fun r w' => r = .returned (.agg #[.int .i64 0, .int .i64 0]) ∧ _) at HCK
  change Calls _ _ _ _ fun r w' => r = .returned (.tuple #[.string _, .agg #[.int .i64 0, .int .i64 0]]) ∧ _
  have HCK : Hid (∀ W : World, Calls Try.prog 24 #[.agg #[.string a, .string b, .string c, .string d, .string e, .int .u8 (tr : Int), .int .u8 (g : Int)]] W fun r w' => r = .returned (.agg #[.int .i64 q, .int .i64 at']) ∧ Below W.heap.size W w') := Lib.hid (by rw [hq, hat]; exact HCK.out)
  obtain ⟨D, hD⟩ : ∃ D, D = wd 4 tr := ⟨_, rfl⟩
  have hD30 : D ≤ 30 := by rw [hD]; exact wd_le 4 tr
  have ha9 := H.a1; have hb9 := H.b1; have hc9 := H.c1; have hd9 := H.d1; have he9 := H.e1
  have hprA := prA_eq tr g a b c d e
  rw [← hD] at HRM he9 hprA
  obtain ⟨P0, hP0⟩ : ∃ P, P = bs (pad 30 a) := ⟨_, rfl⟩
  have hs0 : P0.size = 30 := by rw [hP0, bs_size]; exact pad_len 30 a ha9
  have w0 : IntKind.i64.wrap (30 - (a.size : Int)) = ((30 - a.size : Nat) : Int) := by rw [wrap64 (by omega) (by omega)]; omega
  have HZ0 := Lib.hid (fun W => repeat_any (30 - a.size) W (by omega))
  have HJ0 : Hid (∀ W : World, Calls Try.prog 41 #[.slice (some ⟨W.heap.size, 0, none⟩) 2 2] (W.alloc (.cells #[.string a, .string (bs (List.replicate (30 - a.size) 0))] 9)) fun r w' => r = .returned (.string P0) ∧ Below (W.alloc (.cells #[.string a, .string (bs (List.replicate (30 - a.size) 0))] 9)).heap.size (W.alloc (.cells #[.string a, .string (bs (List.replicate (30 - a.size) 0))] 9)) w') := Lib.hid (fun W => by
    have h := join_2 a (bs (List.replicate (30 - a.size) 0)) W (by omega) (by rw [bs_size]; simp; omega)
    rw [bs_list, show a.data.toList ++ List.replicate (30 - a.size) 0 = pad 30 a from rfl, ← hP0] at h
    exact h)
  generalize bs (List.replicate (30 - a.size) 0) = Z0 at *
  generalize ((30 - a.size : Nat) : Int) = N0 at *
  obtain ⟨P1, hP1⟩ : ∃ P, P = bs (pad 30 b) := ⟨_, rfl⟩
  have hs1 : P1.size = 30 := by rw [hP1, bs_size]; exact pad_len 30 b hb9
  have w1 : IntKind.i64.wrap (30 - (b.size : Int)) = ((30 - b.size : Nat) : Int) := by rw [wrap64 (by omega) (by omega)]; omega
  have HZ1 := Lib.hid (fun W => repeat_any (30 - b.size) W (by omega))
  have HJ1 : Hid (∀ W : World, Calls Try.prog 41 #[.slice (some ⟨W.heap.size, 0, none⟩) 2 2] (W.alloc (.cells #[.string b, .string (bs (List.replicate (30 - b.size) 0))] 9)) fun r w' => r = .returned (.string P1) ∧ Below (W.alloc (.cells #[.string b, .string (bs (List.replicate (30 - b.size) 0))] 9)).heap.size (W.alloc (.cells #[.string b, .string (bs (List.replicate (30 - b.size) 0))] 9)) w') := Lib.hid (fun W => by
    have h := join_2 b (bs (List.replicate (30 - b.size) 0)) W (by omega) (by rw [bs_size]; simp; omega)
    rw [bs_list, show b.data.toList ++ List.replicate (30 - b.size) 0 = pad 30 b from rfl, ← hP1] at h
    exact h)
  generalize bs (List.replicate (30 - b.size) 0) = Z1 at *
  generalize ((30 - b.size : Nat) : Int) = N1 at *
  obtain ⟨P2, hP2⟩ : ∃ P, P = bs (pad 30 c) := ⟨_, rfl⟩
  have hs2 : P2.size = 30 := by rw [hP2, bs_size]; exact pad_len 30 c hc9
  have w2 : IntKind.i64.wrap (30 - (c.size : Int)) = ((30 - c.size : Nat) : Int) := by rw [wrap64 (by omega) (by omega)]; omega
  have HZ2 := Lib.hid (fun W => repeat_any (30 - c.size) W (by omega))
  have HJ2 : Hid (∀ W : World, Calls Try.prog 41 #[.slice (some ⟨W.heap.size, 0, none⟩) 2 2] (W.alloc (.cells #[.string c, .string (bs (List.replicate (30 - c.size) 0))] 9)) fun r w' => r = .returned (.string P2) ∧ Below (W.alloc (.cells #[.string c, .string (bs (List.replicate (30 - c.size) 0))] 9)).heap.size (W.alloc (.cells #[.string c, .string (bs (List.replicate (30 - c.size) 0))] 9)) w') := Lib.hid (fun W => by
    have h := join_2 c (bs (List.replicate (30 - c.size) 0)) W (by omega) (by rw [bs_size]; simp; omega)
    rw [bs_list, show c.data.toList ++ List.replicate (30 - c.size) 0 = pad 30 c from rfl, ← hP2] at h
    exact h)
  generalize bs (List.replicate (30 - c.size) 0) = Z2 at *
  generalize ((30 - c.size : Nat) : Int) = N2 at *
  obtain ⟨P3, hP3⟩ : ∃ P, P = bs (pad 4 d) := ⟨_, rfl⟩
  have hs3 : P3.size = 4 := by rw [hP3, bs_size]; exact pad_len 4 d hd9
  have w3 : IntKind.i64.wrap (4 - (d.size : Int)) = ((4 - d.size : Nat) : Int) := by rw [wrap64 (by omega) (by omega)]; omega
  have HZ3 := Lib.hid (fun W => repeat_any (4 - d.size) W (by omega))
  have HJ3 : Hid (∀ W : World, Calls Try.prog 41 #[.slice (some ⟨W.heap.size, 0, none⟩) 2 2] (W.alloc (.cells #[.string d, .string (bs (List.replicate (4 - d.size) 0))] 9)) fun r w' => r = .returned (.string P3) ∧ Below (W.alloc (.cells #[.string d, .string (bs (List.replicate (4 - d.size) 0))] 9)).heap.size (W.alloc (.cells #[.string d, .string (bs (List.replicate (4 - d.size) 0))] 9)) w') := Lib.hid (fun W => by
    have h := join_2 d (bs (List.replicate (4 - d.size) 0)) W (by omega) (by rw [bs_size]; simp; omega)
    rw [bs_list, show d.data.toList ++ List.replicate (4 - d.size) 0 = pad 4 d from rfl, ← hP3] at h
    exact h)
  generalize bs (List.replicate (4 - d.size) 0) = Z3 at *
  generalize ((4 - d.size : Nat) : Int) = N3 at *
  obtain ⟨P4, hP4⟩ : ∃ P, P = bs (pad D e) := ⟨_, rfl⟩
  have hs4 : P4.size = D := by rw [hP4, bs_size]; exact pad_len D e he9
  have w4 : IntKind.i64.wrap ((D : Int) - (e.size : Int)) = ((D - e.size : Nat) : Int) := by rw [wrap64 (by omega) (by omega)]; omega
  have HZ4 := Lib.hid (fun W => repeat_any (D - e.size) W (by omega))
  have HJe : Hid (∀ W : World, Calls Try.prog 41 #[.slice (some ⟨W.heap.size, 0, none⟩) 2 2] (W.alloc (.cells #[.string e, .string (bs (List.replicate (D - e.size) 0))] 9)) fun r w' => r = .returned (.string P4) ∧ Below (W.alloc (.cells #[.string e, .string (bs (List.replicate (D - e.size) 0))] 9)).heap.size (W.alloc (.cells #[.string e, .string (bs (List.replicate (D - e.size) 0))] 9)) w') := Lib.hid (fun W => by
    have h := join_2 e (bs (List.replicate (D - e.size) 0)) W (by omega) (by rw [bs_size]; simp; omega)
    rw [bs_list, show e.data.toList ++ List.replicate (D - e.size) 0 = pad D e from rfl, ← hP4] at h
    exact h)
  generalize bs (List.replicate (D - e.size) 0) = Z4 at *
  generalize ((D - e.size : Nat) : Int) = N4 at *
  have HBG := Lib.hid (fun W => oct.big_any g 1 1 W (by omega) (by omega) rfl (by omega))
  have e9 : (⟨(oct.bigL 256 1 g).toArray⟩ : ByteArray) = bs [UInt8.ofNat g] := by
    show bs (oct.bigL 256 1 g) = _
    rw [show oct.bigL 256 1 g = [UInt8.ofNat (g % 256)] by simp [oct.bigL], show g % 256 = g by omega]
  rw [e9] at HBG
  have u1 : IntKind.u64.wrap (g : Int) = (g : Int) := by simp [IntKind.wrap, IntKind.bits, IntKind.signed]; omega
  obtain ⟨K2, hK2⟩ : ∃ K2, K2 = bs (trk tr) := ⟨_, rfl⟩
  obtain ⟨K3, hK3⟩ : ∃ K3, K3 = bs [UInt8.ofNat g] := ⟨_, rfl⟩
  obtain ⟨K1, hK1⟩ : ∃ K1, K1 = bs (P0.data.toList ++ (P1.data.toList ++ (P2.data.toList ++ (P3.data.toList ++ P4.data.toList)))) := ⟨_, rfl⟩
  have HJ5 : Hid (∀ (W : World) (p : Nat), Bk W p [.string P0, .string P1, .string P2, .string P3, .string P4] → Calls Try.prog 41 #[.slice (some ⟨p, 0, none⟩) 5 5] W fun r w' => r = .returned (.string K1) ∧ Below W.heap.size W w') := Lib.hid (fun W p h => by rw [hK1]; exact join_5 p P0 P1 P2 P3 P4 W h (by omega) (by omega) (by omega) (by omega) (by omega))
  obtain ⟨O, hO⟩ : ∃ O, O = bs (prA tr g [a, b, c, d, e]) := ⟨_, rfl⟩
  have hK1s : K1.size ≤ 1000 := by rw [hK1, bs_size]; simp; omega
  have hK2s : K2.size ≤ 1000 := by rw [hK2, bs_size, trk_len]; omega
  have hK3s : K3.size ≤ 1000 := by rw [hK3, bs_size]; simp
  have HJ4 : Hid (∀ W : World, Calls Try.prog 41 #[.slice (some ⟨W.heap.size, 0, none⟩) 4 4] (W.alloc (.cells #[.string ⟨#[84, 65, 71]⟩, .string K1, .string K2, .string K3] 9)) fun r w' => r = .returned (.string O) ∧ Below (W.alloc (.cells #[.string ⟨#[84, 65, 71]⟩, .string K1, .string K2, .string K3] 9)).heap.size (W.alloc (.cells #[.string ⟨#[84, 65, 71]⟩, .string K1, .string K2, .string K3] 9)) w') := Lib.hid (fun W => by
    have h := join_4 ⟨#[84, 65, 71]⟩ K1 K2 K3 W (by decide) hK1s hK2s hK3s
    have he : bs ((⟨#[84, 65, 71]⟩ : ByteArray).data.toList ++ (K1.data.toList ++ (K2.data.toList ++ K3.data.toList))) = O := by
      rw [hO, hprA, hK1, hK2, hK3, bs_list, bs_list, bs_list, hP0, hP1, hP2, hP3, hP4, bs_list, bs_list, bs_list, bs_list, bs_list]
      unfold beh trk
      simp only [List.append_assoc]
    rw [he] at h
    exact h)
  rw [← hO]
  rw [← hK2] at HTK
  rw [← hK3] at HBG
  clear hq hat hat0 hok H ha hb hc hd he hprA hO hK1s hK2s hK3s hK1 hK2 hK3 e9 hP0 hP1 hP2 hP3 hP4 hD ht hg hs0 hs1 hs2 hs3 hs4
  generalize (tr : Int) = trI at *
  generalize (g : Int) = gI at *
  go_enter Try.func22, Try.ntmps22
  go_wp2_with (first
    | (go_at_call 24; refine (HCK.out _).mono ?_; rintro e1 w1 ⟨rfl, hb1⟩; have S1 := Lib.hid ((((Bk.new w 31 [.string a, .string b, .string c, .string d, .string e, .int .u8 trI, .int .u8 gI]).alloc (.cells #[.int .i64 0, .int .i64 0] 43)).below hb1).alloc (.cells #[.int .i64 q, .int .i64 at'] 43)); have R1 : Hid (Bk (w1.alloc (.cells #[.int .i64 q, .int .i64 at'] 43)) (w.heap.size + 1) [.int .i64 0, .int .i64 0]) := Lib.hid (by have X := Bk.new (w.alloc (.cells #[.string a, .string b, .string c, .string d, .string e, .int .u8 trI, .int .u8 gI] 31)) 43 [.int .i64 0, .int .i64 0]; rw [World.size_alloc] at X; exact (X.below hb1).alloc _); have G1 : Hid (w.heap.size + 1 < w1.heap.size) := Lib.hid (by have X := hb1.size; rw [World.size_alloc, World.size_alloc] at X; omega); have B1 : Hid (Below w.heap.size w (w1.alloc (.cells #[.int .i64 q, .int .i64 at'] 43))) := Lib.hid (((((Below.refl _ _).alloc (Nat.le_refl _) _).alloc (by rw [World.size_alloc]; omega) _).trans (hb1.mono (by rw [World.size_alloc, World.size_alloc]; omega))).alloc (by have X := G1.out; omega) _); have F1 := Lib.hid (Bk.new w1 43 [.int .i64 q, .int .i64 at']); clear hb1 HCK)
    | (go_at_call 26; refine (HBD.out _).mono ?_; rintro e2 w2 ⟨rfl, hb2⟩; have S2 := Lib.hid (S1.out.below hb2); have R2 := Lib.hid (R1.out.below hb2); have F2 := Lib.hid (F1.out.below hb2); have B2 := Lib.hid (B1.out.trans (hb2.mono B1.out.size)); have G2 : Hid (w1.heap.size < w2.heap.size) := Lib.hid F2.out.lt; have y0 := S2.out.c 0 _ rfl; have y1 := S2.out.c 1 _ rfl; have y2 := S2.out.c 2 _ rfl; have y3 := S2.out.c 3 _ rfl; have y4 := S2.out.c 4 _ rfl; have y5 := S2.out.c 5 _ rfl; have y6 := S2.out.c 6 _ rfl; have f0 := F2.out.c 0 _ rfl; have f1 := F2.out.c 1 _ rfl; have r0 := R2.out.c 0 _ rfl; have r1 := R2.out.c 1 _ rfl; have rf := R2.out.f; clear hb2 S1 R1 F1 B1 HBD)
    | (go_at_call 39; refine (HRM.out _).mono ?_; rintro e3 w3 ⟨rfl, hb3⟩; have S3 := Lib.hid ((S2.out.below hb3).alloc (.cells #[.int .i64 30, .int .i64 30, .int .i64 30, .int .i64 4, .int .i64 (D : Int)] 55)); have R3 := Lib.hid ((R2.out.below hb3).alloc (.cells #[.int .i64 30, .int .i64 30, .int .i64 30, .int .i64 4, .int .i64 (D : Int)] 55)); have X3 := Lib.hid (Bk.new w3 55 [.int .i64 30, .int .i64 30, .int .i64 30, .int .i64 4, .int .i64 (D : Int)]); have G3 : Hid (w.heap.size + 1 < w3.heap.size) := Lib.hid (by have X := hb3.size; have Y := G2.out; have Z := G1.out; omega); have B3 : Hid (Below w.heap.size w (w3.alloc (.cells #[.int .i64 30, .int .i64 30, .int .i64 30, .int .i64 4, .int .i64 (D : Int)] 55))) := Lib.hid ((B2.out.trans (hb3.mono B2.out.size)).alloc (by have X := G3.out; omega) _); clear y0 y1 y2 y3 y4 y5 y6 f0 f1 r0 r1 rf; have y0 := S3.out.c 0 _ rfl; have y1 := S3.out.c 1 _ rfl; have y2 := S3.out.c 2 _ rfl; have y3 := S3.out.c 3 _ rfl; have y4 := S3.out.c 4 _ rfl; clear hb3 HRM S2 R2 F2 B2)
    | (go_at_call 40; refine (HTX.out _).mono ?_; rintro e4 w4 ⟨rfl, hb4⟩; have Q0 : Hid (Pr w [.string a, .string b, .string c, .string d, .string e, .int .u8 trI, .int .u8 gI] w3.heap.size w4.heap.size D [.string a, .string b, .string c, .string d, .string e] (w4.alloc (.cells #[.string a, .string b, .string c, .string d, .string e] 34))) := Lib.hid ⟨(S3.out.below hb4).alloc _, (R3.out.below hb4).alloc _, (X3.out.below hb4).alloc _, Bk.new w4 34 [.string a, .string b, .string c, .string d, .string e], (B3.out.trans (hb4.mono B3.out.size)).alloc (by have X := hb4.size; have Y := B3.out.size; omega) _, G3.out, by have X := hb4.size; rw [World.size_alloc] at X; omega⟩; clear y0 y1 y2 y3 y4 hb4 S3 R3 X3 B3 HTX; have y0 := Q0.out.y.c 0 _ rfl; have y1 := Q0.out.y.c 1 _ rfl; have y2 := Q0.out.y.c 2 _ rfl; have y3 := Q0.out.y.c 3 _ rfl; have y4 := Q0.out.y.c 4 _ rfl))
  go_loopw [20] (fun i wr => (i = .int .i64 0 ∧ Hid (Pr w [.string a, .string b, .string c, .string d, .string e, .int .u8 trI, .int .u8 gI] w3.heap.size w4.heap.size D [.string a, .string b, .string c, .string d, .string e] wr)) ∨ (i = .int .i64 1 ∧ Hid (Pr w [.string a, .string b, .string c, .string d, .string e, .int .u8 trI, .int .u8 gI] w3.heap.size w4.heap.size D [.string P0, .string b, .string c, .string d, .string e] wr)) ∨ (i = .int .i64 2 ∧ Hid (Pr w [.string a, .string b, .string c, .string d, .string e, .int .u8 trI, .int .u8 gI] w3.heap.size w4.heap.size D [.string P0, .string P1, .string c, .string d, .string e] wr)) ∨ (i = .int .i64 3 ∧ Hid (Pr w [.string a, .string b, .string c, .string d, .string e, .int .u8 trI, .int .u8 gI] w3.heap.size w4.heap.size D [.string P0, .string P1, .string P2, .string d, .string e] wr)) ∨ (i = .int .i64 4 ∧ Hid (Pr w [.string a, .string b, .string c, .string d, .string e, .int .u8 trI, .int .u8 gI] w3.heap.size w4.heap.size D [.string P0, .string P1, .string P2, .string P3, .string e] wr)) ∨ (i = .int .i64 5 ∧ Hid (Pr w [.string a, .string b, .string c, .string d, .string e, .int .u8 trI, .int .u8 gI] w3.heap.size w4.heap.size D [.string P0, .string P1, .string P2, .string P3, .string P4] wr))) (fun i _ => 5 - (RowKit.intOf i).toNat)
  case atStart => exact .inl ⟨rfl, Q0⟩
  case round =>
    clear Q0 y0 y1 y2 y3 y4
    rcases hrel with ⟨rfl, Q⟩ | ⟨rfl, Q⟩ | ⟨rfl, Q⟩ | ⟨rfl, Q⟩ | ⟨rfl, Q⟩ | ⟨rfl, Q⟩
    · have xj := Q.out.x.c 0 _ rfl
      have xi := fun wx => ix5_0 a b c d e wx
      have gw := Q.out.b.size
      go_wp2_with (first
        | (go_at_call 42; refine (HZ0.out _).mono ?_; rintro e5 w5 ⟨rfl, hb5⟩; have Q1 := Lib.hid (Q.out.below hb5); clear hb5)
        | (go_at_call 41; refine (HJ0.out _).mono ?_; rintro e6 w6 ⟨rfl, hb6⟩; have Q2 := Lib.hid ((Q1.out.alloc _).below hb6); have yj := Q2.out.y.c 0 _ rfl; have yf := Q2.out.y.f 0; clear hb6))
      go_roundw
      case rel => exact .inr (.inl ⟨rfl, Lib.hid (Q2.out.put 0 _ (by simp))⟩)
      case measure => simp [RowKit.intOf]
    · have xj := Q.out.x.c 1 _ rfl
      have xi := fun wx => ix5_1 a b c d e wx
      have gw := Q.out.b.size
      go_wp2_with (first
        | (go_at_call 42; refine (HZ1.out _).mono ?_; rintro e5 w5 ⟨rfl, hb5⟩; have Q1 := Lib.hid (Q.out.below hb5); clear hb5)
        | (go_at_call 41; refine (HJ1.out _).mono ?_; rintro e6 w6 ⟨rfl, hb6⟩; have Q2 := Lib.hid ((Q1.out.alloc _).below hb6); have yj := Q2.out.y.c 1 _ rfl; have yf := Q2.out.y.f 1; clear hb6))
      go_roundw
      case rel => exact .inr (.inr (.inl ⟨rfl, Lib.hid (Q2.out.put 1 _ (by simp))⟩))
      case measure => simp [RowKit.intOf]
    · have xj := Q.out.x.c 2 _ rfl
      have xi := fun wx => ix5_2 a b c d e wx
      have gw := Q.out.b.size
      go_wp2_with (first
        | (go_at_call 42; refine (HZ2.out _).mono ?_; rintro e5 w5 ⟨rfl, hb5⟩; have Q1 := Lib.hid (Q.out.below hb5); clear hb5)
        | (go_at_call 41; refine (HJ2.out _).mono ?_; rintro e6 w6 ⟨rfl, hb6⟩; have Q2 := Lib.hid ((Q1.out.alloc _).below hb6); have yj := Q2.out.y.c 2 _ rfl; have yf := Q2.out.y.f 2; clear hb6))
      go_roundw
      case rel => exact .inr (.inr (.inr (.inl ⟨rfl, Lib.hid (Q2.out.put 2 _ (by simp))⟩)))
      case measure => simp [RowKit.intOf]
    · have xj := Q.out.x.c 3 _ rfl
      have xi := fun wx => ix5_3 a b c d e wx
      have gw := Q.out.b.size
      go_wp2_with (first
        | (go_at_call 42; refine (HZ3.out _).mono ?_; rintro e5 w5 ⟨rfl, hb5⟩; have Q1 := Lib.hid (Q.out.below hb5); clear hb5)
        | (go_at_call 41; refine (HJ3.out _).mono ?_; rintro e6 w6 ⟨rfl, hb6⟩; have Q2 := Lib.hid ((Q1.out.alloc _).below hb6); have yj := Q2.out.y.c 3 _ rfl; have yf := Q2.out.y.f 3; clear hb6))
      go_roundw
      case rel => exact .inr (.inr (.inr (.inr (.inl ⟨rfl, Lib.hid (Q2.out.put 3 _ (by simp))⟩))))
      case measure => simp [RowKit.intOf]
    · have xj := Q.out.x.c 4 _ rfl
      have xi := fun wx => ix5_4 a b c d e wx
      have gw := Q.out.b.size
      go_wp2_with (first
        | (go_at_call 42; refine (HZ4.out _).mono ?_; rintro e5 w5 ⟨rfl, hb5⟩; have Q1 := Lib.hid (Q.out.below hb5); clear hb5)
        | (go_at_call 41; refine (HJe.out _).mono ?_; rintro e6 w6 ⟨rfl, hb6⟩; have Q2 := Lib.hid ((Q1.out.alloc _).below hb6); have yj := Q2.out.y.c 4 _ rfl; have yf := Q2.out.y.f 4; clear hb6))
      go_roundw
      case rel => exact .inr (.inr (.inr (.inr (.inr (⟨rfl, Lib.hid (Q2.out.put 4 _ (by simp))⟩)))))
      case measure => simp [RowKit.intOf]
    · have y0 := Q.out.s.c 0 _ rfl
      have y1 := Q.out.s.c 1 _ rfl
      have y2 := Q.out.s.c 2 _ rfl
      have y3 := Q.out.s.c 3 _ rfl
      have y4 := Q.out.s.c 4 _ rfl
      have y5 := Q.out.s.c 5 _ rfl
      have y6 := Q.out.s.c 6 _ rfl
      go_wp2_with fail
      have Q0 := Lib.hid Q.out.drew
      refine wp_region_held_drew (S := (fun W => W.cell? ⟨w.heap.size, 0, none⟩ = some (.string a) ∧ W.cell? ⟨w.heap.size, 1, none⟩ = some (.string b) ∧ W.cell? ⟨w.heap.size, 2, none⟩ = some (.string c) ∧ W.cell? ⟨w.heap.size, 3, none⟩ = some (.string d) ∧ W.cell? ⟨w.heap.size, 4, none⟩ = some (.string e) ∧ W.cell? ⟨w.heap.size, 5, none⟩ = some (.int .u8 trI) ∧ W.cell? ⟨w.heap.size, 6, none⟩ = some (.int .u8 gI))) (by kernel_rfl) ?_ (fun hHeld => ?_)
      · exact ⟨y0, y1, y2, y3, y4, y5, y6⟩
      (refine wpAnyH_take (i := 0) (oi := ⟨_, _, _, _, _, _⟩) (v := ?_) rfl (by kernel_rfl) (by kernel_rfl) (by kernel_rfl) (fun _ _ _ h => h) (Or.inl ⟨by rfl, ?_⟩) (by assumption) ?_); rotate_left; (focus (intro w hSw; (try dsimp only at hSw); go_simp; (try with_reducible rfl); done)); (try simp only [Act.put, List.setIfInBounds_toArray, List.set_cons_zero, List.set_cons_succ])
      (refine wpAnyH_take (i := 2) (oi := ⟨_, _, _, _, _, _⟩) (v := ?_) rfl (by kernel_rfl) (by kernel_rfl) (by kernel_rfl) (fun _ _ _ h => h) (Or.inl ⟨by rfl, ?_⟩) (by assumption) ?_); rotate_left; (focus (intro w hSw; (try dsimp only at hSw); go_simp; (try with_reducible rfl); done)); (try simp only [Act.put, List.setIfInBounds_toArray, List.set_cons_zero, List.set_cons_succ])
      (refine wpAnyH_take (i := 4) (oi := ⟨_, _, _, _, _, _⟩) (v := ?_) rfl (by kernel_rfl) (by kernel_rfl) (by kernel_rfl) (fun _ _ _ h => h) (Or.inl ⟨by rfl, ?_⟩) (by assumption) ?_); rotate_left; (focus (intro w hSw; (try dsimp only at hSw); go_simp; (try with_reducible rfl); done)); (try simp only [Act.put, List.setIfInBounds_toArray, List.set_cons_zero, List.set_cons_succ])
      (refine wpAnyH_take (i := 5) (oi := ⟨_, _, _, _, _, _⟩) (v := ?_) rfl (by kernel_rfl) (by kernel_rfl) (by kernel_rfl) (fun _ _ _ h => h) (Or.inl ⟨by rfl, ?_⟩) (by assumption) ?_); rotate_left; (focus (intro w hSw; (try dsimp only at hSw); go_simp; (try with_reducible rfl); done)); (try simp only [Act.put, List.setIfInBounds_toArray, List.set_cons_zero, List.set_cons_succ])
      (refine wpAnyH_take (i := 6) (oi := ⟨_, _, _, _, _, _⟩) (v := ?_) rfl (by kernel_rfl) (by kernel_rfl) (by kernel_rfl) (fun _ _ _ h => h) (Or.inl ⟨by rfl, ?_⟩) (by assumption) ?_); rotate_left; (focus (intro w hSw; (try dsimp only at hSw); go_simp; (try with_reducible rfl); done)); (try simp only [Act.put, List.setIfInBounds_toArray, List.set_cons_zero, List.set_cons_succ])
      (refine wpAnyH_take (i := 10) (oi := ⟨_, _, _, _, _, _⟩) (v := ?_) rfl (by kernel_rfl) (by kernel_rfl) (by kernel_rfl) (fun _ _ _ h => h) (Or.inl ⟨by rfl, ?_⟩) (by assumption) ?_); rotate_left; (focus (intro w hSw; (try dsimp only at hSw); go_simp; (try with_reducible rfl); done)); (try simp only [Act.put, List.setIfInBounds_toArray, List.set_cons_zero, List.set_cons_succ])
      refine wpAnyH_ready (rs := [1]) (by kernel_rfl) (by simp) ?_; refine AllReadyH.cons (o := ⟨_, _, _, _, _, _⟩) rfl (fun K hK => ?_) AllReadyH.nil; go_simp
      (go_at_call 41; refine (HJ5.out _ _ Q0.out.y).mono ?_; rintro e6 w6 ⟨rfl, hb6⟩; have Q1 := Lib.hid (Q0.out.below hb6); have y0 := Q1.out.s.c 0 _ rfl; have y1 := Q1.out.s.c 1 _ rfl; have y2 := Q1.out.s.c 2 _ rfl; have y3 := Q1.out.s.c 3 _ rfl; have y4 := Q1.out.s.c 4 _ rfl; have y5 := Q1.out.s.c 5 _ rfl; have y6 := Q1.out.s.c 6 _ rfl; clear hb6)
      (try go_wp2_with fail); refine hK.out _ _ ?_ ?_; (focus ((try dsimp only); (try go_keep); done)); clear hHeld hK K; intro hHeld; (try simp only [Act.put, List.setIfInBounds_toArray, List.set_cons_zero, List.set_cons_succ])
      refine wpAnyH_ready (rs := [3]) (by kernel_rfl) (by simp) ?_; refine AllReadyH.cons (o := ⟨_, _, _, _, _, _⟩) rfl (fun K hK => ?_) AllReadyH.nil; go_simp
      (go_at_call 43; refine (HTK.out _).mono ?_; rintro e7 w7 ⟨rfl, hb7⟩; have Q2 := Lib.hid (Q1.out.below hb7); have y0 := Q2.out.s.c 0 _ rfl; have y1 := Q2.out.s.c 1 _ rfl; have y2 := Q2.out.s.c 2 _ rfl; have y3 := Q2.out.s.c 3 _ rfl; have y4 := Q2.out.s.c 4 _ rfl; have y5 := Q2.out.s.c 5 _ rfl; have y6 := Q2.out.s.c 6 _ rfl; clear hb7)
      (try go_wp2_with fail); refine hK.out _ _ ?_ ?_; (focus ((try dsimp only); (try go_keep); done)); clear hHeld hK K; intro hHeld; (try simp only [Act.put, List.setIfInBounds_toArray, List.set_cons_zero, List.set_cons_succ])
      refine wpAnyH_ready (rs := [7]) (by kernel_rfl) (by simp) ?_; refine AllReadyH.cons (o := ⟨_, _, _, _, _, _⟩) rfl (fun K hK => ?_) AllReadyH.nil; go_simp
      (go_at_call 44; refine (HBG.out _).mono ?_; rintro e8 w8 ⟨rfl, hb8⟩; have Q3 := Lib.hid ((Q2.out.below hb8).alloc (.cells #[.string ⟨#[84, 65, 71]⟩, .string K1, .string K2, .string K3] 9)); have Q3' := Lib.hid (Q2.out.below hb8); have y0 := Q3'.out.s.c 0 _ rfl; have y1 := Q3'.out.s.c 1 _ rfl; have y2 := Q3'.out.s.c 2 _ rfl; have y3 := Q3'.out.s.c 3 _ rfl; have y4 := Q3'.out.s.c 4 _ rfl; have y5 := Q3'.out.s.c 5 _ rfl; have y6 := Q3'.out.s.c 6 _ rfl; clear hb8)
      (try go_wp2_with fail); refine hK.out _ _ ?_ ?_; (focus ((try dsimp only); (try go_keep); done)); clear hHeld hK K; intro hHeld; (try simp only [Act.put, List.setIfInBounds_toArray, List.set_cons_zero, List.set_cons_succ])
      refine wpAnyH_ready (rs := [8]) (by kernel_rfl) (by simp) ?_; refine AllReadyH.cons (o := ⟨_, _, _, _, _, _⟩) rfl (fun K hK => ?_) AllReadyH.nil; go_simp
      (try go_wp2_with fail); refine hK.out _ _ ?_ ?_; (focus ((try dsimp only); (try go_keep); done)); clear hHeld hK K; intro hHeld; (try simp only [Act.put, List.setIfInBounds_toArray, List.set_cons_zero, List.set_cons_succ])
      refine wpAnyH_ready (rs := [9]) (by kernel_rfl) (by simp) ?_; refine AllReadyH.cons (o := ⟨_, _, _, _, _, _⟩) rfl (fun K hK => ?_) AllReadyH.nil; go_simp
      (go_at_call 41; refine (HJ4.out _).mono ?_; rintro e9 w9 ⟨rfl, hb9⟩; have Q4 := Lib.hid (Q3.out.below hb9); have y0 := Q4.out.s.c 0 _ rfl; have y1 := Q4.out.s.c 1 _ rfl; have y2 := Q4.out.s.c 2 _ rfl; have y3 := Q4.out.s.c 3 _ rfl; have y4 := Q4.out.s.c 4 _ rfl; have y5 := Q4.out.s.c 5 _ rfl; have y6 := Q4.out.s.c 6 _ rfl; have r0 := Q4.out.r.c 0 _ rfl; have r1 := Q4.out.r.c 1 _ rfl; have rf := Q4.out.r.f; clear hb9)
      (try go_wp2_with fail); refine hK.out _ _ ?_ ?_; (focus ((try dsimp only); (try go_keep); done)); clear hHeld hK K; intro hHeld; (try simp only [Act.put, List.setIfInBounds_toArray, List.set_cons_zero, List.set_cons_succ])
      (refine wpAnyH_take (i := 11) (oi := ⟨_, _, _, _, _, _⟩) (v := ?_) rfl (by kernel_rfl) (by kernel_rfl) (by kernel_rfl) (fun _ _ _ h => h) (Or.inl ⟨by rfl, ?_⟩) (by assumption) ?_); rotate_left; (focus (intro w hSw; (try dsimp only at hSw); go_simp; (try with_reducible rfl); done)); (try simp only [Act.put, List.setIfInBounds_toArray, List.set_cons_zero, List.set_cons_succ])
      refine wpAnyH_ready (rs := [12]) (by kernel_rfl) (by simp) ?_; refine AllReadyH.cons (o := ⟨_, _, _, _, _, _⟩) rfl (fun K hK => ?_) AllReadyH.nil; go_simp
      (try go_wp2_with fail); refine hK.out _ _ ?_ ?_; (focus ((try dsimp only); (try go_keep); done)); clear hHeld hK K; intro hHeld; (try simp only [Act.put, List.setIfInBounds_toArray, List.set_cons_zero, List.set_cons_succ])
      refine wpAnyH_done (by kernel_rfl) ?_ _
      go_wp2_with fail
      refine bodyPost_ret (v := .tuple #[.string O, .agg #[.int .i64 0, .int .i64 0]]) (by simp [results, Try.results22, go_sem, r0, r1]) rfl ⟨rfl, ?_⟩
      exact (Q4.out.b.setCell (p := ⟨w.heap.size + 1, 0, none⟩) (Nat.le_succ _) _).setCell (p := ⟨w.heap.size + 1, 1, none⟩) (Nat.le_succ _) _
theorem print_any (a b c d e : ByteArray) (tr g : Nat) (w : World) (ht : tr < 256) (hg : g < 256) (ha : a.size ≤ maxLen) (hb : b.size ≤ maxLen) (hc : c.size ≤ maxLen) (hd : d.size ≤ maxLen) (he : e.size ≤ maxLen) : Calls Try.prog 22 #[tlV a b c d e tr g] w fun r w' => r = .returned (.tuple #[.string (prS tr g [a, b, c, d, e]), ftV (chk tr 0 [a, b, c, d, e])]) ∧ Below w.heap.size w w' := by
  unfold prS
  by_cases h : (chk tr 0 [a, b, c, d, e]).1 = 0
  · rw [if_pos h]; exact print_good a b c d e tr g w ht hg ha hb hc hd he h
  · rw [if_neg h]; exact print_bad a b c d e tr g w ht hg ha hb hc hd he h
end Go.Proofs.Ytidlkkhmmgkicaa.tl
