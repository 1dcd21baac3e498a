/- Layer 12: the document's Print. -/
import Derived.Test.YtidlkkhmmgkicaaTa1
namespace Go.Proofs.Ytidlkkhmmgkicaa.ta
open Go.RowKit Go.Lib
open Go.Proofs.Ytidlkkhmmgkicaa.un (bs bs_list bs_size bs_app bs_back size_list bt bt_lt bt_get index_bt wrap64 data_app drop_at drop_end u0)
set_option linter.unusedVariables false
/-- A tail's texts as bytes, from a text on. -/
def prT (tr : Nat) : Nat → List ByteArray → List UInt8
  | _, [] => []
  | i, s :: l => s.data.toList ++ (List.replicate (wd i tr - s.size) 0 ++ prT tr (i + 1) l)
/-- A tail's bytes. -/
def prA (tr g : Nat) (l : List ByteArray) : List UInt8 := [84, 65, 71] ++ prT tr 0 l ++ (if tr = 0 then [] else [0, UInt8.ofNat tr]) ++ [UInt8.ofNat g]
theorem conv_l (w : World) (l : List UInt8) : (convert 52 9 (.slice (some ⟨w.heap.size, 0, none⟩) l.length l.length)).run Try.prog (w.alloc (.cells (l.map fun c => Value.int .u8 (c.toNat : Int)).toArray 5)) = .ok (.string (bs l)) (w.alloc (.cells (l.map fun c => Value.int .u8 (c.toNat : Int)).toArray 5)) :=
  run_convert_bytes_back (P := Try.prog) _ 52 9 5 ⟨w.heap.size, 0, none⟩ l.length l Try.underlying52 Try.underlying5 Try.underlying9 (fun j hj => by
    have e : (⟨w.heap.size, 0, none⟩ : Addr).add j = ⟨w.heap.size, j, none⟩ := by simp [Addr.add]; intro h; exact h.symm
    rw [e, World.cell?_alloc_mark]
    simp [hj])
theorem u8_nat (x : Nat) (h : x < 256) : ((UInt8.ofNat x).toNat : Int) = (x : Int) := by simp; omega
theorem conv_1 (w : World) (g : Nat) (h : g < 256) : (convert 52 9 (.slice (some ⟨w.heap.size, 0, none⟩) 1 1)).run Try.prog (w.alloc (.cells #[.int .u8 (g : Int)] 5)) = .ok (.string (bs [UInt8.ofNat g])) (w.alloc (.cells #[.int .u8 (g : Int)] 5)) := by
  have h2 := conv_l w [UInt8.ofNat g]
  simp only [List.map_cons, List.map_nil, u8_nat g h] at h2
  exact h2
theorem conv_2 (w : World) (g : Nat) (h : g < 256) : (convert 52 9 (.slice (some ⟨w.heap.size, 0, none⟩) 2 2)).run Try.prog (w.alloc (.cells #[.int .u8 0, .int .u8 (g : Int)] 5)) = .ok (.string (bs [0, UInt8.ofNat g])) (w.alloc (.cells #[.int .u8 0, .int .u8 (g : Int)] 5)) := by
  have h2 := conv_l w [0, UInt8.ofNat g]
  simp only [List.map_cons, List.map_nil, u8_nat g h] at h2
  exact h2
theorem alloc_size (w : World) (x : Obj) : (w.alloc x).heap.size = w.heap.size + 1 := Array.size_push _
theorem wrap8 (x : Nat) (h : x < 256) : IntKind.u8.wrap (x : Int) = (x : Int) := by simp [IntKind.wrap, IntKind.bits, IntKind.signed]; omega
set_option maxRecDepth 100000 in
set_option maxHeartbeats 8000000 in
theorem Print_any (a b c d e : ByteArray) (tr g : Nat) (w : World) (ht : tr < 256) (hg : g < 256) (ha : a.size ≤ 4000) (hb : b.size ≤ 4000) (hc : c.size ≤ 4000) (hd : d.size ≤ 4000) (he : e.size ≤ 4000) : Calls Try.prog 25 #[.agg #[.string a, .string b, .string c, .string d, .string e, .int .i64 (tr : Int), .int .i64 (g : Int)]] w fun r w' => r = .returned (.string (bs (prA tr g [a, b, c, d, e]))) ∧ Below w.heap.size w w' := by
  obtain ⟨T, hT⟩ : ∃ T, T = [84, 65, 71] ++ prT tr 0 [a, b, c, d, e] := ⟨_, rfl⟩
  obtain ⟨R, hR0⟩ : ∃ R, R = prA tr g [a, b, c, d, e] := ⟨_, rfl⟩
  rw [← hR0]
  have HR : Hid (R = T ++ (if tr = 0 then [] else [0, UInt8.ofNat tr]) ++ [UInt8.ofNat g]) := Lib.hid (by rw [hR0, hT]; rfl)
  have HT := Lib.hid hT
  clear hR0 hT
  have HB : Hid (Below w.heap.size w (w.alloc (.cells #[.string a, .string b, .string c, .string d, .string e, .int .i64 (tr : Int), .int .i64 (g : Int)] 36))) := Lib.hid ((Below.refl _ _).alloc (Nat.le_refl _) _)
  go_enter Try.func25, Try.ntmps25
  go_wp2_with fail
  go_loopw [3, 4] (fun s i wr => ∃ (j : Nat) (J : Int) (o : List UInt8), j ≤ 5 ∧ J = j ∧ i = .int .i64 J ∧ s = .string (bs o) ∧ Hid (o ++ prT tr j ([a, b, c, d, e].drop j) = T ∧ o.length ≤ 4100 * (j + 1)) ∧ wr = w.alloc (.cells #[.string a, .string b, .string c, .string d, .string e, .int .i64 (tr : Int), .int .i64 (g : Int)] 36)) (fun _ i _ => 5 - (RowKit.intOf i).toNat)
  case atStart => exact ⟨0, 0, [84, 65, 71], by omega, rfl, rfl, rfl, Lib.hid ⟨HT.out.symm, by simp⟩, rfl⟩
  case round =>
    obtain ⟨j, J, o, hj, hJ, rfl, rfl, ho, rfl⟩ := hrel
    have hcase : j = 0 ∨ j = 1 ∨ j = 2 ∨ j = 3 ∨ j = 4 ∨ j = 5 := by omega
    rcases hcase with rfl | rfl | rfl | rfl | rfl | rfl
    · obtain rfl : J = 0 := by omega
      clear hJ
      have hco : a.data.toList ++ (List.replicate (wd 0 tr - a.size) 0 ++ prT tr 1 [b, c, d, e]) = [] ++ (a.data.toList ++ (List.replicate (wd 0 tr - a.size) 0 ++ prT tr 1 [b, c, d, e])) := rfl
      have HO : Hid (o ++ (a.data.toList ++ (List.replicate (wd 0 tr - a.size) 0 ++ prT tr 1 [b, c, d, e])) = T) := Lib.hid ho.out.1
      have hol := ho.out.2
      have W9 := Lib.hid (fun W => Width_any 0 tr W (by omega) ht)
      have hxs : a.data.toList.length = a.size := size_list a
      have hs0 : (a.size : Int) ≤ 4000 := by omega
      have hwl := wd_le 0 tr
      have o1 : ¬ 9223372036854775807 < (bs o).size + a.size := by rw [bs_size]; omega
      have hap : bs o ++ a = bs (o ++ a.data.toList) := by rw [← bs_app, bs_back]
      have HAP := Lib.hid hap
      clear hco ho hap
      go_wp2_with fail
      rw [HAP.out]
      go_loopw [3, 5] (fun s k wr => ∃ (q : Nat), a.size ≤ q ∧ (q = a.size ∨ q ≤ wd 0 tr) ∧ k = .int .i64 q ∧ s = .string (bs (o ++ a.data.toList ++ List.replicate (q - a.size) 0)) ∧ wr = w.alloc (.cells #[.string a, .string b, .string c, .string d, .string e, .int .i64 (tr : Int), .int .i64 (g : Int)] 36)) (fun _ k _ => 4100 - (RowKit.intOf k).toNat)
      case atStart => exact ⟨a.size, by omega, .inl rfl, rfl, by simp, rfl⟩
      case round =>
        obtain ⟨q, hq1, hq2, rfl, rfl, rfl⟩ := hrel
        obtain ⟨B, hB⟩ : ∃ B, B = wd 0 tr := ⟨_, rfl⟩
        rw [← hB] at W9 hq2 HO hwl
        by_cases hlt : q < B
        · have gt : (q : Int) < (B : Int) := by omega
          have e2 : IntKind.i64.wrap ((q : Int) + 1) = (q : Int) + 1 := wrap64 (by omega) (by omega)
          have o2 : ¬ 9223372036854775807 < (bs (o ++ a.data.toList ++ List.replicate (q - a.size) 0)).size + (⟨#[0]⟩ : ByteArray).size := by rw [bs_size]; simp only [List.length_append, List.length_replicate]; show ¬ _ < _ + 1; omega
          have hap2 : bs (o ++ a.data.toList ++ List.replicate (q - a.size) 0) ++ ⟨#[0]⟩ = bs (o ++ a.data.toList ++ List.replicate (q + 1 - a.size) 0) := by
            rw [show (⟨#[0]⟩ : ByteArray) = bs [0] from rfl, bs_app, show q + 1 - a.size = (q - a.size) + 1 by omega, List.replicate_succ']
            simp
          have HAP2 := Lib.hid hap2
          generalize bs (o ++ a.data.toList ++ List.replicate (q - a.size) 0) = S at *
          have HQ := Lib.hid (show q + 1 ≤ B by omega)
          clear hap2 hlt hq2
          go_wp2_with (go_at_call 37; refine (W9.out _).mono ?_; rintro e1 w1 ⟨rfl, rfl⟩)
          go_roundw
          case rel => exact ⟨q + 1, by omega, .inr (by have := HQ.out; omega), by go_num, by rw [HAP2.out], trivial⟩
          case measure => simp [RowKit.intOf]; have := HQ.out; omega
        · have gt : ¬ (q : Int) < (B : Int) := by omega
          have e2 : q - a.size = B - a.size := by omega
          rw [e2]
          have HO2 : Hid ((o ++ a.data.toList ++ List.replicate (B - a.size) 0) ++ prT tr 1 [b, c, d, e] = T) := Lib.hid (by rw [← HO.out]; simp)
          have HL2 : Hid ((o ++ a.data.toList ++ List.replicate (B - a.size) 0).length ≤ 4100 * (1 + 1)) := Lib.hid (by simp only [List.length_append, List.length_replicate]; omega)
          generalize o ++ a.data.toList ++ List.replicate (B - a.size) 0 = S at *
          clear hq2 hlt hB hwl HO HAP hxs hol hq1
          go_wp2_with (go_at_call 37; refine (W9.out _).mono ?_; rintro e1 w1 ⟨rfl, rfl⟩)
          go_roundw
          case rel => exact ⟨1, 1, S, by omega, rfl, by go_num, rfl, Lib.hid ⟨HO2.out, HL2.out⟩, trivial⟩
          case measure => simp [RowKit.intOf]
    · obtain rfl : J = 1 := by omega
      clear hJ
      have hco : b.data.toList ++ (List.replicate (wd 1 tr - b.size) 0 ++ prT tr 2 [c, d, e]) = [] ++ (b.data.toList ++ (List.replicate (wd 1 tr - b.size) 0 ++ prT tr 2 [c, d, e])) := rfl
      have HO : Hid (o ++ (b.data.toList ++ (List.replicate (wd 1 tr - b.size) 0 ++ prT tr 2 [c, d, e])) = T) := Lib.hid ho.out.1
      have hol := ho.out.2
      have W9 := Lib.hid (fun W => Width_any 1 tr W (by omega) ht)
      have hxs : b.data.toList.length = b.size := size_list b
      have hs0 : (b.size : Int) ≤ 4000 := by omega
      have hwl := wd_le 1 tr
      have o1 : ¬ 9223372036854775807 < (bs o).size + b.size := by rw [bs_size]; omega
      have hap : bs o ++ b = bs (o ++ b.data.toList) := by rw [← bs_app, bs_back]
      have HAP := Lib.hid hap
      clear hco ho hap
      go_wp2_with fail
      rw [HAP.out]
      go_loopw [3, 5] (fun s k wr => ∃ (q : Nat), b.size ≤ q ∧ (q = b.size ∨ q ≤ wd 1 tr) ∧ k = .int .i64 q ∧ s = .string (bs (o ++ b.data.toList ++ List.replicate (q - b.size) 0)) ∧ wr = w.alloc (.cells #[.string a, .string b, .string c, .string d, .string e, .int .i64 (tr : Int), .int .i64 (g : Int)] 36)) (fun _ k _ => 4100 - (RowKit.intOf k).toNat)
      case atStart => exact ⟨b.size, by omega, .inl rfl, rfl, by simp, rfl⟩
      case round =>
        obtain ⟨q, hq1, hq2, rfl, rfl, rfl⟩ := hrel
        obtain ⟨B, hB⟩ : ∃ B, B = wd 1 tr := ⟨_, rfl⟩
        rw [← hB] at W9 hq2 HO hwl
        by_cases hlt : q < B
        · have gt : (q : Int) < (B : Int) := by omega
          have e2 : IntKind.i64.wrap ((q : Int) + 1) = (q : Int) + 1 := wrap64 (by omega) (by omega)
          have o2 : ¬ 9223372036854775807 < (bs (o ++ b.data.toList ++ List.replicate (q - b.size) 0)).size + (⟨#[0]⟩ : ByteArray).size := by rw [bs_size]; simp only [List.length_append, List.length_replicate]; show ¬ _ < _ + 1; omega
          have hap2 : bs (o ++ b.data.toList ++ List.replicate (q - b.size) 0) ++ ⟨#[0]⟩ = bs (o ++ b.data.toList ++ List.replicate (q + 1 - b.size) 0) := by
            rw [show (⟨#[0]⟩ : ByteArray) = bs [0] from rfl, bs_app, show q + 1 - b.size = (q - b.size) + 1 by omega, List.replicate_succ']
            simp
          have HAP2 := Lib.hid hap2
          generalize bs (o ++ b.data.toList ++ List.replicate (q - b.size) 0) = S at *
          have HQ := Lib.hid (show q + 1 ≤ B by omega)
          clear hap2 hlt hq2
          go_wp2_with (go_at_call 37; refine (W9.out _).mono ?_; rintro e1 w1 ⟨rfl, rfl⟩)
          go_roundw
          case rel => exact ⟨q + 1, by omega, .inr (by have := HQ.out; omega), by go_num, by rw [HAP2.out], trivial⟩
          case measure => simp [RowKit.intOf]; have := HQ.out; omega
        · have gt : ¬ (q : Int) < (B : Int) := by omega
          have e2 : q - b.size = B - b.size := by omega
          rw [e2]
          have HO2 : Hid ((o ++ b.data.toList ++ List.replicate (B - b.size) 0) ++ prT tr 2 [c, d, e] = T) := Lib.hid (by rw [← HO.out]; simp)
          have HL2 : Hid ((o ++ b.data.toList ++ List.replicate (B - b.size) 0).length ≤ 4100 * (2 + 1)) := Lib.hid (by simp only [List.length_append, List.length_replicate]; omega)
          generalize o ++ b.data.toList ++ List.replicate (B - b.size) 0 = S at *
          clear hq2 hlt hB hwl HO HAP hxs hol hq1
          go_wp2_with (go_at_call 37; refine (W9.out _).mono ?_; rintro e1 w1 ⟨rfl, rfl⟩)
          go_roundw
          case rel => exact ⟨2, 2, S, by omega, rfl, by go_num, rfl, Lib.hid ⟨HO2.out, HL2.out⟩, trivial⟩
          case measure => simp [RowKit.intOf]
    · obtain rfl : J = 2 := by omega
      clear hJ
      have hco : c.data.toList ++ (List.replicate (wd 2 tr - c.size) 0 ++ prT tr 3 [d, e]) = [] ++ (c.data.toList ++ (List.replicate (wd 2 tr - c.size) 0 ++ prT tr 3 [d, e])) := rfl
      have HO : Hid (o ++ (c.data.toList ++ (List.replicate (wd 2 tr - c.size) 0 ++ prT tr 3 [d, e])) = T) := Lib.hid ho.out.1
      have hol := ho.out.2
      have W9 := Lib.hid (fun W => Width_any 2 tr W (by omega) ht)
      have hxs : c.data.toList.length = c.size := size_list c
      have hs0 : (c.size : Int) ≤ 4000 := by omega
      have hwl := wd_le 2 tr
      have o1 : ¬ 9223372036854775807 < (bs o).size + c.size := by rw [bs_size]; omega
      have hap : bs o ++ c = bs (o ++ c.data.toList) := by rw [← bs_app, bs_back]
      have HAP := Lib.hid hap
      clear hco ho hap
      go_wp2_with fail
      rw [HAP.out]
      go_loopw [3, 5] (fun s k wr => ∃ (q : Nat), c.size ≤ q ∧ (q = c.size ∨ q ≤ wd 2 tr) ∧ k = .int .i64 q ∧ s = .string (bs (o ++ c.data.toList ++ List.replicate (q - c.size) 0)) ∧ wr = w.alloc (.cells #[.string a, .string b, .string c, .string d, .string e, .int .i64 (tr : Int), .int .i64 (g : Int)] 36)) (fun _ k _ => 4100 - (RowKit.intOf k).toNat)
      case atStart => exact ⟨c.size, by omega, .inl rfl, rfl, by simp, rfl⟩
      case round =>
        obtain ⟨q, hq1, hq2, rfl, rfl, rfl⟩ := hrel
        obtain ⟨B, hB⟩ : ∃ B, B = wd 2 tr := ⟨_, rfl⟩
        rw [← hB] at W9 hq2 HO hwl
        by_cases hlt : q < B
        · have gt : (q : Int) < (B : Int) := by omega
          have e2 : IntKind.i64.wrap ((q : Int) + 1) = (q : Int) + 1 := wrap64 (by omega) (by omega)
          have o2 : ¬ 9223372036854775807 < (bs (o ++ c.data.toList ++ List.replicate (q - c.size) 0)).size + (⟨#[0]⟩ : ByteArray).size := by rw [bs_size]; simp only [List.length_append, List.length_replicate]; show ¬ _ < _ + 1; omega
          have hap2 : bs (o ++ c.data.toList ++ List.replicate (q - c.size) 0) ++ ⟨#[0]⟩ = bs (o ++ c.data.toList ++ List.replicate (q + 1 - c.size) 0) := by
            rw [show (⟨#[0]⟩ : ByteArray) = bs [0] from rfl, bs_app, show q + 1 - c.size = (q - c.size) + 1 by omega, List.replicate_succ']
            simp
          have HAP2 := Lib.hid hap2
          generalize bs (o ++ c.data.toList ++ List.replicate (q - c.size) 0) = S at *
          have HQ := Lib.hid (show q + 1 ≤ B by omega)
          clear hap2 hlt hq2
          go_wp2_with (go_at_call 37; refine (W9.out _).mono ?_; rintro e1 w1 ⟨rfl, rfl⟩)
          go_roundw
          case rel => exact ⟨q + 1, by omega, .inr (by have := HQ.out; omega), by go_num, by rw [HAP2.out], trivial⟩
          case measure => simp [RowKit.intOf]; have := HQ.out; omega
        · have gt : ¬ (q : Int) < (B : Int) := by omega
          have e2 : q - c.size = B - c.size := by omega
          rw [e2]
          have HO2 : Hid ((o ++ c.data.toList ++ List.replicate (B - c.size) 0) ++ prT tr 3 [d, e] = T) := Lib.hid (by rw [← HO.out]; simp)
          have HL2 : Hid ((o ++ c.data.toList ++ List.replicate (B - c.size) 0).length ≤ 4100 * (3 + 1)) := Lib.hid (by simp only [List.length_append, List.length_replicate]; omega)
          generalize o ++ c.data.toList ++ List.replicate (B - c.size) 0 = S at *
          clear hq2 hlt hB hwl HO HAP hxs hol hq1
          go_wp2_with (go_at_call 37; refine (W9.out _).mono ?_; rintro e1 w1 ⟨rfl, rfl⟩)
          go_roundw
          case rel => exact ⟨3, 3, S, by omega, rfl, by go_num, rfl, Lib.hid ⟨HO2.out, HL2.out⟩, trivial⟩
          case measure => simp [RowKit.intOf]
    · obtain rfl : J = 3 := by omega
      clear hJ
      have hco : d.data.toList ++ (List.replicate (wd 3 tr - d.size) 0 ++ prT tr 4 [e]) = [] ++ (d.data.toList ++ (List.replicate (wd 3 tr - d.size) 0 ++ prT tr 4 [e])) := rfl
      have HO : Hid (o ++ (d.data.toList ++ (List.replicate (wd 3 tr - d.size) 0 ++ prT tr 4 [e])) = T) := Lib.hid ho.out.1
      have hol := ho.out.2
      have W9 := Lib.hid (fun W => Width_any 3 tr W (by omega) ht)
      have hxs : d.data.toList.length = d.size := size_list d
      have hs0 : (d.size : Int) ≤ 4000 := by omega
      have hwl := wd_le 3 tr
      have o1 : ¬ 9223372036854775807 < (bs o).size + d.size := by rw [bs_size]; omega
      have hap : bs o ++ d = bs (o ++ d.data.toList) := by rw [← bs_app, bs_back]
      have HAP := Lib.hid hap
      clear hco ho hap
      go_wp2_with fail
      rw [HAP.out]
      go_loopw [3, 5] (fun s k wr => ∃ (q : Nat), d.size ≤ q ∧ (q = d.size ∨ q ≤ wd 3 tr) ∧ k = .int .i64 q ∧ s = .string (bs (o ++ d.data.toList ++ List.replicate (q - d.size) 0)) ∧ wr = w.alloc (.cells #[.string a, .string b, .string c, .string d, .string e, .int .i64 (tr : Int), .int .i64 (g : Int)] 36)) (fun _ k _ => 4100 - (RowKit.intOf k).toNat)
      case atStart => exact ⟨d.size, by omega, .inl rfl, rfl, by simp, rfl⟩
      case round =>
        obtain ⟨q, hq1, hq2, rfl, rfl, rfl⟩ := hrel
        obtain ⟨B, hB⟩ : ∃ B, B = wd 3 tr := ⟨_, rfl⟩
        rw [← hB] at W9 hq2 HO hwl
        by_cases hlt : q < B
        · have gt : (q : Int) < (B : Int) := by omega
          have e2 : IntKind.i64.wrap ((q : Int) + 1) = (q : Int) + 1 := wrap64 (by omega) (by omega)
          have o2 : ¬ 9223372036854775807 < (bs (o ++ d.data.toList ++ List.replicate (q - d.size) 0)).size + (⟨#[0]⟩ : ByteArray).size := by rw [bs_size]; simp only [List.length_append, List.length_replicate]; show ¬ _ < _ + 1; omega
          have hap2 : bs (o ++ d.data.toList ++ List.replicate (q - d.size) 0) ++ ⟨#[0]⟩ = bs (o ++ d.data.toList ++ List.replicate (q + 1 - d.size) 0) := by
            rw [show (⟨#[0]⟩ : ByteArray) = bs [0] from rfl, bs_app, show q + 1 - d.size = (q - d.size) + 1 by omega, List.replicate_succ']
            simp
          have HAP2 := Lib.hid hap2
          generalize bs (o ++ d.data.toList ++ List.replicate (q - d.size) 0) = S at *
          have HQ := Lib.hid (show q + 1 ≤ B by omega)
          clear hap2 hlt hq2
          go_wp2_with (go_at_call 37; refine (W9.out _).mono ?_; rintro e1 w1 ⟨rfl, rfl⟩)
          go_roundw
          case rel => exact ⟨q + 1, by omega, .inr (by have := HQ.out; omega), by go_num, by rw [HAP2.out], trivial⟩
          case measure => simp [RowKit.intOf]; have := HQ.out; omega
        · have gt : ¬ (q : Int) < (B : Int) := by omega
          have e2 : q - d.size = B - d.size := by omega
          rw [e2]
          have HO2 : Hid ((o ++ d.data.toList ++ List.replicate (B - d.size) 0) ++ prT tr 4 [e] = T) := Lib.hid (by rw [← HO.out]; simp)
          have HL2 : Hid ((o ++ d.data.toList ++ List.replicate (B - d.size) 0).length ≤ 4100 * (4 + 1)) := Lib.hid (by simp only [List.length_append, List.length_replicate]; omega)
          generalize o ++ d.data.toList ++ List.replicate (B - d.size) 0 = S at *
          clear hq2 hlt hB hwl HO HAP hxs hol hq1
          go_wp2_with (go_at_call 37; refine (W9.out _).mono ?_; rintro e1 w1 ⟨rfl, rfl⟩)
          go_roundw
          case rel => exact ⟨4, 4, S, by omega, rfl, by go_num, rfl, Lib.hid ⟨HO2.out, HL2.out⟩, trivial⟩
          case measure => simp [RowKit.intOf]
    · obtain rfl : J = 4 := by omega
      clear hJ
      have hco : e.data.toList ++ (List.replicate (wd 4 tr - e.size) 0 ++ prT tr 5 []) = [] ++ (e.data.toList ++ (List.replicate (wd 4 tr - e.size) 0 ++ prT tr 5 [])) := rfl
      have HO : Hid (o ++ (e.data.toList ++ (List.replicate (wd 4 tr - e.size) 0 ++ prT tr 5 [])) = T) := Lib.hid ho.out.1
      have hol := ho.out.2
      have W9 := Lib.hid (fun W => Width_any 4 tr W (by omega) ht)
      have hxs : e.data.toList.length = e.size := size_list e
      have hs0 : (e.size : Int) ≤ 4000 := by omega
      have hwl := wd_le 4 tr
      have o1 : ¬ 9223372036854775807 < (bs o).size + e.size := by rw [bs_size]; omega
      have hap : bs o ++ e = bs (o ++ e.data.toList) := by rw [← bs_app, bs_back]
      have HAP := Lib.hid hap
      clear hco ho hap
      go_wp2_with fail
      rw [HAP.out]
      go_loopw [3, 5] (fun s k wr => ∃ (q : Nat), e.size ≤ q ∧ (q = e.size ∨ q ≤ wd 4 tr) ∧ k = .int .i64 q ∧ s = .string (bs (o ++ e.data.toList ++ List.replicate (q - e.size) 0)) ∧ wr = w.alloc (.cells #[.string a, .string b, .string c, .string d, .string e, .int .i64 (tr : Int), .int .i64 (g : Int)] 36)) (fun _ k _ => 4100 - (RowKit.intOf k).toNat)
      case atStart => exact ⟨e.size, by omega, .inl rfl, rfl, by simp, rfl⟩
      case round =>
        obtain ⟨q, hq1, hq2, rfl, rfl, rfl⟩ := hrel
        obtain ⟨B, hB⟩ : ∃ B, B = wd 4 tr := ⟨_, rfl⟩
        rw [← hB] at W9 hq2 HO hwl
        by_cases hlt : q < B
        · have gt : (q : Int) < (B : Int) := by omega
          have e2 : IntKind.i64.wrap ((q : Int) + 1) = (q : Int) + 1 := wrap64 (by omega) (by omega)
          have o2 : ¬ 9223372036854775807 < (bs (o ++ e.data.toList ++ List.replicate (q - e.size) 0)).size + (⟨#[0]⟩ : ByteArray).size := by rw [bs_size]; simp only [List.length_append, List.length_replicate]; show ¬ _ < _ + 1; omega
          have hap2 : bs (o ++ e.data.toList ++ List.replicate (q - e.size) 0) ++ ⟨#[0]⟩ = bs (o ++ e.data.toList ++ List.replicate (q + 1 - e.size) 0) := by
            rw [show (⟨#[0]⟩ : ByteArray) = bs [0] from rfl, bs_app, show q + 1 - e.size = (q - e.size) + 1 by omega, List.replicate_succ']
            simp
          have HAP2 := Lib.hid hap2
          generalize bs (o ++ e.data.toList ++ List.replicate (q - e.size) 0) = S at *
          have HQ := Lib.hid (show q + 1 ≤ B by omega)
          clear hap2 hlt hq2
          go_wp2_with (go_at_call 37; refine (W9.out _).mono ?_; rintro e1 w1 ⟨rfl, rfl⟩)
          go_roundw
          case rel => exact ⟨q + 1, by omega, .inr (by have := HQ.out; omega), by go_num, by rw [HAP2.out], trivial⟩
          case measure => simp [RowKit.intOf]; have := HQ.out; omega
        · have gt : ¬ (q : Int) < (B : Int) := by omega
          have e2 : q - e.size = B - e.size := by omega
          rw [e2]
          have HO2 : Hid ((o ++ e.data.toList ++ List.replicate (B - e.size) 0) ++ prT tr 5 [] = T) := Lib.hid (by rw [← HO.out]; simp)
          have HL2 : Hid ((o ++ e.data.toList ++ List.replicate (B - e.size) 0).length ≤ 4100 * (5 + 1)) := Lib.hid (by simp only [List.length_append, List.length_replicate]; omega)
          generalize o ++ e.data.toList ++ List.replicate (B - e.size) 0 = S at *
          clear hq2 hlt hB hwl HO HAP hxs hol hq1
          go_wp2_with (go_at_call 37; refine (W9.out _).mono ?_; rintro e1 w1 ⟨rfl, rfl⟩)
          go_roundw
          case rel => exact ⟨5, 5, S, by omega, rfl, by go_num, rfl, Lib.hid ⟨HO2.out, HL2.out⟩, trivial⟩
          case measure => simp [RowKit.intOf]
    · obtain rfl : J = 5 := by omega
      clear hJ
      have hco : o = T := by rw [← ho.out.1]; show o = o ++ []; simp
      have hol := ho.out.2
      subst hco
      clear ho HT ha hb hc hd he
      have k1 := wrap8 tr ht
      have k2 := wrap8 g hg
      have c2 := conv_2 (w.alloc (.cells #[.string a, .string b, .string c, .string d, .string e, .int .i64 (tr : Int), .int .i64 (g : Int)] 36)) tr ht
      generalize hT9 : ((tr : Nat) : Int) = T9 at *
      have HB2 : Hid (∀ x, Below w.heap.size w ((w.alloc (.cells #[.string a, .string b, .string c, .string d, .string e, .int .i64 T9, .int .i64 (g : Int)] 36)).alloc x)) := Lib.hid (fun x => HB.out.alloc (by rw [alloc_size]; omega) _)
      have HB3 : Hid (∀ x y, Below w.heap.size w (((w.alloc (.cells #[.string a, .string b, .string c, .string d, .string e, .int .i64 T9, .int .i64 (g : Int)] 36)).alloc x).alloc y)) := Lib.hid (fun x y => (HB2.out x).alloc (by rw [alloc_size, alloc_size]; omega) _)
      by_cases h0 : tr = 0
      · have c1 := conv_1 (w.alloc (.cells #[.string a, .string b, .string c, .string d, .string e, .int .i64 T9, .int .i64 (g : Int)] 36)) g hg
        rw [alloc_size] at c1
        have o1 : ¬ 9223372036854775807 < (bs o).size + (bs [UInt8.ofNat g]).size := by rw [bs_size, bs_size]; show ¬ _ < _ + 1; omega
        have HF : Hid (bs o ++ bs [UInt8.ofNat g] = bs R) := Lib.hid (by rw [HR.out, bs_app, if_pos h0]; simp)
        obtain rfl : T9 = 0 := by omega
        clear HR hol k1 HB ht c2 hT9 h0
        go_wp2_with fail
        go_ret
        exact ⟨by rw [HF.out]; rfl, HB2.out _⟩
      · have c1 := conv_1 ((w.alloc (.cells #[.string a, .string b, .string c, .string d, .string e, .int .i64 T9, .int .i64 (g : Int)] 36)).alloc (.cells #[.int .u8 0, .int .u8 T9] 5)) g hg
        rw [alloc_size, alloc_size] at c1
        rw [alloc_size] at c2
        have n0 : (T9 == 0) = false := by simp; omega
        have o1 : ¬ 9223372036854775807 < (bs o).size + (bs [0, UInt8.ofNat tr]).size := by rw [bs_size, bs_size]; show ¬ _ < _ + 2; omega
        have o2 : ¬ 9223372036854775807 < (bs o ++ bs [0, UInt8.ofNat tr]).size + (bs [UInt8.ofNat g]).size := by rw [bs_app, bs_size, bs_size, List.length_append]; show ¬ _ < _ + 2 + 1; omega
        have HF : Hid (bs o ++ bs [0, UInt8.ofNat tr] ++ bs [UInt8.ofNat g] = bs R) := Lib.hid (by rw [HR.out, bs_app, bs_app, if_neg h0])
        clear HR hol HB ht hT9 h0
        go_wp2_with fail
        go_ret
        exact ⟨by rw [HF.out]; rfl, HB3.out _ _⟩
end Go.Proofs.Ytidlkkhmmgkicaa.ta
