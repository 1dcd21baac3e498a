/- Signs of layer 2: what was Pt0 to Pt5. -/
import Derived.Test.YtiigknimfibdpaaGreatDoorShelf
import Derived.Test.YtiigknimfibdpaaGreatDoorChecked
import Derived.WalkKit
import Derived.WalkSmall
import Derived.BigQuiet
import Derived.Deep.QuietTactic
import Derived.Lib.Hide
import Derived.Lib.OthersKept
import Derived.Lib.TrimU
import Derived.Lib.RuneCountTail
import Derived.Shelf.Unicode.DecodeSlow
import Derived.Laws.MakeOwn
import Derived.Lib.RuneBytes
import Derived.Lib.ValidLaws
import Derived.Deep.RegionHeld3
import Derived.Deep.DeepCutAuto
namespace Go.Proofs.YtiigknimfibdpaaGreatDoor.pt
open Go.RowKit Go.Lib
set_option linter.unusedVariables false
theorem ret_int {k : IntKind} {a b : Int} (h : a = b) : Ending.returned (.int k a) = .returned (.int k b) := by rw [h]
/-- No sign stands at pos. -/
def bad (s : ByteArray) (pos : Nat) : Bool := (Utf8.decode s pos).1 == 65533 && (Utf8.decode s pos).2 == 1
/-- The signs from pos on, and the first place at which there is none. -/
def sc (s : ByteArray) : Nat → Nat → List Nat × Option Nat
  | 0, _ => ([], none)
  | f + 1, pos => if pos < s.size then (if bad s pos then ([], some pos) else ((Utf8.decode s pos).1 :: (sc s f (pos + (Utf8.decode s pos).2)).1, (sc s f (pos + (Utf8.decode s pos).2)).2)) else ([], none)
def scan (s : ByteArray) : List Nat × Option Nat := sc s s.size 0
theorem sc_end (s : ByteArray) (f pos : Nat) (h : ¬ pos < s.size) : sc s f pos = ([], none) := by
  cases f <;> simp [sc, h]
theorem sc_bad (s : ByteArray) (f pos : Nat) (h : pos < s.size) (hf : s.size ≤ pos + f) (hb : bad s pos = true) : sc s f pos = ([], some pos) := by
  cases f with
  | zero => omega
  | succ f => simp [sc, h, hb]
theorem sc_good (s : ByteArray) (f pos : Nat) (h : pos < s.size) (hb : bad s pos = false) : sc s (f + 1) pos = ((Utf8.decode s pos).1 :: (sc s f (pos + (Utf8.decode s pos).2)).1, (sc s f (pos + (Utf8.decode s pos).2)).2) := by
  simp [sc, h, hb]
theorem scalar_any (r : Int) (w : World) : Calls Tryz.prog 119 #[.int .i32 r] w fun e w' => e = .returned (.bool (validRune r)) ∧ w = w' := by
  have hv : ∀ w, Calls Tryz.prog 159 #[.int .i32 r] w fun e w' => e = .returned (.bool (validRune r)) ∧ w = w' := fun w => (Tryz.utf8_ValidRune r w).mono fun e w' ⟨h1, h2⟩ => ⟨h1, h2.symm⟩
  generalize validRune r = V at hv ⊢
  have HV := Lib.hid hv
  clear hv
  go_enter Tryz.func119, Tryz.ntmps119
  go_wp2_with (go_at_call 159; refine (HV.out _).mono ?_; rintro e1 w1 ⟨rfl, rfl⟩)
  go_ret
  exact ⟨rfl, rfl⟩
/-- The two tables of the library. -/
def Tabs (w : World) : Prop := Lib.Utf8Tabs 1 2 w
theorem Tabs.below {w w' : World} (h : Tabs w) (hb : Below w.heap.size w w') : Tabs w' := Utf8Tabs_below h hb
theorem sign_at (s : ByteArray) (pos : Nat) (w : World) (hp : pos < s.size) (hT : Tabs w) :
    Calls Tryz.prog 108 #[.string (s.extract pos s.size)] w fun e w' => e = .returned (.bool (decide (1 < ((Utf8.decode s pos).2 : Int)))) ∧ Below w.heap.size w w' := by
  have hsz : (s.extract pos s.size).size ≠ 0 := by rw [ByteArray.size_extract]; omega
  have hd : Lib.decodeGo (s.extract pos s.size) = Utf8.decode s pos := by
    unfold Lib.decodeGo
    rw [if_neg hsz, tail_decode, Nat.add_zero]
  have hc := Tryz.utf8_DecodeRuneInString (s.extract pos s.size) w hT
  rw [hd] at hc
  generalize s.extract pos s.size = t at hc ⊢
  generalize Utf8.decode s pos = d at hc ⊢
  obtain ⟨p, q⟩ := d
  simp only at hc ⊢
  have HC := Lib.hid hc
  clear hc
  go_enter Tryz.func108, Tryz.ntmps108
  go_wp2_with (go_at_call 149; refine HC.out.mono ?_; rintro e1 w1 ⟨rfl, hb⟩)
  go_ret
  exact ⟨rfl, hb⟩
end Go.Proofs.YtiigknimfibdpaaGreatDoor.pt
namespace Go.Proofs.YtiigknimfibdpaaGreatDoor.pt
open Go.RowKit Go.Lib
set_option linter.unusedVariables false
/-- A fault by a place. -/
def fe : Option Nat → Int
  | none => 0
  | some _ => 2
def fa : Option Nat → Int
  | none => 0
  | some a => (a : Int)
/-- A block of two numbers. -/
structure F2 (w : World) (b : Nat) (x y : Int) : Prop where
  lt : b < w.heap.size
  c0 : w.cell? ⟨b, 0, none⟩ = some (.int .i64 x)
  c1 : w.cell? ⟨b, 1, none⟩ = some (.int .i64 y)
  f0 : w.frozen? ⟨b, 0, none⟩ = false
  f1 : w.frozen? ⟨b, 1, none⟩ = false
theorem F2.below {w w' : World} {b B : Nat} {x y : Int} (h : F2 w b x y) (hb : Below B w w') (hB : b < B) : F2 w' b x y := by
  have H : ∀ o, w'.cell? ⟨b, o, none⟩ = w.cell? ⟨b, o, none⟩ := fun o => hb.cell (p := ⟨b, o, none⟩) hB
  have F : ∀ o, w'.frozen? ⟨b, o, none⟩ = w.frozen? ⟨b, o, none⟩ := fun o => hb.frozen (p := ⟨b, o, none⟩) hB
  exact ⟨Nat.lt_of_lt_of_le h.lt hb.size, (H 0).trans h.c0, (H 1).trans h.c1, (F 0).trans h.f0, (F 1).trans h.f1⟩
theorem f2_new (w : World) (x y : Int) (t : Nat) : F2 (w.alloc (.cells #[.int .i64 x, .int .i64 y] t)) w.heap.size x y := by
  have F : ∀ o, (w.alloc (.cells #[.int .i64 x, .int .i64 y] t)).frozen? ⟨w.heap.size, o, none⟩ = false := fun o => by
    have := World.frozen?_alloc_mark w #[.int .i64 x, .int .i64 y] t 0 0 o
    rw [this]; simp
  refine ⟨by simp, ?_, ?_, F 0, F 1⟩ <;> rw [World.cell?_alloc_mark] <;> rfl
set_option maxRecDepth 100000 in
theorem check_any (s : ByteArray) (w : World) (hs : s.size ≤ 4000000000) (hT : Tabs w) :
    Calls Tryz.prog 69 #[.string s] w fun e w' => e = .returned (.agg #[.int .i64 (fe (scan s).2), .int .i64 (fa (scan s).2)]) ∧ Below w.heap.size w w' := by
  obtain ⟨A, hA⟩ : ∃ A, A = (scan s).2 := ⟨_, rfl⟩
  rw [← hA]
  have HA := Lib.hid hA
  have HT := Lib.hid hT
  clear hA hT
  go_enter Tryz.func69, Tryz.ntmps69
  go_wp2_with fail
  go_loopw [3] (fun _ wr => ∃ (pos f : Nat), wr.heap[w.heap.size + 1]? = some (.stringIter s pos) ∧ s.size ≤ pos + f ∧ (sc s f pos).2 = A ∧ F2 wr w.heap.size 0 0 ∧ Below w.heap.size w wr) (fun _ wr => s.size - wr.iterPos (w.heap.size + 1))
  case atStart =>
    have h0 : Below w.heap.size w (w.alloc (.cells #[.int .i64 0, .int .i64 0] 54)) := (Below.refl _ _).alloc (Nat.le_refl _) _
    have h1 : Below (w.alloc (.cells #[.int .i64 0, .int .i64 0] 54)).heap.size (w.alloc (.cells #[.int .i64 0, .int .i64 0] 54)) ((w.alloc (.cells #[.int .i64 0, .int .i64 0] 54)).iter s 0) := (Below.refl _ _).alloc (Nat.le_refl _) _
    exact ⟨0, s.size, by have := World.iter_heap (w.alloc (.cells #[.int .i64 0, .int .i64 0] 54)) s 0; rwa [World.size_alloc] at this, by omega, HA.out.symm, (f2_new w 0 0 54).below h1 (by simp), h0.trans (h1.mono (by simp))⟩
  case round =>
    obtain ⟨pos, f, hit, hf, hsc, hR, hB⟩ := hrel
    have HIT := Lib.hid hit; have HSC := Lib.hid hsc; have HR := Lib.hid hR; have HB := Lib.hid hB
    clear hit hsc hR hB
    by_cases hp : pos < s.size
    · have hnx : ∀ ty, (Instr.next (.pointer (some ⟨w.heap.size + 1, 0, none⟩)) true ty).run Tryz.prog wr = _ := fun ty => run_next_any_at wr (w.heap.size + 1) s pos ty HIT.out hp
      have hB1 : Below w.heap.size w (wr.iterAt (w.heap.size + 1) s (pos + (Utf8.decode s pos).2)) := below_iterAt HB.out (by omega) s _
      have hR1 : F2 (wr.iterAt (w.heap.size + 1) s (pos + (Utf8.decode s pos).2)) w.heap.size 0 0 := HR.out.below (below_iterAt (Below.refl (w.heap.size + 1) wr) (Nat.le_refl _) s _) (by omega)
      have hI1 := iterAt_heap wr (w.heap.size + 1) s pos (pos + (Utf8.decode s pos).2) HIT.out
      have hT1 := HT.out.below hB1
      have hsa := sign_at s pos (wr.iterAt (w.heap.size + 1) s (pos + (Utf8.decode s pos).2)) hp hT1
      have hw1 : 1 ≤ (Utf8.decode s pos).2 := width_pos s pos
      have hsc1 := HSC.out
      have hr32 : (Utf8.decode s pos).1 ≤ 1114111 := rune_le s pos
      have hps : pos ≤ 4000000000 := by omega
      have hsl : ∀ wx, (Instr.slice 9 (.string s) (some (.int .i64 (pos : Int))) none none).run Tryz.prog wx = .ok (.string (s.extract pos s.size)) wx := fun wx => by
        rw [run_slice_string_l wx 9 s Tryz.underlying9 .i64 (pos : Int) (by omega) (by omega)]; rfl
      cases hb : bad s pos with
      | true =>
        rw [sc_bad s f pos hp hf hb] at hsc1
        unfold bad at hb
        obtain ⟨e1, e2⟩ : (Utf8.decode s pos).1 = 65533 ∧ (Utf8.decode s pos).2 = 1 := by simpa using hb
        have H1 := Lib.hid hB1; have H2 := Lib.hid hR1; have H3 := Lib.hid hsa; have H4 := Lib.hid hsc1; have H6 := Lib.hid e2
        have hd : decide (1 < ((Utf8.decode s pos).2 : Int)) = false := by rw [e2]; rfl
        rw [hd] at H3
        rw [e1] at hnx
        have H7 : A = some pos := by have := H4.out; simpa using this.symm
        subst H7
        clear hB1 hR1 hI1 hT1 hsa hsc1 hw1 hb hr32 e1 e2 hd H4
        generalize Utf8.decode s pos = d at *
        go_wp2_with (go_at_call 108; refine H3.out.mono ?_; rintro e3 w3 ⟨rfl, hb3⟩; obtain ⟨lR, c0, c1, f0, f1⟩ := H2.out.below hb3 H2.out.lt)
        have HB9 := H1.out.trans (hb3.mono H1.out.size)
        exact bodyPost_ret (v := .agg #[.int .i64 2, .int .i64 pos]) (by simp [results, Tryz.results69, go_sem, c0, c1]) rfl ⟨rfl, by repeat (first | (with_reducible exact HB9) | (with_reducible exact Below.refl _ _) | (with_reducible refine Below.setCell ?_ (by simp) _) | (with_reducible refine Below.alloc ?_ (by simp; omega) _))⟩
      | false =>
        obtain ⟨f1, rfl⟩ : ∃ f1, f = f1 + 1 := ⟨f - 1, by omega⟩
        rw [sc_good s f1 pos hp hb] at hsc1
        unfold bad at hb
        have H1 := Lib.hid hB1; have H2 := Lib.hid hR1; have H3 := Lib.hid hsa; have H4 := Lib.hid hsc1; have H5 := Lib.hid hI1
        have hw2 : (Utf8.decode s pos).1 = 65533 → 1 < (Utf8.decode s pos).2 := fun h => by
          rcases Nat.lt_or_ge 1 (Utf8.decode s pos).2 with h1 | h1
          · exact h1
          · have h2 : (Utf8.decode s pos).2 = 1 := by omega
            simp [h, h2] at hb
        clear hB1 hR1 hI1 hT1 hsa hsc1 hb
        have hpm : s.size - (pos + (Utf8.decode s pos).2) < s.size - pos := by omega
        have hpf : s.size ≤ pos + (Utf8.decode s pos).2 + f1 := by omega
        generalize Utf8.decode s pos = d at *
        by_cases hd : d.1 = 65533
        · have hd2 : decide (1 < (d.2 : Int)) = true := by have := hw2 hd; simp; omega
          rw [hd2] at H3
          rw [hd] at hnx
          clear hw2 hw1 hr32 hd2
          go_wp2_with (go_at_call 108; refine H3.out.mono ?_; rintro e3 w3 ⟨rfl, hb3⟩)
          have i3 : w3.heap[w.heap.size + 1]? = some (.stringIter s (pos + d.2)) := (hb3.block _ (Array.getElem?_eq_some_iff.1 H5.out).1).trans H5.out
          go_roundw
          case rel => exact ⟨pos + d.2, f1, i3, hpf, H4.out, H2.out.below hb3 H2.out.lt, H1.out.trans (hb3.mono H1.out.size)⟩
          case measure => rw [iterPos_of i3, iterPos_of HIT.out]; exact hpm
        · have hdi : ¬ (d.1 : Int) = 65533 := by omega
          clear hw2 hw1
          go_wp2
          go_roundw
          case rel => exact ⟨pos + d.2, f1, H5.out, hpf, H4.out, H2.out, H1.out⟩
          case measure => rw [iterPos_of H5.out, iterPos_of HIT.out]; exact hpm
    · have hnx : ∀ ty, (Instr.next (.pointer (some ⟨w.heap.size + 1, 0, none⟩)) true ty).run Tryz.prog wr = _ := fun ty => run_next_end_at wr (w.heap.size + 1) s pos ty HIT.out hp
      obtain ⟨_, c0, c1, f0, f1⟩ := HR.out
      have HA2 : A = none := by have := HSC.out; rw [sc_end s f pos hp] at this; exact this.symm
      subst HA2
      go_wp2
      have HB9 := HB.out
      exact bodyPost_ret (v := .agg #[.int .i64 0, .int .i64 0]) (by simp [results, Tryz.results69, go_sem, c0, c1]) rfl ⟨rfl, by repeat (first | (with_reducible exact HB9) | (with_reducible exact Below.refl _ _) | (with_reducible refine Below.setCell ?_ (by simp) _) | (with_reducible refine Below.alloc ?_ (by simp; omega) _))⟩
end Go.Proofs.YtiigknimfibdpaaGreatDoor.pt
namespace Go.Proofs.YtiigknimfibdpaaGreatDoor.pt
open Go.RowKit Go.Lib
set_option linter.unusedVariables false
theorem byte_info : (Tryz.prog.info? 5).map (fun i => (i.zero, i.size, i.bytes)) = some (some (.int .u8 0), 1, 1) := by kernel_rfl
theorem mk_bytes (n : Nat) (h : n ≤ 4000) (w : World) : (Instr.makeSlice 98 (.int .i64 0) (.int .i64 (n : Int))).run Tryz.prog w = .ok (.slice (some ⟨w.heap.size, 0, none⟩) 0 n) (w.alloc (.cells (madeCells #[.int .u8 0] n) 5)) := by
  obtain ⟨i, hi, hzz⟩ := Option.map_eq_some_iff.1 byte_info
  simp only [Prod.mk.injEq] at hzz
  obtain ⟨hz, hs, hb⟩ := hzz
  have hr := run_make (P := Tryz.prog) w 98 5 i (.int .u8 0) Tryz.underlying98 hi hz .i64 .i64 0 (n : Int) (Int.le_refl _) (by omega) (by rw [hb]; omega) (by omega)
  simp only [Int.toNat_natCast, hs, Nat.mul_one] at hr
  exact hr
/-- The signs' bytes, as numbers; as cells. -/
def nums (zs : List Int) : List Int := zs.flatMap encodeRuneZ
def enc (zs : List Int) : List Value := (nums zs).map (Value.int .u8)
def txt (zs : List Int) : ByteArray := strOfNums (nums zs)
theorem enc_snoc (l : List Int) (x : Int) : enc (l ++ [x]) = enc l ++ runeCells x := by simp [enc, nums, runeCells]
theorem nums_len (zs : List Int) : (nums zs).length ≤ 4 * zs.length := by
  unfold nums
  induction zs with
  | nil => simp
  | cons x zs ih => have := (encodeRuneZ_length x).2; simp only [List.flatMap_cons, List.length_append, List.length_cons]; omega
theorem valid_range {x : Int} (h : validRune x = true) : 0 ≤ x ∧ x ≤ 1114111 := by
  unfold validRune at h
  simp at h
  omega
theorem below_grown {B : Nat} {w wr w' : World} {e : TypeId} {v : Value} {n : Nat} {xs : List Value} {o : Obj} (hb : Below B w wr) (hB : B ≤ wr.heap.size) (ho : wr.ownsRow B e 1 v n xs) (hg : (wr.alloc o).grownBy w' v.ownBlock) : Below B w w' := by
  have h1 : Below B w (wr.alloc o) := hb.alloc hB _
  refine ⟨hg.os.trans h1.os, hg.tape.trans h1.tape, hg.output.trans h1.output, Nat.le_trans h1.size hg.size, fun i hi => ?_⟩
  rw [hg.block i (by simp; omega) (fun e => by have := ho.lt i e.symm; omega)]
  exact h1.block i hi
theorem conv_row (wr : World) (B : Nat) (v : Value) (ns : List Int) (h : wr.ownsRow B 5 1 v ns.length (ns.map (Value.int .u8))) : (convert 98 9 v).run Tryz.prog wr = .ok (.string (strOfNums ns)) wr := by
  obtain ⟨hl, h | ⟨g, cap, cur, rfl, hb, hg, hc, hm, hs, ht⟩⟩ := h
  · obtain ⟨rfl, h0⟩ := h
    have : ns = [] := List.length_eq_zero_iff.1 h0
    subst this
    exact run_convert_bytes_nil wr 98 5 Tryz.underlying98 Tryz.underlying5 0 0 9 Tryz.underlying9
  · refine run_convert_bytes_arg wr 98 5 Tryz.underlying98 Tryz.underlying5 g 0 ns.length cap ns rfl (fun i hi => ?_) 9 Tryz.underlying9
    have hi2 : i < cur.size := by omega
    have : cur.toList[i]? = some (.int .u8 (ns.getD i 0)) := by
      have h1 := congrArg (·[i]?) ht
      simp only [Nat.mul_one] at h1
      rw [List.getElem?_take_of_lt hi] at h1
      rw [h1]
      simp [List.getElem?_eq_getElem hi, List.getD]
    rw [Array.getElem?_toList] at this
    rw [Nat.zero_add]
    simp [World.cell?, hg, this]
set_option maxRecDepth 100000 in
theorem text_any (a : Addr) (len cap : Nat) (zs : List Int) (w : World) (hlen : zs.length = len) (hlc : len ≤ cap) (hcap : cap ≤ maxLen) (hsm : len ≤ 4000)
    (hcells : ∀ i, i < len → w.cell? (a.add i) = some (.int .i32 (zs.getD i 0))) :
    Calls Tryz.prog 73 #[.slice (some a) len cap] w fun e w' => e = .returned (.tuple #[.string (if zs.all validRune then txt zs else ⟨#[]⟩), .bool (zs.all validRune)]) ∧ Below w.heap.size w w' := by
  obtain ⟨O, hO⟩ : ∃ O, O = zs.all validRune := ⟨_, rfl⟩
  rw [← hO]
  have HO := Lib.hid hO
  have HL := Lib.hid hlen; have HC := Lib.hid hcells
  have hmk := mk_bytes len hsm
  clear hlen hcells hO
  unfold maxLen at hcap
  go_enter Tryz.func73, Tryz.ntmps73
  go_wp2_with fail
  go_loopw [4, 12] (fun v i wr => ∃ j : Nat, j ≤ len ∧ i = .int .i64 j ∧ (zs.take j).all validRune = true ∧ wr.ownsRow w.heap.size 5 1 v (nums (zs.take j)).length (enc (zs.take j)) ∧ Below w.heap.size w wr) (fun _ i _ => len - (RowKit.intOf i).toNat)
  case atStart => exact ⟨0, Nat.zero_le _, rfl, by simp, World.ownsRow_made w _ len (Nat.le_refl _) (by unfold maxLen; omega) (by simp [madeCells]), (Below.refl _ _).alloc (Nat.le_refl _) _⟩
  case round =>
    obtain ⟨j, hj, rfl, hv, hown, hB⟩ := hrel
    have HV := Lib.hid hv; have HOW := Lib.hid hown; have HB := Lib.hid hB
    clear hv hown hB
    by_cases hlt : j < len
    · have hjl : j < zs.length := by have := HL.out; omega
      have hc0 := HC.out j hlt
      have hc : wr.cell? (a.add j) = some (.int .i32 (zs.getD j 0)) := by
        rw [HB.out.cell (World.block_lt_of_cell? w _ hc0)]; exact hc0
      have htk : Hid (zs.take (j + 1) = zs.take j ++ [zs.getD j 0]) := Lib.hid (by rw [List.take_add_one, List.getElem?_eq_getElem hjl]; simp [List.getD, List.getElem?_eq_getElem hjl])
      have hmem : zs.getD j 0 ∈ zs := by simp [List.getD, List.getElem?_eq_getElem hjl]
      have HM := Lib.hid hmem
      generalize zs.getD j 0 = x at hc htk HM
      clear hc0 hmem hjl
      cases hx : validRune x with
      | false =>
        have hsc := scalar_any x
        rw [hx] at hsc
        have HSC := Lib.hid hsc
        have hOf : O = false := by
          rw [HO.out, Bool.eq_false_iff]
          intro h
          have := List.all_eq_true.1 h x HM.out
          rw [hx] at this; cases this
        subst hOf
        clear hsc hx
        go_wp2_with (go_at_call 119; refine (HSC.out _).mono ?_; rintro e1 w1 ⟨rfl, rfl⟩)
        go_ret2
        exact ⟨rfl, HB.out⟩
      | true =>
        have hsc := scalar_any x
        rw [hx] at hsc
        have HSC := Lib.hid hsc
        have HX := Lib.hid hx
        have hap : Hid (∀ w2, w2 = wr → Calls Tryz.prog 120 #[u4, .int .i32 x] w2 fun e w' => ∃ v', e = .returned v' ∧ w'.ownsRow w.heap.size 5 1 v' (nums (zs.take (j + 1))).length (enc (zs.take (j + 1))) ∧ Below w.heap.size w w') := Lib.hid (by
          rintro w2 rfl
          have hr := valid_range HX.out
          have hn := nums_len (zs.take j)
          have hn2 : (zs.take j).length ≤ j := by rw [List.length_take]; omega
          refine (Tryz.utf8_AppendRune_plain w.heap.size _ _ _ x (by omega) (by omega) _ HOW.out (by omega) HB.out.size).mono ?_
          rintro e w' ⟨v', rfl, ho, o, hg⟩
          refine ⟨v', rfl, ?_, below_grown HB.out HB.out.size HOW.out hg⟩
          rw [htk.out, enc_snoc]
          have e1 : (nums (zs.take j ++ [x])).length = (nums (zs.take j)).length + (runeCells x).length := by simp [nums, runeCells]
          rw [e1]
          exact ho)
        clear hsc hx
        go_wp2_with (first | (go_at_call 119; refine (HSC.out _).mono ?_; rintro e1 w1 ⟨rfl, rfl⟩) | (go_at_call 120; refine (hap.out _ rfl).mono ?_; rintro e2 w2 ⟨v2, rfl, ho2, hb2⟩; have HO2 := Lib.hid ho2; clear ho2))
        go_roundw
        case rel => exact ⟨j + 1, by omega, by go_num, by rw [htk.out, List.all_append, HV.out]; simp [HX.out], HO2.out, hb2⟩
        case measure => simp [RowKit.intOf]; omega
    · obtain rfl : j = len := by omega
      clear hlt
      have htk : zs.take j = zs := by rw [← HL.out]; exact List.take_length
      rw [htk] at HV HOW
      have hOt : O = true := HO.out.trans HV.out
      subst hOt
      have hcv := conv_row wr w.heap.size _ (nums zs) HOW.out
      have et : strOfNums (nums zs) = txt zs := rfl
      rw [et] at hcv
      obtain ⟨T, hT⟩ : ∃ T, T = txt zs := ⟨_, rfl⟩
      rw [← hT] at hcv
      have HT := Lib.hid hT
      clear et htk hT
      go_wp2
      go_ret2
      exact ⟨by rw [HT.out]; rfl, HB.out⟩
end Go.Proofs.YtiigknimfibdpaaGreatDoor.pt
namespace Go.Proofs.YtiigknimfibdpaaGreatDoor.pt
open Go.RowKit Go.Lib
set_option linter.unusedVariables false
theorem ret_bool {a b : Bool} (h : a = b) : Ending.returned (.bool a) = .returned (.bool b) := by rw [h]
theorem bad_any (w : World) (e at' : Int) : Calls Tryz.prog 24 #[.agg #[.int .i64 e, .int .i64 at']] w fun x w' => x = .returned (.bool (e != 0)) ∧ Below w.heap.size w w' := by
  go_enter Tryz.func24, Tryz.ntmps24
  go_wp2
  go_ret
  exact ⟨rfl, (Below.refl _ _).alloc (Nat.le_refl _) _⟩
theorem sc_valid (s : ByteArray) : ∀ f pos, s.size ≤ pos + f → validD (s.data.toList.drop pos) = (sc s f pos).2.isNone
  | 0, pos, h => by
    have : s.data.toList.drop pos = [] := List.drop_eq_nil_of_le (by rw [Array.length_toList]; exact h)
    rw [this]; rfl
  | f + 1, pos, h => by
    by_cases hp : pos < s.size
    · have hne : s.data.toList.drop pos ≠ [] := by
        intro h0
        have := congrArg List.length h0
        rw [List.length_drop, Array.length_toList] at this
        have e : s.data.size = s.size := rfl
        simp at this; omega
      rw [validD_step _ hne, decodeL_drop]
      cases hb : bad s pos with
      | true =>
        rw [sc_bad s (f + 1) pos hp h hb]
        unfold bad at hb
        rw [if_pos (by simpa using hb)]; rfl
      | false =>
        rw [sc_good s f pos hp hb]
        unfold bad at hb
        rw [if_neg (by simpa using hb), List.drop_drop]
        have := width_pos s pos
        exact sc_valid s f (pos + (Utf8.decode s pos).2) (by omega)
    · have : s.data.toList.drop pos = [] := List.drop_eq_nil_of_le (by rw [Array.length_toList]; have e : s.data.size = s.size := rfl; omega)
      rw [this, sc_end s (f + 1) pos hp]; rfl
theorem sc_count (s : ByteArray) : ∀ f pos, (sc s f pos).2 = none → runeCountFrom s f pos = (sc s f pos).1.length
  | 0, pos, _ => rfl
  | f + 1, pos, h => by
    by_cases hp : pos < s.size
    · cases hb : bad s pos with
      | true => simp [sc, hp, hb] at h
      | false =>
        rw [sc_good s f pos hp hb] at h ⊢
        have ih := sc_count s f (pos + (Utf8.decode s pos).2) h
        simp only [runeCountFrom, if_pos hp, List.length_cons, ih]
        omega
    · rw [sc_end s (f + 1) pos hp]
      simp [runeCountFrom, hp]
theorem sc_len (s : ByteArray) : ∀ f pos, (sc s f pos).1.length ≤ f
  | 0, pos => by simp [sc]
  | f + 1, pos => by
    by_cases hp : pos < s.size
    · cases hb : bad s pos with
      | true => simp [sc, hp, hb]
      | false => rw [sc_good s f pos hp hb]; simp only [List.length_cons]; have := sc_len s f (pos + (Utf8.decode s pos).2); omega
    · rw [sc_end s (f + 1) pos hp]; simp
theorem scan_valid (s : ByteArray) : validD s.data.toList = (scan s).2.isNone := by
  have := sc_valid s s.size 0 (by omega)
  rwa [List.drop_zero] at this
theorem valid_any (s : ByteArray) (w : World) (hs : s.size ≤ 4000000000) (hT : Tabs w) : Calls Tryz.prog 31 #[.string s] w fun x w' => x = .returned (.bool (scan s).2.isNone) ∧ Below w.heap.size w w' := by
  have hc := Tryz.utf8_ValidString s w (by omega) hT
  rw [scan_valid] at hc
  generalize (scan s).2.isNone = V at hc ⊢
  have HC := Lib.hid hc
  clear hc
  go_enter Tryz.func31, Tryz.ntmps31
  go_wp2_with (go_at_call 50; refine HC.out.mono ?_; rintro e1 w1 ⟨rfl, hb1⟩)
  go_ret
  exact ⟨rfl, hb1⟩
theorem count_any (s : ByteArray) (w : World) (hs : s.size ≤ 4000000000) (hT : Tabs w) : Calls Tryz.prog 190 #[.string s] w fun x w' => x = .returned (.int .i64 (if (scan s).2.isNone then ((scan s).1.length : Int) else 0)) ∧ Below w.heap.size w w' := by
  have hv := valid_any s w hs hT
  have hrc : ∀ w2, Calls Tryz.prog 209 #[.string s] w2 fun e w' => e = .returned (.int .i64 (runeCount s)) ∧ Below w2.heap.size w2 w' := fun w2 => (Tryz.utf8_RuneCountInString s w2 (by omega)).mono fun e w' ⟨h1, pos, h2⟩ => ⟨h1, by subst h2; exact (Below.refl _ _).alloc (Nat.le_refl _) _⟩
  have hcn : (scan s).2.isNone = true → runeCount s = (scan s).1.length := fun h => sc_count s s.size 0 (Option.isNone_iff_eq_none.1 h)
  generalize runeCount s = N at hrc hcn
  generalize (scan s).1.length = M at hcn ⊢
  generalize (scan s).2.isNone = V at hv hcn ⊢
  cases V with
  | true =>
    have := hcn rfl
    subst this
    have HV := Lib.hid hv; have HR := Lib.hid hrc
    clear hv hrc hcn
    go_enter Tryz.func190, Tryz.ntmps190
    go_wp2_with (first | (go_at_call 31; refine HV.out.mono ?_; rintro e1 w1 ⟨rfl, hb1⟩) | (go_at_call 209; refine (HR.out _).mono ?_; rintro e2 w2 ⟨rfl, hb2⟩))
    go_ret
    exact ⟨rfl, hb1.trans (hb2.mono hb1.size)⟩
  | false =>
    have HV := Lib.hid hv
    clear hv hrc hcn
    go_enter Tryz.func190, Tryz.ntmps190
    go_wp2_with (go_at_call 31; refine HV.out.mono ?_; rintro e1 w1 ⟨rfl, hb1⟩)
    go_ret
    exact ⟨rfl, hb1⟩
theorem refScalar_any (r : Int) (w : World) : Calls Tryz.prog 80 #[.int .i32 r] w fun x w' => x = .returned (.bool (validRune r)) ∧ w = w' := by
  go_enter Tryz.func80, Tryz.ntmps80
  go_wp2
  all_goals
    go_ret
    refine ⟨ret_bool ?_, rfl⟩
    unfold validRune
    rw [Bool.eq_iff_iff]
    simp
    try omega
end Go.Proofs.YtiigknimfibdpaaGreatDoor.pt
namespace Go.Proofs.YtiigknimfibdpaaGreatDoor.pt
open Go.RowKit Go.Lib
set_option linter.unusedVariables false
theorem conv_nums (w : World) (ns : List Int) (n : Nat) (cs : Array Value) (hn : ns.length = n) (h4 : n ≤ 4) (hc : cs = (ns.map (Value.int .u8)).toArray) : (convert 98 9 (.slice (some ⟨w.heap.size, 0, none⟩) n n)).run Tryz.prog (w.alloc (.cells cs 5)) = .ok (.string (strOfNums ns)) (w.alloc (.cells cs 5)) := by
  subst hn hc
  refine conv_row _ w.heap.size _ ns ⟨by simp, .inr ⟨w.heap.size, ns.length, _, rfl, Nat.le_refl _, heap_alloc_new w _, Nat.le_refl _, ?_, ?_, ?_⟩⟩
  · unfold maxLen; omega
  · simp
  · rw [Nat.mul_one]
    exact List.take_of_length_le (by rw [List.length_map]; exact Nat.le_refl _)
theorem points_bad (s : ByteArray) (A : Nat) (w : World) (hs : s.size ≤ 4000000000) (hT : Tabs w) (h : (scan s).2 = some A) : Calls Tryz.prog 93 #[.string s] w fun e w' => e = .returned (.tuple #[.slice none 0 0, .agg #[.int .i64 2, .int .i64 A]]) ∧ Below w.heap.size w w' := by
  have hc := fun w2 hT2 => check_any s w2 hs hT2
  rw [h] at hc
  simp only [fe, fa] at hc
  have HC := Lib.hid hc; have HT := Lib.hid hT
  clear hc h hT
  go_enter Tryz.func93, Tryz.ntmps93
  go_wp2_with (first | (go_at_call 69; refine (HC.out _ (HT.out.below (by repeat (first | (with_reducible exact Below.refl _ _) | (with_reducible refine Below.setCell ?_ (by simp) _) | (with_reducible refine Below.alloc ?_ (by simp) _))))).mono ?_; rintro e1 w1 ⟨rfl, hb1⟩; have q0 : w.heap.size < w1.heap.size := (by have := hb1.size; simp at this; omega); have FB := Lib.hid ((f2_new w 0 0 54).below hb1 (by simp)); obtain ⟨_, c0, c1, f0, f1⟩ := FB.out) | (go_at_call 24; refine (bad_any _ _ _).mono ?_; rintro e2 w2 ⟨rfl, hb2⟩; obtain ⟨_, a0, a1, g0, g1⟩ := (f2_new w1 2 A 54).below hb2 (by simp); obtain ⟨_, b0, b1, h0, h1⟩ := (FB.out.below ((Below.refl w1.heap.size w1).alloc (Nat.le_refl _) (.cells #[.int .i64 2, .int .i64 A] 54)) q0).below hb2 (by simp; omega); clear FB c0 c1 f0 f1))
  have n0 : ¬ w.heap.size = w1.heap.size := by omega
  have n1 : ¬ w1.heap.size = w.heap.size := by omega
  go_region_held3 (fun w' => w'.cell? ⟨w1.heap.size, 0, none⟩ = some (.int .i64 2) ∧ w'.cell? ⟨w1.heap.size, 1, none⟩ = some (.int .i64 A)) (go_keep) (fail)
  all_goals go_wp2_with fail
  all_goals
    have HB1 : Below w.heap.size w w1 := ((Below.refl w.heap.size w).alloc (Nat.le_refl _) _).trans (hb1.mono (by simp))
    have HB2 : Below w.heap.size w w2 := (HB1.alloc (Nat.le_of_lt q0) _).trans (hb2.mono (by simp; omega))
    have m0 : ¬ (w.heap.size = w1.heap.size) := n0
    exact bodyPost_ret (v := .tuple #[.slice none 0 0, .agg #[.int .i64 2, .int .i64 A]]) (by simp [results, Tryz.results93, go_sem, b0, b1]) rfl ⟨rfl, by refine Below.drew ?_; repeat (first | (with_reducible exact HB2) | (with_reducible exact Below.refl _ _) | (with_reducible refine Below.setCell ?_ (by simp) _) | (with_reducible refine Below.alloc ?_ (by simp; omega) _))⟩
/-- A text's signs, as numbers. -/
def zsOf (s : ByteArray) : List Int := (scan s).1.map Int.ofNat
theorem runes_sc (s : ByteArray) : ∀ f pos acc, (sc s f pos).2 = none → Conv.runesFrom s f pos acc = acc ++ ((sc s f pos).1.map (fun x => Value.int .i32 (Int.ofNat x))).toArray
  | 0, pos, acc, _ => by simp [Conv.runesFrom, sc]
  | f + 1, pos, acc, h => by
    by_cases hp : pos < s.size
    · cases hb : bad s pos with
      | true => simp [sc, hp, hb] at h
      | false =>
        rw [sc_good s f pos hp hb] at h ⊢
        unfold Conv.runesFrom
        rw [if_pos hp]
        have ih := runes_sc s f (pos + (Utf8.decode s pos).2) (acc.push (.int .i32 (Int.ofNat (Utf8.decode s pos).1))) h
        simp only at ih ⊢
        rw [ih]
        simp
    · rw [sc_end s (f + 1) pos hp]
      unfold Conv.runesFrom
      simp [hp]
theorem runes_conv (s : ByteArray) (hs : s.size ≤ 4000000000) (h : (scan s).2 = none) : ∃ (CAP : World → Nat) (CS : World → Array Value), (∀ w2, (convert 9 58 (.string s)).run Tryz.prog w2 = .ok (.slice (some ⟨w2.heap.size, 0, none⟩) (zsOf s).length (CAP w2)) (w2.drew.alloc (.cells (CS w2) 21))) ∧ (∀ w2, (zsOf s).length ≤ CAP w2 ∧ CAP w2 ≤ maxLen) ∧ ∀ w2 i, i < (zsOf s).length → (CS w2)[i]? = some (.int .i32 ((zsOf s).getD i 0)) := by
  have e : Conv.runesFrom s s.size 0 #[] = ((zsOf s).map (Value.int .i32)).toArray := by
    rw [runes_sc s s.size 0 #[] h]
    simp [zsOf, scan, Function.comp_def]
  have hlen : (zsOf s).length ≤ s.size := by unfold zsOf; rw [List.length_map]; exact sc_len s s.size 0
  have hz : (Conv.runesFrom s s.size 0 #[]).size = (zsOf s).length := by rw [e]; simp
  refine ⟨fun w2 => grownCap w2 (zsOf s).length 0 21, fun w2 => Conv.runesFrom s s.size 0 #[] ++ Array.replicate (grownCap w2 (zsOf s).length 0 21 - (zsOf s).length) (.int .i32 0), fun w2 => ?_, fun w2 => ⟨grownCap_ge _ _ _ _, grownCap_le_maxLen _ _ _ _ (by unfold maxLen; omega)⟩, fun w2 i hi => ?_⟩
  · have := run_runes_of_string (P := Tryz.prog) w2 9 58 21 s Tryz.underlying9 Tryz.underlying58 Tryz.underlying21 (by rw [hz]; omega)
    rwa [hz] at this
  · rw [Array.getElem?_append_left (by rw [hz]; exact hi), e]
    simp [List.getElem?_eq_getElem hi, List.getD]
theorem points_good (s : ByteArray) (w : World) (hs : s.size ≤ 4000000000) (hT : Tabs w) (h : (scan s).2 = none) : Calls Tryz.prog 93 #[.string s] w fun e w' => ∃ g cap, e = .returned (.tuple #[.slice (some ⟨g, 0, none⟩) (zsOf s).length cap, .agg #[.int .i64 0, .int .i64 0]]) ∧ (zsOf s).length ≤ cap ∧ cap ≤ maxLen ∧ w.heap.size ≤ g ∧ g < w'.heap.size ∧ (∀ i, i < (zsOf s).length → w'.cell? ⟨g, i, none⟩ = some (.int .i32 ((zsOf s).getD i 0))) ∧ Below w.heap.size w w' := by
  obtain ⟨CAP, CS, hcv, hcap, hcs⟩ := runes_conv s hs h
  have hc := fun w2 hT2 => check_any s w2 hs hT2
  rw [h] at hc
  simp only [fe, fa] at hc
  have HC := Lib.hid hc; have HT := Lib.hid hT; have HCAP := Lib.hid hcap; have HCS := Lib.hid hcs
  generalize zsOf s = zs at *
  clear hc h hT hcap hcs
  go_enter Tryz.func93, Tryz.ntmps93
  go_wp2_with (first | (go_at_call 69; refine (HC.out _ (HT.out.below (by repeat (first | (with_reducible exact Below.refl _ _) | (with_reducible refine Below.setCell ?_ (by simp) _) | (with_reducible refine Below.alloc ?_ (by simp) _))))).mono ?_; rintro e1 w1 ⟨rfl, hb1⟩; have q0 : w.heap.size < w1.heap.size := (by have := hb1.size; simp at this; omega); have FB := Lib.hid ((f2_new w 0 0 54).below hb1 (by simp)); obtain ⟨_, c0, c1, f0, f1⟩ := FB.out) | (go_at_call 24; refine (bad_any _ _ _).mono ?_; rintro e2 w2 ⟨rfl, hb2⟩; have FC := Lib.hid ((FB.out.below ((Below.refl w1.heap.size w1).alloc (Nat.le_refl _) (.cells #[.int .i64 0, .int .i64 0] 54)) q0).below hb2 (by simp; omega)); obtain ⟨_, b0, b1, h0, h1⟩ := FC.out; have FD := Lib.hid ((FC.out.below ((Below.refl w2.heap.size w2).drew) FC.out.lt).below ((Below.refl w2.drew.heap.size w2.drew).alloc (Nat.le_refl _) (.cells (CS w2) 21)) FC.out.lt); obtain ⟨_, d0, d1, i0, i1⟩ := FD.out; clear FB c0 c1 f0 f1))
  have HB1 : Below w.heap.size w w1 := ((Below.refl w.heap.size w).alloc (Nat.le_refl _) _).trans (hb1.mono (by simp))
  have HB2 : Below w.heap.size w w2 := (HB1.alloc (Nat.le_of_lt q0) _).trans (hb2.mono (by simp; omega))
  have lt2 : w.heap.size < w2.heap.size := FC.out.lt
  have n0 : ¬ (w.heap.size = w2.heap.size) := by omega
  have hx : ∀ o, (((w2.setCell ⟨w.heap.size, 0, none⟩ (.int .i64 0)).setCell ⟨w.heap.size, 1, none⟩ (.int .i64 0)).alloc (.cells (CS w2) 21)).cell? ⟨w.heap.size, o, none⟩ = ((w2.setCell ⟨w.heap.size, 0, none⟩ (.int .i64 0)).setCell ⟨w.heap.size, 1, none⟩ (.int .i64 0)).cell? ⟨w.heap.size, o, none⟩ := fun o => ((Below.refl _ _).alloc (Nat.le_refl _) _).cell (p := ⟨w.heap.size, o, none⟩) (by simp; omega)
  refine bodyPost_ret (v := .tuple #[.slice (some ⟨w2.heap.size, 0, none⟩) zs.length (CAP w2), .agg #[.int .i64 0, .int .i64 0]]) (by simp [results, Tryz.results93, go_sem, hx, b0, b1]) rfl ⟨w2.heap.size, CAP w2, rfl, (HCAP.out w2).1, (HCAP.out w2).2, Nat.le_of_lt lt2, by simp, fun i hi => ?_, by refine Below.drew ?_; repeat (first | (with_reducible exact HB2) | (with_reducible exact Below.refl _ _) | (with_reducible refine Below.setCell ?_ (by simp) _) | (with_reducible refine Below.alloc ?_ (by simp; omega) _))⟩
  generalize hX : (w2.setCell ⟨w.heap.size, 0, none⟩ (.int .i64 0)).setCell ⟨w.heap.size, 1, none⟩ (.int .i64 0) = X
  have e : w2.heap.size = X.heap.size := by rw [← hX]; simp
  show (X.alloc (.cells (CS w2) 21)).cell? ⟨w2.heap.size, i, none⟩ = _
  rw [e, World.cell?_alloc_mark]
  exact HCS.out w2 i hi
set_option maxRecDepth 100000 in
theorem more_any (s : ByteArray) (i : Nat) (w : World) (hs : s.size ≤ 4000000000) : Calls Tryz.prog 79 #[.string s, .int .i64 i] w fun x w' => x = .returned (.int .i32 (if h : i < s.size then (if 128 ≤ s[i].toNat ∧ s[i].toNat ≤ 191 then (s[i].toNat : Int) - 128 else -1) else -1)) ∧ w = w' := by
  by_cases h : i < s.size
  · rw [dif_pos h]
    go_enter Tryz.func79, Tryz.ntmps79
    go_wp2
    all_goals
      go_ret
      refine ⟨ret_int ?_, rfl⟩
      try rw [if_pos (by omega)]
      try rw [if_neg (by omega)]
      simp
  · rw [dif_neg h]
    go_enter Tryz.func79, Tryz.ntmps79
    go_wp2
    go_ret
    exact ⟨rfl, rfl⟩
set_option maxRecDepth 100000 in
theorem bytes_one (p : Int) (w : World) (h0 : 0 ≤ p) (h1 : p < 128) : Calls Tryz.prog 54 #[.int .i32 p] w fun x w' => x = .returned (.string (strOfNums (encodeRuneZ p))) ∧ Below w.heap.size w w' := by
  rw [encodeRuneZ_one h0 (by omega)]
  have hcv := conv_nums w [p] 1 #[.int .u8 p] rfl (by decide) rfl
  go_enter Tryz.func54, Tryz.ntmps54
  go_wp2
  go_ret
  exact ⟨rfl, by repeat (first | (with_reducible exact Below.refl _ _) | (with_reducible refine Below.setCell ?_ (by simp) _) | (with_reducible refine Below.alloc ?_ (by simp) _))⟩
set_option maxRecDepth 100000 in
theorem bytes_two (p : Int) (w : World) (h0 : 128 ≤ p) (h1 : p ≤ 2047) : Calls Tryz.prog 54 #[.int .i32 p] w fun x w' => x = .returned (.string (strOfNums (encodeRuneZ p))) ∧ Below w.heap.size w w' := by
  rw [encodeRuneZ_two h0 h1]
  have hcv := conv_nums w [192 + p / 64, 128 + p % 64] 2 #[.int .u8 (192 + p / 64), .int .u8 (128 + p % 64)] rfl (by decide) rfl
  go_enter Tryz.func54, Tryz.ntmps54
  go_wp2
  go_ret
  exact ⟨rfl, by repeat (first | (with_reducible exact Below.refl _ _) | (with_reducible refine Below.setCell ?_ (by simp) _) | (with_reducible refine Below.alloc ?_ (by simp) _))⟩
set_option maxRecDepth 100000 in
theorem bytes_three (p : Int) (w : World) (h : (2048 ≤ p ∧ p < 55296) ∨ (57343 < p ∧ p ≤ 65535)) : Calls Tryz.prog 54 #[.int .i32 p] w fun x w' => x = .returned (.string (strOfNums (encodeRuneZ p))) ∧ Below w.heap.size w w' := by
  rw [encodeRuneZ_three h]
  have h0 : 2048 ≤ p := by omega
  have h1 : p < 65536 := by omega
  have hcv := conv_nums w [224 + p / 4096, 128 + p / 64 % 64, 128 + p % 64] 3 #[.int .u8 (224 + p / 4096), .int .u8 (128 + p / 64 % 64), .int .u8 (128 + p % 64)] rfl (by decide) rfl
  clear h
  go_enter Tryz.func54, Tryz.ntmps54
  go_wp2
  go_ret
  exact ⟨rfl, by repeat (first | (with_reducible exact Below.refl _ _) | (with_reducible refine Below.setCell ?_ (by simp) _) | (with_reducible refine Below.alloc ?_ (by simp) _))⟩
set_option maxRecDepth 100000 in
theorem bytes_four (p : Int) (w : World) (h0 : 65536 ≤ p) (h1 : p ≤ 1114111) : Calls Tryz.prog 54 #[.int .i32 p] w fun x w' => x = .returned (.string (strOfNums (encodeRuneZ p))) ∧ Below w.heap.size w w' := by
  rw [encodeRuneZ_four h0 h1]
  have hcv := conv_nums w [240 + p / 262144, 128 + p / 4096 % 64, 128 + p / 64 % 64, 128 + p % 64] 4 #[.int .u8 (240 + p / 262144), .int .u8 (128 + p / 4096 % 64), .int .u8 (128 + p / 64 % 64), .int .u8 (128 + p % 64)] rfl (by decide) rfl
  go_enter Tryz.func54, Tryz.ntmps54
  go_wp2
  go_ret
  exact ⟨rfl, by repeat (first | (with_reducible exact Below.refl _ _) | (with_reducible refine Below.setCell ?_ (by simp) _) | (with_reducible refine Below.alloc ?_ (by simp) _))⟩
theorem bytes_any (p : Int) (w : World) (h : validRune p = true) : Calls Tryz.prog 54 #[.int .i32 p] w fun x w' => x = .returned (.string (strOfNums (encodeRuneZ p))) ∧ Below w.heap.size w w' := by
  have : (0 ≤ p ∧ p < 55296) ∨ (57343 < p ∧ p ≤ 1114111) := by unfold validRune at h; simpa using h
  by_cases h1 : p < 128
  · exact bytes_one p w (by omega) h1
  · by_cases h2 : p ≤ 2047
    · exact bytes_two p w (by omega) h2
    · by_cases h3 : p ≤ 65535
      · exact bytes_three p w (by omega)
      · exact bytes_four p w (by omega) (by omega)
end Go.Proofs.YtiigknimfibdpaaGreatDoor.pt
namespace Go.Proofs.YtiigknimfibdpaaGreatDoor.pt
open Go.RowKit Go.Lib
set_option linter.unusedVariables false
theorem scan_example : (scan ⟨#[97, 195, 97]⟩).2 = some 1 := by decide +kernel
theorem txt_example : txt [233] = ⟨#[195, 169]⟩ := by decide +kernel
theorem text_one (p : Int) (V : Bool) (w : World) (b : Nat) (hb : b < w.heap.size) (hc : w.cell? ⟨b, 0, none⟩ = some (.int .i32 p)) (hV : V = validRune p) : Calls Tryz.prog 73 #[.slice (some ⟨b, 0, none⟩) 1 1] w fun e w' => e = .returned (.tuple #[.string (if V then txt [p] else ⟨#[]⟩), .bool V]) ∧ Below w.heap.size w w' := by
  have h := text_any ⟨b, 0, none⟩ 1 1 [p] w rfl (Nat.le_refl _) (by decide) (by decide) (fun i hi => by
    obtain rfl : i = 0 := by omega
    have e : (⟨b, 0, none⟩ : Addr).add 0 = ⟨b, 0, none⟩ := by simp [Addr.add]
    rw [e]; exact hc)
  have e : [p].all validRune = V := by rw [hV]; simp
  rwa [e] at h
set_option maxRecDepth 100000 in
theorem Awake_any (w : World) (hT : Tabs w) : Calls Tryz.prog 60 #[] w fun e w' => e = .returned (.bool true) ∧ Below w.heap.size w w' := by
  have hp := fun w2 hT2 => points_bad ⟨#[97, 195, 97]⟩ 1 w2 (by decide) hT2 scan_example
  have ht := fun w2 b hb hc => text_one 233 true w2 b hb hc (by decide)
  rw [if_pos rfl, txt_example] at ht
  have HP := Lib.hid hp; have HTX := Lib.hid ht; have HT := Lib.hid hT
  clear hp ht hT
  go_enter Tryz.func60, Tryz.ntmps60
  go_wp2_with (first | (go_at_call 73; refine (HTX.out _ _ (by simp) (by rw [World.cell?_alloc_mark]; rfl)).mono ?_; rintro e1 w1 ⟨rfl, hb1⟩; have B1 := Lib.hid (((Below.refl w.heap.size w).alloc (Nat.le_refl _) _).trans (hb1.mono (by simp)))) | (go_at_call 93; refine (HP.out _ (HT.out.below B1.out)).mono ?_; rintro e2 w2 ⟨rfl, hb2⟩))
  go_ret
  have B2 := B1.out.trans (hb2.mono B1.out.size)
  exact ⟨rfl, B2.alloc B2.size _⟩
end Go.Proofs.YtiigknimfibdpaaGreatDoor.pt
