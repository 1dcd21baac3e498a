/- Text of layer 2: a contract. -/
import Derived.Test.YtiokdeomdeenbaaDoorPt1
import Derived.Laws.MakeOwn
namespace Go.Proofs.YtiokdeomdeenbaaDoor.pt
open Go.RowKit Go.Lib
set_option linter.unusedVariables false
theorem byte_info : (Tryd.prog.info? 5).map (fun i => (i.zero, i.size, i.bytes)) = some (some (.int .u8 0), 1, 1) := by kernel_rfl
theorem mk_bytes (n : Nat) (h : n ≤ 4000) (w : World) : (Instr.makeSlice 101 (.int .i64 0) (.int .i64 (n : Int))).run Tryd.prog w = .ok (.slice (some ⟨w.heap.size, 0, none⟩) 0 n) (w.alloc (.cells (madeCells #[.int .u8 0] n) 5)) := by
  obtain ⟨i, hi, hzz⟩ := Option.map_eq_some_iff.1 byte_info
  simp only [Prod.mk.injEq] at hzz
  obtain ⟨hz, hs, hb⟩ := hzz
  have hr := run_make (P := Tryd.prog) w 101 5 i (.int .u8 0) Tryd.underlying101 hi hz .i64 .i64 0 (n : Int) (Int.le_refl _) (by omega) (by rw [hb]; omega) (by omega)
  simp only [Int.toNat_natCast, hs, Nat.mul_one] at hr
  exact hr
/-- The signs' bytes, as numbers; as cells. -/
def nums (zs : List Int) : List Int := zs.flatMap encodeRuneZ
def enc (zs : List Int) : List Value := (nums zs).map (Value.int .u8)
def txt (zs : List Int) : ByteArray := strOfNums (nums zs)
theorem enc_snoc (l : List Int) (x : Int) : enc (l ++ [x]) = enc l ++ runeCells x := by simp [enc, nums, runeCells]
theorem nums_len (zs : List Int) : (nums zs).length ≤ 4 * zs.length := by
  unfold nums
  induction zs with
  | nil => simp
  | cons x zs ih => have := (encodeRuneZ_length x).2; simp only [List.flatMap_cons, List.length_append, List.length_cons]; omega
theorem valid_range {x : Int} (h : validRune x = true) : 0 ≤ x ∧ x ≤ 1114111 := by
  unfold validRune at h
  simp at h
  omega
theorem below_grown {B : Nat} {w wr w' : World} {e : TypeId} {v : Value} {n : Nat} {xs : List Value} {o : Obj} (hb : Below B w wr) (hB : B ≤ wr.heap.size) (ho : wr.ownsRow B e 1 v n xs) (hg : (wr.alloc o).grownBy w' v.ownBlock) : Below B w w' := by
  have h1 : Below B w (wr.alloc o) := hb.alloc hB _
  refine ⟨hg.os.trans h1.os, hg.tape.trans h1.tape, hg.output.trans h1.output, Nat.le_trans h1.size hg.size, fun i hi => ?_⟩
  rw [hg.block i (by simp; omega) (fun e => by have := ho.lt i e.symm; omega)]
  exact h1.block i hi
theorem conv_row (wr : World) (B : Nat) (v : Value) (ns : List Int) (h : wr.ownsRow B 5 1 v ns.length (ns.map (Value.int .u8))) : (convert 101 9 v).run Tryd.prog wr = .ok (.string (strOfNums ns)) wr := by
  obtain ⟨hl, h | ⟨g, cap, cur, rfl, hb, hg, hc, hm, hs, ht⟩⟩ := h
  · obtain ⟨rfl, h0⟩ := h
    have : ns = [] := List.length_eq_zero_iff.1 h0
    subst this
    exact run_convert_bytes_nil wr 101 5 Tryd.underlying101 Tryd.underlying5 0 0 9 Tryd.underlying9
  · refine run_convert_bytes_arg wr 101 5 Tryd.underlying101 Tryd.underlying5 g 0 ns.length cap ns rfl (fun i hi => ?_) 9 Tryd.underlying9
    have hi2 : i < cur.size := by omega
    have : cur.toList[i]? = some (.int .u8 (ns.getD i 0)) := by
      have h1 := congrArg (·[i]?) ht
      simp only [Nat.mul_one] at h1
      rw [List.getElem?_take_of_lt hi] at h1
      rw [h1]
      simp [List.getElem?_eq_getElem hi, List.getD]
    rw [Array.getElem?_toList] at this
    rw [Nat.zero_add]
    simp [World.cell?, hg, this]
set_option maxRecDepth 100000 in
theorem text_any (a : Addr) (len cap : Nat) (zs : List Int) (w : World) (hlen : zs.length = len) (hlc : len ≤ cap) (hcap : cap ≤ maxLen) (hsm : len ≤ 4000)
    (hcells : ∀ i, i < len → w.cell? (a.add i) = some (.int .i32 (zs.getD i 0))) :
    Calls Tryd.prog 55 #[.slice (some a) len cap] w fun e w' => e = .returned (.tuple #[.string (if zs.all validRune then txt zs else ⟨#[]⟩), .bool (zs.all validRune)]) ∧ Below w.heap.size w w' := by
  obtain ⟨O, hO⟩ : ∃ O, O = zs.all validRune := ⟨_, rfl⟩
  rw [← hO]
  have HO := Lib.hid hO
  have HL := Lib.hid hlen; have HC := Lib.hid hcells
  have hmk := mk_bytes len hsm
  clear hlen hcells hO
  unfold maxLen at hcap
  go_enter Tryd.func55, Tryd.ntmps55
  go_wp2_with fail
  go_loopw [4, 12] (fun v i wr => ∃ j : Nat, j ≤ len ∧ i = .int .i64 j ∧ (zs.take j).all validRune = true ∧ wr.ownsRow w.heap.size 5 1 v (nums (zs.take j)).length (enc (zs.take j)) ∧ Below w.heap.size w wr) (fun _ i _ => len - (RowKit.intOf i).toNat)
  case atStart => exact ⟨0, Nat.zero_le _, rfl, by simp, World.ownsRow_made w _ len (Nat.le_refl _) (by unfold maxLen; omega) (by simp [madeCells]), (Below.refl _ _).alloc (Nat.le_refl _) _⟩
  case round =>
    obtain ⟨j, hj, rfl, hv, hown, hB⟩ := hrel
    have HV := Lib.hid hv; have HOW := Lib.hid hown; have HB := Lib.hid hB
    clear hv hown hB
    by_cases hlt : j < len
    · have hjl : j < zs.length := by have := HL.out; omega
      have hc0 := HC.out j hlt
      have hc : wr.cell? (a.add j) = some (.int .i32 (zs.getD j 0)) := by
        rw [HB.out.cell (World.block_lt_of_cell? w _ hc0)]; exact hc0
      have htk : Hid (zs.take (j + 1) = zs.take j ++ [zs.getD j 0]) := Lib.hid (by rw [List.take_add_one, List.getElem?_eq_getElem hjl]; simp [List.getD, List.getElem?_eq_getElem hjl])
      have hmem : zs.getD j 0 ∈ zs := by simp [List.getD, List.getElem?_eq_getElem hjl]
      have HM := Lib.hid hmem
      generalize zs.getD j 0 = x at hc htk HM
      clear hc0 hmem hjl
      cases hx : validRune x with
      | false =>
        have hsc := scalar_any x
        rw [hx] at hsc
        have HSC := Lib.hid hsc
        have hOf : O = false := by
          rw [HO.out, Bool.eq_false_iff]
          intro h
          have := List.all_eq_true.1 h x HM.out
          rw [hx] at this; cases this
        subst hOf
        clear hsc hx
        go_wp2_with (go_at_call 79; refine (HSC.out _).mono ?_; rintro e1 w1 ⟨rfl, rfl⟩)
        go_ret2
        exact ⟨rfl, HB.out⟩
      | true =>
        have hsc := scalar_any x
        rw [hx] at hsc
        have HSC := Lib.hid hsc
        have HX := Lib.hid hx
        have hap : Hid (∀ w2, w2 = wr → Calls Tryd.prog 80 #[u4, .int .i32 x] w2 fun e w' => ∃ v', e = .returned v' ∧ w'.ownsRow w.heap.size 5 1 v' (nums (zs.take (j + 1))).length (enc (zs.take (j + 1))) ∧ Below w.heap.size w w') := Lib.hid (by
          rintro w2 rfl
          have hr := valid_range HX.out
          have hn := nums_len (zs.take j)
          have hn2 : (zs.take j).length ≤ j := by rw [List.length_take]; omega
          refine (Tryd.utf8_AppendRune_plain w.heap.size _ _ _ x (by omega) (by omega) _ HOW.out (by omega) HB.out.size).mono ?_
          rintro e w' ⟨v', rfl, ho, o, hg⟩
          refine ⟨v', rfl, ?_, below_grown HB.out HB.out.size HOW.out hg⟩
          rw [htk.out, enc_snoc]
          have e1 : (nums (zs.take j ++ [x])).length = (nums (zs.take j)).length + (runeCells x).length := by simp [nums, runeCells]
          rw [e1]
          exact ho)
        clear hsc hx
        go_wp2_with (first | (go_at_call 79; refine (HSC.out _).mono ?_; rintro e1 w1 ⟨rfl, rfl⟩) | (go_at_call 80; refine (hap.out _ rfl).mono ?_; rintro e2 w2 ⟨v2, rfl, ho2, hb2⟩; have HO2 := Lib.hid ho2; clear ho2))
        go_roundw
        case rel => exact ⟨j + 1, by omega, by go_num, by rw [htk.out, List.all_append, HV.out]; simp [HX.out], HO2.out, hb2⟩
        case measure => simp [RowKit.intOf]; omega
    · obtain rfl : j = len := by omega
      clear hlt
      have htk : zs.take j = zs := by rw [← HL.out]; exact List.take_length
      rw [htk] at HV HOW
      have hOt : O = true := HO.out.trans HV.out
      subst hOt
      have hcv := conv_row wr w.heap.size _ (nums zs) HOW.out
      have et : strOfNums (nums zs) = txt zs := rfl
      rw [et] at hcv
      obtain ⟨T, hT⟩ : ∃ T, T = txt zs := ⟨_, rfl⟩
      rw [← hT] at hcv
      have HT := Lib.hid hT
      clear et htk hT
      go_wp2
      go_ret2
      exact ⟨by rw [HT.out]; rfl, HB.out⟩
end Go.Proofs.YtiokdeomdeenbaaDoor.pt
