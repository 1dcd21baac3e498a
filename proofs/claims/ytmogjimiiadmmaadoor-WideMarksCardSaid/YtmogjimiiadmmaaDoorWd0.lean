/- Units of two bytes, plainly: what a row of bytes decodes to, and what signs encode to. -/
import Derived.WalkKit
import Derived.Lib.RuneBytes
namespace Go.Proofs.YtmogjimiiadmmaaDoor.wd
open Go.RowKit Go.Lib
set_option linter.unusedVariables false
theorem valid_range {x : Int} (h : validRune x = true) : 0 ≤ x ∧ x ≤ 1114111 := by
  unfold validRune at h
  simp at h
  omega
/-- The unit at a place. -/
def un (s : ByteArray) (big : Bool) (i : Nat) : Nat :=
  if big then (s.data.toList.getD i 0).toNat * 256 + (s.data.toList.getD (i + 1) 0).toNat
  else (s.data.toList.getD (i + 1) 0).toNat * 256 + (s.data.toList.getD i 0).toNat
theorem un_lt (s : ByteArray) (big : Bool) (i : Nat) : un s big i < 65536 := by
  unfold un
  have h1 := (s.data.toList.getD i 0).toNat_lt
  have h2 := (s.data.toList.getD (i + 1) 0).toNat_lt
  split <;> omega
/-- The sign that stands at a place, and how many bytes it has. -/
def wn (s : ByteArray) (big : Bool) (pos : Nat) : Option (Int × Nat) :=
  if s.size < pos + 2 then none
  else if un s big pos < 55296 ∨ 57344 ≤ un s big pos then some ((un s big pos : Int), 2)
  else if un s big pos < 56320 ∧ pos + 4 ≤ s.size ∧ 56320 ≤ un s big (pos + 2) ∧ un s big (pos + 2) < 57344 then some (65536 + ((un s big pos : Int) - 55296) * 1024 + (un s big (pos + 2) : Int) - 56320, 4)
  else none
theorem wn_two {s : ByteArray} {big : Bool} {pos : Nat} {p : Int} {k : Nat} (h : wn s big pos = some (p, k)) : 2 ≤ k ∧ pos + k ≤ s.size ∧ k ≤ 4 ∧ k % 2 = 0 := by
  unfold wn at h
  split at h
  · cases h
  split at h
  · cases h; omega
  split at h
  · cases h; omega
  · cases h
theorem wn_valid {s : ByteArray} {big : Bool} {pos : Nat} {p : Int} {k : Nat} (h : wn s big pos = some (p, k)) : validRune p = true := by
  have h1 := un_lt s big pos
  have h2 := un_lt s big (pos + 2)
  unfold validRune
  apply decide_eq_true
  unfold wn at h
  split at h
  · cases h
  split at h
  · cases h; omega
  split at h
  · cases h; omega
  · cases h
/-- The signs from a place on, and the first place at which there is none. -/
def wd (s : ByteArray) (big : Bool) : Nat → Nat → List Int × Option Nat
  | 0, _ => ([], none)
  | f + 1, pos => if pos < s.size then (match wn s big pos with | none => ([], some pos) | some d => (d.1 :: (wd s big f (pos + d.2)).1, (wd s big f (pos + d.2)).2)) else ([], none)
def wscan (s : ByteArray) (big : Bool) : List Int × Option Nat := wd s big s.size 0
theorem wd_end (s : ByteArray) (big : Bool) (f pos : Nat) (h : ¬ pos < s.size) : wd s big f pos = ([], none) := by
  cases f <;> simp [wd, h]
theorem wd_bad (s : ByteArray) (big : Bool) (f pos : Nat) (h : pos < s.size) (hf : s.size ≤ pos + f) (hb : wn s big pos = none) : wd s big f pos = ([], some pos) := by
  cases f with
  | zero => omega
  | succ f => simp [wd, h, hb]
theorem wd_good (s : ByteArray) (big : Bool) (f pos : Nat) (h : pos < s.size) (d : Int × Nat) (hb : wn s big pos = some d) : wd s big (f + 1) pos = (d.1 :: (wd s big f (pos + d.2)).1, (wd s big f (pos + d.2)).2) := by
  simp [wd, h, hb]
theorem wd_valid (s : ByteArray) (big : Bool) : ∀ f pos, (wd s big f pos).1.all validRune = true
  | 0, pos => rfl
  | f + 1, pos => by
    by_cases hp : pos < s.size
    · cases hb : wn s big pos with
      | none => simp [wd, hp, hb]
      | some d =>
        rw [wd_good s big f pos hp d hb]
        simp only [List.all_cons, wd_valid s big f (pos + d.2), Bool.and_true]
        exact wn_valid (p := d.1) (k := d.2) hb
    · rw [wd_end s big (f + 1) pos hp]; rfl
theorem wd_len (s : ByteArray) (big : Bool) : ∀ f pos, (wd s big f pos).1.length * 2 ≤ s.size - pos
  | 0, pos => by simp [wd]
  | f + 1, pos => by
    by_cases hp : pos < s.size
    · cases hb : wn s big pos with
      | none => simp [wd, hp, hb]
      | some d =>
        rw [wd_good s big f pos hp d hb]
        have := wn_two (p := d.1) (k := d.2) hb
        have ih := wd_len s big f (pos + d.2)
        simp only [List.length_cons]
        omega
    · rw [wd_end s big (f + 1) pos hp]; simp
theorem wd_place (s : ByteArray) (big : Bool) : ∀ f pos A, (wd s big f pos).2 = some A → pos ≤ A ∧ A < s.size
  | 0, pos, A, h => by simp [wd] at h
  | f + 1, pos, A, h => by
    by_cases hp : pos < s.size
    · cases hb : wn s big pos with
      | none => simp [wd, hp, hb] at h; omega
      | some d =>
        rw [wd_good s big f pos hp d hb] at h
        have := wd_place s big f _ A h
        have := wn_two (p := d.1) (k := d.2) hb
        omega
    · rw [wd_end s big (f + 1) pos hp] at h; cases h
/-- A unit as bytes; a sign's units; signs as bytes. -/
def ub (big : Bool) (u : Nat) : List UInt8 := if big then [UInt8.ofNat (u / 256), UInt8.ofNat (u % 256)] else [UInt8.ofNat (u % 256), UInt8.ofNat (u / 256)]
def us (p : Int) : List Nat := if p < 65536 then [p.toNat] else [55296 + (p.toNat - 65536) / 1024, 56320 + (p.toNat - 65536) % 1024]
def ubs (big : Bool) (l : List Nat) : List UInt8 := l.flatMap (ub big)
def uss (zs : List Int) : List Nat := zs.flatMap us
def wb (big : Bool) (zs : List Int) : ByteArray := ⟨(ubs big (uss zs)).toArray⟩
theorem ub_len (big : Bool) (u : Nat) : (ub big u).length = 2 := by unfold ub; split <;> rfl
theorem ubs_len (big : Bool) (l : List Nat) : (ubs big l).length = 2 * l.length := by
  unfold ubs
  induction l with
  | nil => rfl
  | cons x l ih => rw [List.flatMap_cons, List.length_append, ih, ub_len, List.length_cons]; omega
theorem us_len (p : Int) : (us p).length = if p < 65536 then 1 else 2 := by unfold us; split <;> rfl
theorem us_lt (p : Int) (h : validRune p = true) : ∀ u ∈ us p, u < 65536 := by
  have hr := valid_range h
  unfold us
  split
  · intro u hu; simp at hu; omega
  · intro u hu; simp at hu; omega
theorem uss_lt (zs : List Int) (h : zs.all validRune = true) : ∀ u ∈ uss zs, u < 65536 := by
  intro u hu
  unfold uss at hu
  rw [List.mem_flatMap] at hu
  obtain ⟨p, hp, hu⟩ := hu
  exact us_lt p (List.all_eq_true.1 h p hp) u hu
theorem uss_len (zs : List Int) : zs.length ≤ (uss zs).length ∧ (uss zs).length ≤ 2 * zs.length := by
  unfold uss
  induction zs with
  | nil => simp
  | cons x l ih => rw [List.flatMap_cons, List.length_append, us_len, List.length_cons]; split <;> omega
theorem wb_size (big : Bool) (zs : List Int) : (wb big zs).size = 2 * (uss zs).length := by
  have : (wb big zs).size = (ubs big (uss zs)).length := by show (ubs big (uss zs)).toArray.size = _; simp
  rw [this, ubs_len]
/-- Bytes at a place. -/
def At (s : ByteArray) (pos : Nat) (l : List UInt8) : Prop := ∃ r, s.data.toList.drop pos = l ++ r
theorem At.get {s : ByteArray} {pos : Nat} {l : List UInt8} (h : At s pos l) (i : Nat) (hi : i < l.length) : s.data.toList.getD (pos + i) 0 = l.getD i 0 := by
  obtain ⟨r, hr⟩ := h
  have e : s.data.toList.getD (pos + i) 0 = (s.data.toList.drop pos).getD i 0 := by simp [List.getD]
  rw [e, hr]
  simp only [List.getD]
  rw [List.getElem?_append_left hi]
theorem un_at {s : ByteArray} {pos : Nat} {big : Bool} {u : Nat} {l : List UInt8} (hu : u < 65536) (h : At s pos (ub big u ++ l)) : un s big pos = u := by
  have h0 := h.get 0 (by rw [List.length_append, ub_len]; omega)
  have h1 := h.get 1 (by rw [List.length_append, ub_len]; omega)
  unfold un
  rw [Nat.add_zero] at h0
  rw [h0, h1]
  unfold ub
  cases big <;> simp <;> omega
theorem At.next {s : ByteArray} {pos : Nat} {l m : List UInt8} (h : At s pos (l ++ m)) : At s (pos + l.length) m := by
  obtain ⟨r, hr⟩ := h
  refine ⟨r, ?_⟩
  rw [← List.drop_drop, hr, List.append_assoc]
  exact List.drop_left' rfl
theorem At.fits {s : ByteArray} {pos : Nat} {l : List UInt8} (h : At s pos l) (hp : pos ≤ s.size) : pos + l.length ≤ s.size := by
  obtain ⟨r, hr⟩ := h
  have := congrArg List.length hr
  rw [List.length_drop, Array.length_toList, List.length_append] at this
  have e : s.data.size = s.size := rfl
  omega
/-- What is encoded is decoded. -/
theorem wn_at {s : ByteArray} {pos : Nat} {big : Bool} {p : Int} {l : List UInt8} (hv : validRune p = true) (hp : pos ≤ s.size) (h : At s pos (ubs big (us p) ++ l)) : wn s big pos = some (p, 2 * (us p).length) := by
  have hr : (0 ≤ p ∧ p < 55296) ∨ (57343 < p ∧ p ≤ 1114111) := by unfold validRune at hv; simpa using hv
  have hf := h.fits hp
  rw [List.length_append, ubs_len] at hf
  by_cases hb : p < 65536
  · have e : us p = [p.toNat] := by unfold us; rw [if_pos hb]
    rw [e] at h hf ⊢
    have e2 : ubs big [p.toNat] = ub big p.toNat := by simp [ubs]
    rw [e2] at h
    have hu := un_at (by omega) h
    simp at hf
    unfold wn
    rw [hu, if_neg (by omega), if_pos (by omega)]
    simp; omega
  · have e : us p = [55296 + (p.toNat - 65536) / 1024, 56320 + (p.toNat - 65536) % 1024] := by unfold us; rw [if_neg hb]
    rw [e] at h hf ⊢
    obtain ⟨a, ha⟩ : ∃ a, a = 55296 + (p.toNat - 65536) / 1024 := ⟨_, rfl⟩
    obtain ⟨c, hc⟩ : ∃ c, c = 56320 + (p.toNat - 65536) % 1024 := ⟨_, rfl⟩
    rw [← ha, ← hc] at h hf ⊢
    have e2 : ubs big [a, c] = ub big a ++ ub big c := by simp [ubs]
    rw [e2, List.append_assoc] at h
    have hu := un_at (by omega) h
    have h2 := h.next
    rw [ub_len] at h2
    have hu2 := un_at (by omega) h2
    simp at hf
    unfold wn
    rw [hu, hu2, if_neg (by omega), if_neg (by omega), if_pos (by omega)]
    simp; omega
theorem wd_enc (s : ByteArray) (big : Bool) : ∀ (zs : List Int) (f pos : Nat), s.size ≤ pos + f → zs.all validRune = true → pos ≤ s.size → s.data.toList.drop pos = ubs big (uss zs) → wd s big f pos = (zs, none)
  | [], f, pos, hf, hv, hp, h => by
    have := congrArg List.length h
    rw [List.length_drop, Array.length_toList] at this
    have e : s.data.size = s.size := rfl
    simp [uss, ubs] at this
    exact wd_end s big f pos (by omega)
  | p :: zs, f, pos, hf, hv, hp, h => by
    simp only [List.all_cons, Bool.and_eq_true] at hv
    have e2 : ubs big (uss (p :: zs)) = ubs big (us p) ++ ubs big (uss zs) := by simp [uss, ubs]
    rw [e2] at h
    have hA : At s pos (ubs big (us p) ++ ubs big (uss zs)) := ⟨[], by rw [h, List.append_nil]⟩
    have hn := wn_at hv.1 hp hA
    have hf1 := hA.fits hp
    rw [List.length_append, ubs_len, ubs_len] at hf1
    have h1 : 1 ≤ (us p).length := by rw [us_len]; split <;> omega
    obtain ⟨f1, rfl⟩ : ∃ f1, f = f1 + 1 := ⟨f - 1, by omega⟩
    rw [wd_good s big f1 pos (by omega) _ hn]
    have ih := wd_enc s big zs f1 (pos + 2 * (us p).length) (by omega) hv.2 (by omega) (by
      rw [← List.drop_drop, h, ← ubs_len big (us p)]
      exact List.drop_left' rfl)
    simp only [ih]
theorem wscan_wb (big : Bool) (zs : List Int) (hv : zs.all validRune = true) : wscan (wb big zs) big = (zs, none) :=
  wd_enc (wb big zs) big zs _ 0 (by omega) hv (by omega) (by rw [List.drop_zero]; rfl)
theorem div256 (x y : Nat) (h : y < 256) : (x * 256 + y) / 256 = x ∧ (x * 256 + y) % 256 = y := by omega
/-- What is decoded is encoded as it was. -/
theorem ub_un (s : ByteArray) (big : Bool) (pos : Nat) (h : pos + 2 ≤ s.size) : ub big (un s big pos) = (s.data.toList.drop pos).take 2 := by
  have hl : s.data.toList.length = s.size := by rw [Array.length_toList]; rfl
  have e : (s.data.toList.drop pos).take 2 = [s.data.toList.getD pos 0, s.data.toList.getD (pos + 1) 0] := by
    rw [List.drop_eq_getElem_cons (by omega), List.drop_eq_getElem_cons (i := pos + 1) (by omega)]
    simp [List.getD, List.getElem?_eq_getElem (show pos < s.data.toList.length by omega), List.getElem?_eq_getElem (show pos + 1 < s.data.toList.length by omega)]
  rw [e]
  unfold ub un
  generalize s.data.toList.getD pos 0 = a
  generalize s.data.toList.getD (pos + 1) 0 = b
  have h1 := a.toNat_lt
  have h2 := b.toNat_lt
  obtain ⟨k1, k2⟩ := div256 a.toNat b.toNat h2
  obtain ⟨k3, k4⟩ := div256 b.toNat a.toNat h1
  cases big
  · simp only [Bool.false_eq_true, if_false, k3, k4, UInt8.ofNat_toNat]
  · simp only [if_true, k1, k2, UInt8.ofNat_toNat]
theorem ubs_wn (s : ByteArray) (big : Bool) (pos : Nat) (p : Int) (k : Nat) (h : wn s big pos = some (p, k)) : ubs big (us p) = (s.data.toList.drop pos).take k := by
  have hl := un_lt s big pos
  have hl2 := un_lt s big (pos + 2)
  unfold wn at h
  split at h
  · cases h
  rename_i h0
  split at h
  · cases h
    have e : us (un s big pos : Int) = [un s big pos] := by unfold us; rw [if_pos (by omega)]; simp
    rw [e]
    have : ubs big [un s big pos] = ub big (un s big pos) := by simp [ubs]
    rw [this, ub_un s big pos (by omega)]
  split at h
  · rename_i h1 h2
    obtain ⟨h2, h3, h4, h5⟩ := h2
    cases h
    have e : us (65536 + ((un s big pos : Int) - 55296) * 1024 + (un s big (pos + 2) : Int) - 56320) = [un s big pos, un s big (pos + 2)] := by
      unfold us
      rw [if_neg (by omega)]
      simp only [List.cons.injEq, and_true]
      omega
    rw [e]
    have : ubs big [un s big pos, un s big (pos + 2)] = ub big (un s big pos) ++ ub big (un s big (pos + 2)) := by simp [ubs]
    rw [this, ub_un s big pos (by omega), ub_un s big (pos + 2) (by omega), ← List.drop_drop]
    exact (List.take_add (l := s.data.toList.drop pos) (i := 2) (j := 2)).symm
  · cases h
theorem wd_dec (s : ByteArray) (big : Bool) : ∀ f pos, s.size ≤ pos + f → (wd s big f pos).2 = none → ubs big (uss (wd s big f pos).1) = s.data.toList.drop pos
  | 0, pos, hf, _ => by
    have : s.data.toList.drop pos = [] := List.drop_eq_nil_of_le (by rw [Array.length_toList]; exact hf)
    rw [this]; rfl
  | f + 1, pos, hf, hn => by
    by_cases hp : pos < s.size
    · cases hb : wn s big pos with
      | none => simp [wd, hp, hb] at hn
      | some d =>
        have hk := wn_two (p := d.1) (k := d.2) hb
        rw [wd_good s big f pos hp d hb] at hn ⊢
        have ih := wd_dec s big f (pos + d.2) (by omega) hn
        have e2 : ubs big (uss (d.1 :: (wd s big f (pos + d.2)).1)) = ubs big (us d.1) ++ ubs big (uss (wd s big f (pos + d.2)).1) := by simp [uss, ubs]
        show ubs big (uss (d.1 :: (wd s big f (pos + d.2)).1)) = _
        rw [e2, ih, ubs_wn s big pos d.1 d.2 hb, ← List.drop_drop, List.take_append_drop]
    · have : s.data.toList.drop pos = [] := List.drop_eq_nil_of_le (by rw [Array.length_toList]; have e : s.data.size = s.size := rfl; omega)
      rw [this, wd_end s big (f + 1) pos hp]; rfl
theorem wb_wscan (s : ByteArray) (big : Bool) (h : (wscan s big).2 = none) : wb big (wscan s big).1 = s := by
  have := wd_dec s big s.size 0 (by omega) h
  rw [List.drop_zero] at this
  unfold wb wscan
  rw [this]
end Go.Proofs.YtmogjimiiadmmaaDoor.wd
