/- Several texts in one. -/
import Derived.WalkKit
import Derived.Lib.RuneBytes
namespace Go.Proofs.YtiigknimfibdpaaGreatDoor.tb
open Go.RowKit Go.Lib
set_option linter.unusedVariables false
/-- Pairs by rising codes. -/
def Srt (l : List (Int × Int)) : Prop := l.Pairwise (fun a b => a.1 < b.1)
theorem Srt.tail {q : Int × Int} {l : List (Int × Int)} (h : Srt (q :: l)) : Srt l := (List.pairwise_cons.1 h).2
theorem Srt.head {q : Int × Int} {l : List (Int × Int)} (h : Srt (q :: l)) : ∀ r ∈ l, q.1 < r.1 := (List.pairwise_cons.1 h).1
theorem Srt.nil : Srt [] := List.Pairwise.nil
/-- Two rows of pairs by rising codes that have the same pairs are one. -/
theorem srt_ext : ∀ (l m : List (Int × Int)), Srt l → Srt m → (∀ q, q ∈ l ↔ q ∈ m) → l = m
  | [], [], _, _, _ => rfl
  | [], q :: m, _, _, h => by have := (h q).2 (List.mem_cons_self ..); cases this
  | q :: l, [], _, _, h => by have := (h q).1 (List.mem_cons_self ..); cases this
  | q :: l, r :: m, hl, hm, h => by
    have e : q = r := by
      have h1 := (h q).1 (List.mem_cons_self ..)
      have h2 := (h r).2 (List.mem_cons_self ..)
      rcases List.mem_cons.1 h1 with h1 | h1
      · exact h1
      rcases List.mem_cons.1 h2 with h2 | h2
      · exact h2.symm
      have a := hm.head q h1
      have b := hl.head r h2
      omega
    subst e
    have : l = m := srt_ext l m hl.tail hm.tail (fun s => by
      have hs := h s
      rw [List.mem_cons, List.mem_cons] at hs
      constructor
      · intro hs1
        have h3 := hl.head s hs1
        rcases hs.1 (.inr hs1) with h4 | h4
        · rw [h4] at h3; omega
        · exact h4
      · intro hs1
        have h3 := hm.head s hs1
        rcases hs.2 (.inr hs1) with h4 | h4
        · rw [h4] at h3; omega
        · exact h4)
    rw [this]
/-- A code's sign. -/
def lk : List (Int × Int) → Int → Option Int
  | [], _ => none
  | q :: l, c => if q.1 = c then some q.2 else lk l c
theorem lk_mem {l : List (Int × Int)} (hs : Srt l) (c p : Int) : lk l c = some p ↔ (c, p) ∈ l := by
  induction l with
  | nil => simp [lk]
  | cons q l ih =>
    have ih := ih hs.tail
    unfold lk
    rw [List.mem_cons]
    by_cases h : q.1 = c
    · rw [if_pos h]
      constructor
      · intro h2; left; injection h2 with h2; rw [← h, ← h2]
      · rintro (h2 | h2)
        · rw [← h2]
        · have := hs.head _ h2; simp only at this; omega
    · rw [if_neg h, ih]
      constructor
      · exact .inr
      · rintro (h2 | h2)
        · rw [← h2] at h; exact absurd rfl h
        · exact h2
theorem srt_lk {l m : List (Int × Int)} (hl : Srt l) (hm : Srt m) (h : ∀ c, lk l c = lk m c) : l = m :=
  srt_ext l m hl hm fun q => by rw [← lk_mem hl q.1 q.2, ← lk_mem hm q.1 q.2, h]
theorem lk_none {l : List (Int × Int)} (c : Int) : lk l c = none ↔ ∀ q ∈ l, q.1 ≠ c := by
  induction l with
  | nil => simp [lk]
  | cons q l ih =>
    unfold lk
    by_cases h : q.1 = c
    · rw [if_pos h]; simp; intro h2; exact absurd h h2
    · rw [if_neg h, ih]; simp [h]
/-- The place of a code; -1. -/
def findFrom (c : Int) : Nat → List (Int × Int) → Int
  | _, [] => -1
  | i, q :: l => if q.1 = c then (i : Int) else findFrom c (i + 1) l
def find (l : List (Int × Int)) (c : Int) : Int := findFrom c 0 l
theorem findFrom_cases (c : Int) : ∀ (l : List (Int × Int)) (i : Nat), (lk l c = none ∧ findFrom c i l = -1) ∨ ∃ k p, lk l c = some p ∧ findFrom c i l = ((i + k : Nat) : Int) ∧ l[k]? = some (c, p)
  | [], i => .inl ⟨rfl, rfl⟩
  | q :: l, i => by
    unfold lk findFrom
    by_cases h : q.1 = c
    · rw [if_pos h, if_pos h]
      exact .inr ⟨0, q.2, rfl, by simp, by simp [← h]⟩
    · rw [if_neg h, if_neg h]
      rcases findFrom_cases c l (i + 1) with ⟨h1, h2⟩ | ⟨k, p, h1, h2, h3⟩
      · exact .inl ⟨h1, h2⟩
      · exact .inr ⟨k + 1, p, h1, by rw [h2]; congr 1; omega, by simpa using h3⟩
theorem find_cases (l : List (Int × Int)) (c : Int) : (lk l c = none ∧ find l c = -1) ∨ ∃ (k : Nat) (p : Int), lk l c = some p ∧ find l c = (k : Int) ∧ l[k]? = some (c, p) := by
  rcases findFrom_cases c l 0 with h | ⟨k, p, h1, h2, h3⟩
  · exact .inl h
  · exact .inr ⟨k, p, h1, by rw [Nat.zero_add] at h2; exact h2, h3⟩
/-- With a pair more. -/
def put : List (Int × Int) → Int × Int → List (Int × Int)
  | [], p => [p]
  | q :: l, p => if p.1 < q.1 then p :: q :: l else q :: put l p
theorem mem_put (l : List (Int × Int)) (p q : Int × Int) : q ∈ put l p ↔ q = p ∨ q ∈ l := by
  induction l with
  | nil => simp [put]
  | cons r l ih =>
    unfold put
    split
    · simp
    · rw [List.mem_cons, ih, List.mem_cons]
      constructor
      · rintro (h | h | h)
        · exact .inr (.inl h)
        · exact .inl h
        · exact .inr (.inr h)
      · rintro (h | h | h)
        · exact .inr (.inl h)
        · exact .inl h
        · exact .inr (.inr h)
theorem put_srt {l : List (Int × Int)} {p : Int × Int} (hs : Srt l) (hn : lk l p.1 = none) : Srt (put l p) := by
  induction l with
  | nil => exact List.pairwise_singleton _ _
  | cons r l ih =>
    have hne := (lk_none _).1 hn
    have h1 : r.1 ≠ p.1 := hne r (List.mem_cons_self ..)
    have h2 : lk l p.1 = none := (lk_none _).2 fun q hq => hne q (List.mem_cons_of_mem _ hq)
    unfold put
    split
    · rename_i h
      refine List.pairwise_cons.2 ⟨fun q hq => ?_, hs⟩
      rcases List.mem_cons.1 hq with hq | hq
      · rw [hq]; exact h
      · have := hs.head q hq; omega
    · rename_i h
      refine List.pairwise_cons.2 ⟨fun q hq => ?_, ih hs.tail h2⟩
      rcases (mem_put l p q).1 hq with hq | hq
      · rw [hq]; omega
      · exact hs.head q hq
theorem lk_put {l : List (Int × Int)} {p : Int × Int} (hs : Srt l) (hn : lk l p.1 = none) (c : Int) : lk (put l p) c = if p.1 = c then some p.2 else lk l c := by
  have hp := put_srt hs hn
  by_cases h : p.1 = c
  · rw [if_pos h, lk_mem hp, mem_put, ← h]; exact .inl rfl
  · rw [if_neg h]
    cases hc : lk l c with
    | none =>
      rw [lk_none]
      intro q hq
      rcases (mem_put l p q).1 hq with hq | hq
      · rw [hq]; exact h
      · exact (lk_none c).1 hc q hq
    | some x =>
      rw [lk_mem hp, mem_put]
      exact .inr ((lk_mem hs c x).1 hc)
def puts (l more : List (Int × Int)) : List (Int × Int) := more.foldl put l
/-- Both, if no code of the second is in the first. -/
def join (l more : List (Int × Int)) : Option (List (Int × Int)) := if more.all (fun q => decide (find l q.1 < 0)) then some (puts l more) else none
theorem find_neg (l : List (Int × Int)) (c : Int) : find l c < 0 ↔ lk l c = none := by
  rcases find_cases l c with ⟨h1, h2⟩ | ⟨k, p, h1, h2, _⟩
  · rw [h1, h2]; simp
  · rw [h1, h2]; simp
/-- Codes are apart, and none is in the other row. -/
theorem puts_spec : ∀ (more l : List (Int × Int)), Srt l → (more.map (·.1)).Nodup → (∀ q ∈ more, lk l q.1 = none) →
    Srt (puts l more) ∧ ∀ q, q ∈ puts l more ↔ q ∈ l ∨ q ∈ more
  | [], l, hs, _, _ => ⟨hs, fun q => by simp [puts]⟩
  | p :: more, l, hs, hd, hn => by
    rw [List.map_cons, List.nodup_cons] at hd
    have hp := hn p (List.mem_cons_self ..)
    have h1 := put_srt hs hp
    have ih := puts_spec more (put l p) h1 hd.2 (fun q hq => by
      rw [lk_put hs hp, if_neg]
      · exact hn q (List.mem_cons_of_mem _ hq)
      · intro e
        exact hd.1 (by rw [e]; exact List.mem_map_of_mem hq))
    refine ⟨ih.1, fun q => ?_⟩
    have := ih.2 q
    show q ∈ puts (put l p) more ↔ _
    rw [this, mem_put, List.mem_cons]
    constructor
    · rintro ((h | h) | h)
      · exact .inr (.inl h)
      · exact .inl h
      · exact .inr (.inr h)
    · rintro (h | h | h)
      · exact .inl (.inr h)
      · exact .inl (.inl h)
      · exact .inr h
/-- One over the other. -/
def over (l other : List (Int × Int)) : List (Int × Int) := other.foldl (fun out q => if find l q.1 < 0 then put out q else out) l
theorem over_spec (l : List (Int × Int)) (hs : Srt l) : ∀ (other out : List (Int × Int)), Srt out → Srt other → (∀ q ∈ other, lk out q.1 = lk l q.1) →
    Srt (other.foldl (fun out q => if find l q.1 < 0 then put out q else out) out) ∧ ∀ c, lk (other.foldl (fun out q => if find l q.1 < 0 then put out q else out) out) c = (if (lk l c).isNone ∧ (lk other c).isSome then lk other c else lk out c)
  | [], out, ho, _, _ => ⟨ho, fun c => by simp [lk]⟩
  | q :: other, out, ho, hso, hh => by
    have hq := hh q (List.mem_cons_self ..)
    rw [List.foldl_cons]
    by_cases hf : find l q.1 < 0
    · have hn : lk l q.1 = none := (find_neg l q.1).1 hf
      rw [hn] at hq
      rw [if_pos hf]
      have ih := over_spec l hs other (put out q) (put_srt ho hq) hso.tail (fun r hr => by
        rw [lk_put ho hq, if_neg]
        · exact hh r (List.mem_cons_of_mem _ hr)
        · have := hso.head r hr; omega)
      refine ⟨ih.1, fun c => ?_⟩
      rw [ih.2 c, lk_put ho hq]
      have e : lk (q :: other) c = if q.1 = c then some q.2 else lk other c := rfl
      rw [e]
      by_cases hc : q.1 = c
      · subst hc
        have h2 : lk other q.1 = none := (lk_none _).2 fun r hr => by have := hso.head r hr; omega
        rw [if_pos rfl, if_pos rfl, h2, hn]; simp
      · rw [if_neg hc, if_neg hc]
    · have hn : lk l q.1 ≠ none := fun h => hf ((find_neg l q.1).2 h)
      rw [if_neg hf]
      have ih := over_spec l hs other out ho hso.tail (fun r hr => hh r (List.mem_cons_of_mem _ hr))
      refine ⟨ih.1, fun c => ?_⟩
      rw [ih.2 c]
      have e : lk (q :: other) c = if q.1 = c then some q.2 else lk other c := rfl
      rw [e]
      by_cases hc : q.1 = c
      · subst hc
        have h3 : (lk l q.1).isNone = false := by
          cases h : lk l q.1 with
          | none => exact absurd h hn
          | some x => rfl
        simp [h3]
      · rw [if_neg hc]
theorem over_lk {l m : List (Int × Int)} (hl : Srt l) (hm : Srt m) : Srt (over l m) ∧ ∀ c, lk (over l m) c = (lk l c).or (lk m c) := by
  have h := over_spec l hl m l hl hm (fun _ _ => rfl)
  refine ⟨h.1, fun c => ?_⟩
  have := h.2 c
  unfold over
  rw [this]
  cases h1 : lk l c <;> cases h2 : lk m c <;> simp
/-- The least code of a sign; -1. -/
def rev : List (Int × Int) → Int → Int
  | [], _ => -1
  | q :: l, p => if q.2 = p then q.1 else rev l p
/-- Signs, from a code on. -/
def lsp : Int → List Int → List (Int × Int)
  | _, [] => []
  | f, z :: zs => (f, z) :: lsp (f + 1) zs
theorem lsp_snoc (f : Int) (zs : List Int) (z : Int) : lsp f (zs ++ [z]) = lsp f zs ++ [(f + zs.length, z)] := by
  induction zs generalizing f with
  | nil => simp [lsp]
  | cons y zs ih =>
    rw [List.cons_append, lsp, ih, lsp]
    simp only [List.cons_append, List.length_cons]
    congr 3
    have : ((zs.length + 1 : Nat) : Int) = (zs.length : Int) + 1 := by omega
    rw [this]; congr 1; omega
/-- Numbers, one behind the other. -/
def sqp (f t : Int) : Nat → List (Int × Int)
  | 0 => []
  | n + 1 => sqp f t n ++ [(f + n, t + n)]
theorem sqp_len (f t : Int) (n : Nat) : (sqp f t n).length = n := by
  induction n with
  | zero => rfl
  | succ n ih => simp [sqp, ih]
end Go.Proofs.YtiigknimfibdpaaGreatDoor.tb
namespace Go.Proofs.YtiigknimfibdpaaGreatDoor.wd
open Go.RowKit Go.Lib
set_option linter.unusedVariables false
theorem valid_range {x : Int} (h : validRune x = true) : 0 ≤ x ∧ x ≤ 1114111 := by
  unfold validRune at h
  simp at h
  omega
/-- The unit at a place. -/
def un (s : ByteArray) (big : Bool) (i : Nat) : Nat :=
  if big then (s.data.toList.getD i 0).toNat * 256 + (s.data.toList.getD (i + 1) 0).toNat
  else (s.data.toList.getD (i + 1) 0).toNat * 256 + (s.data.toList.getD i 0).toNat
theorem un_lt (s : ByteArray) (big : Bool) (i : Nat) : un s big i < 65536 := by
  unfold un
  have h1 := (s.data.toList.getD i 0).toNat_lt
  have h2 := (s.data.toList.getD (i + 1) 0).toNat_lt
  split <;> omega
/-- The sign that stands at a place, and how many bytes it has. -/
def wn (s : ByteArray) (big : Bool) (pos : Nat) : Option (Int × Nat) :=
  if s.size < pos + 2 then none
  else if un s big pos < 55296 ∨ 57344 ≤ un s big pos then some ((un s big pos : Int), 2)
  else if un s big pos < 56320 ∧ pos + 4 ≤ s.size ∧ 56320 ≤ un s big (pos + 2) ∧ un s big (pos + 2) < 57344 then some (65536 + ((un s big pos : Int) - 55296) * 1024 + (un s big (pos + 2) : Int) - 56320, 4)
  else none
theorem wn_two {s : ByteArray} {big : Bool} {pos : Nat} {p : Int} {k : Nat} (h : wn s big pos = some (p, k)) : 2 ≤ k ∧ pos + k ≤ s.size ∧ k ≤ 4 ∧ k % 2 = 0 := by
  unfold wn at h
  split at h
  · cases h
  split at h
  · cases h; omega
  split at h
  · cases h; omega
  · cases h
theorem wn_valid {s : ByteArray} {big : Bool} {pos : Nat} {p : Int} {k : Nat} (h : wn s big pos = some (p, k)) : validRune p = true := by
  have h1 := un_lt s big pos
  have h2 := un_lt s big (pos + 2)
  unfold validRune
  apply decide_eq_true
  unfold wn at h
  split at h
  · cases h
  split at h
  · cases h; omega
  split at h
  · cases h; omega
  · cases h
/-- The signs from a place on, and the first place at which there is none. -/
def wd (s : ByteArray) (big : Bool) : Nat → Nat → List Int × Option Nat
  | 0, _ => ([], none)
  | f + 1, pos => if pos < s.size then (match wn s big pos with | none => ([], some pos) | some d => (d.1 :: (wd s big f (pos + d.2)).1, (wd s big f (pos + d.2)).2)) else ([], none)
def wscan (s : ByteArray) (big : Bool) : List Int × Option Nat := wd s big s.size 0
theorem wd_end (s : ByteArray) (big : Bool) (f pos : Nat) (h : ¬ pos < s.size) : wd s big f pos = ([], none) := by
  cases f <;> simp [wd, h]
theorem wd_bad (s : ByteArray) (big : Bool) (f pos : Nat) (h : pos < s.size) (hf : s.size ≤ pos + f) (hb : wn s big pos = none) : wd s big f pos = ([], some pos) := by
  cases f with
  | zero => omega
  | succ f => simp [wd, h, hb]
theorem wd_good (s : ByteArray) (big : Bool) (f pos : Nat) (h : pos < s.size) (d : Int × Nat) (hb : wn s big pos = some d) : wd s big (f + 1) pos = (d.1 :: (wd s big f (pos + d.2)).1, (wd s big f (pos + d.2)).2) := by
  simp [wd, h, hb]
theorem wd_valid (s : ByteArray) (big : Bool) : ∀ f pos, (wd s big f pos).1.all validRune = true
  | 0, pos => rfl
  | f + 1, pos => by
    by_cases hp : pos < s.size
    · cases hb : wn s big pos with
      | none => simp [wd, hp, hb]
      | some d =>
        rw [wd_good s big f pos hp d hb]
        simp only [List.all_cons, wd_valid s big f (pos + d.2), Bool.and_true]
        exact wn_valid (p := d.1) (k := d.2) hb
    · rw [wd_end s big (f + 1) pos hp]; rfl
theorem wd_len (s : ByteArray) (big : Bool) : ∀ f pos, (wd s big f pos).1.length * 2 ≤ s.size - pos
  | 0, pos => by simp [wd]
  | f + 1, pos => by
    by_cases hp : pos < s.size
    · cases hb : wn s big pos with
      | none => simp [wd, hp, hb]
      | some d =>
        rw [wd_good s big f pos hp d hb]
        have := wn_two (p := d.1) (k := d.2) hb
        have ih := wd_len s big f (pos + d.2)
        simp only [List.length_cons]
        omega
    · rw [wd_end s big (f + 1) pos hp]; simp
/-- A unit as bytes; a sign's units; signs as bytes. -/
def ub (big : Bool) (u : Nat) : List UInt8 := if big then [UInt8.ofNat (u / 256), UInt8.ofNat (u % 256)] else [UInt8.ofNat (u % 256), UInt8.ofNat (u / 256)]
def us (p : Int) : List Nat := if p < 65536 then [p.toNat] else [55296 + (p.toNat - 65536) / 1024, 56320 + (p.toNat - 65536) % 1024]
def ubs (big : Bool) (l : List Nat) : List UInt8 := l.flatMap (ub big)
def uss (zs : List Int) : List Nat := zs.flatMap us
def wb (big : Bool) (zs : List Int) : ByteArray := ⟨(ubs big (uss zs)).toArray⟩
end Go.Proofs.YtiigknimfibdpaaGreatDoor.wd
