/- The draw of a disk of records. For codes of at most 2^40 bytes. The greatest epoch of texts; the records ahead that follow each other; no program in it. What the records ahead are: of their sectors, with their numbers, in the order of their epochs, none above the top; no program in it. -/
import Derived.Test.YtenkpgnkkkgdmaeDoorM16
import Derived.Test.YtenkpgnkkkgdmaeDoorM07
namespace Go.Proofs.YtenkpgnkkkgdmaeDoor
open Go.RowKit
set_option linter.unusedVariables false

set_option maxRecDepth 10000 in
set_option maxHeartbeats 1600000 in
theorem drawScan_any (a : Option Addr) (len cap : Nat) (zs : List Int) (w : World) (hs : Seg w a len zs) (hl : len ≤ 1099511627776) :
    Calls Tryd.prog 24 #[.slice a len cap] w fun e w' => (∃ A C A' C' X Y, e = .returned (.agg #[.slice A 5 C, .slice A' 5 C']) ∧ Strs w' A 5 X ∧ Strs w' A' 5 Y ∧ ∀ x ∈ X, x.size ≤ 48) ∧ Below w.heap.size w w' := by
  obtain ⟨w1, hw1⟩ : ∃ w1, w.alloc (.cells #[.slice none 0 0, .slice none 0 0] 54) = w1 := ⟨_, rfl⟩
  have HE : Hid (w.alloc (.cells #[.slice none 0 0, .slice none 0 0] 54) = w1) := hw1
  have HQ1 : Hid (Box2R w1 w.heap.size 54 (.slice none 0 0) (.slice none 0 0)) := by show Box2R _ _ _ _ _; rw [← hw1]; exact Box2R.new _ _ _ _
  have HB1 : Hid (Below w.heap.size w w1) := by show Below _ _ _; rw [← hw1]; exact (Below.refl _ _).alloc (Nat.le_refl _) _
  have HS : Hid (Seg w1 a len zs) := hs.below HB1.out
  clear hs hw1
  go_enter Tryd.func24, Tryd.ntmps24
  go_wp2_with fail
  rw [HE.out]
  clear HE
  refine (l1New_any a len cap zs w1 HS.out hl).mono ?_
  rintro e w2 ⟨rfl, hc2, hb2⟩
  have hlt : w.heap.size < w1.heap.size := HQ1.out.lt
  have HQ2 : Hid (Box2R w2 w.heap.size 54 (.slice none 0 0) (.slice none 0 0)) := HQ1.out.stays hb2
  have HB2 : Hid (Below w.heap.size w w2) := HB1.out.trans (hb2.mono HB1.out.size)
  obtain ⟨cc, hcc⟩ : ∃ cc, w1.heap.size = cc := ⟨_, rfl⟩
  rw [hcc] at hc2 hlt ⊢
  have HC2 : Hid (Cur w2 cc cc a len cap zs) := hc2
  clear hc2 hb2 HQ1 HB1 HS hcc
  go_wp2_with fail
  refine (l13Disk_any cc cc a len cap zs w2 HC2.out hl).mono ?_
  rintro e w6 ⟨⟨v, rfl, X, Y, hans, hX, hY, hz⟩, hc6, hg6⟩
  obtain ⟨A, C, A', C', rfl, o1, o2, hap⟩ := hans.at hX hY
  have hcl : cc < w2.heap.size := HC2.out.lt
  have hww : w.heap.size < w2.heap.size := HQ2.out.lt
  have hQ6 := HQ2.out.grown hg6 (fun e => by injection e with e; omega)
  have n1 : blkOf (.slice A 5 C) ≠ some w.heap.size := fun e => by have := (o1.lt _ e).1; omega
  have n2 : blkOf (.slice A' 5 C') ≠ some w.heap.size := fun e => by have := (o2.lt _ e).1; omega
  have HB6 : Hid (Below w.heap.size w w6) := HB2.out.grown hg6 HB2.out.size (fun k e => by injection e with e; omega)
  have HF : Hid (∀ u0 u1 : Value, Strs ((w6.setCell ⟨w.heap.size, 0, none⟩ u0).setCell ⟨w.heap.size, 1, none⟩ u1) A 5 X ∧ Strs ((w6.setCell ⟨w.heap.size, 0, none⟩ u0).setCell ⟨w.heap.size, 1, none⟩ u1) A' 5 Y) := fun u0 u1 => ⟨((o1.setCell n1 _).setCell n1 _).strs, ((o2.setCell n2 _).setCell n2 _).strs⟩
  have HZ : Hid (∀ x ∈ X, x.size ≤ 48) := hz
  obtain ⟨r0, r1⟩ := hQ6.cells
  have f0 := hQ6.frozen 0
  have f1 := hQ6.frozen 1
  clear hans o1 o2 hap hc6 hg6 HC2 HB2 HQ2 hQ6 hz n1 n2
  go_wp2_with fail
  refine bodyPost_ret (v := .agg #[.slice A 5 C, .slice A' 5 C']) (by simp [results, Tryd.f24, go_sem, r0, r1]) rfl ?_
  exact ⟨⟨A, C, A', C', X, Y, rfl, (HF.out _ _).1, (HF.out _ _).2, HZ.out⟩, (HB6.out.setCell (Nat.le_refl _) _).setCell (Nat.le_refl _) _⟩

end Go.Proofs.YtenkpgnkkkgdmaeDoor

namespace Go.Proofs.YtenkpgnkkkgdmaeDoor
open Go.RowKit
set_option linter.unusedVariables false

def topStep (m : Int) (s : ByteArray) : Int := match recOf s with
  | none => m
  | some r => if m < r.e then r.e else m

/-- The greatest epoch. -/
def topE (l : List ByteArray) : Int := l.foldl topStep (-1)

theorem topE_step (l : List ByteArray) (k : Nat) (x : ByteArray) (h : l[k]? = some x) : topE (l.take (k + 1)) = topStep (topE (l.take k)) x := by
  rw [List.take_add_one, h]
  simp [topE, List.foldl_append]

theorem topStep_none {m : Int} {s : ByteArray} (h : recOf s = none) : topStep m s = m := by rw [topStep, h]
theorem topStep_some {m : Int} {s : ByteArray} {r : R} (h : recOf s = some r) : topStep m s = if m < r.e then r.e else m := by rw [topStep, h]

/-- Whether the record of a text follows. -/
def nextR (i : Nat) (last : Int) (s : ByteArray) : Option R := match recOf s with
  | none => none
  | some r => if r.q = (i : Int) ∧ last ≤ r.e then some r else none

/-- The records from the i-th on, behind one with this epoch. -/
def scanFrom (i : Nat) (last : Int) : List ByteArray → List R
  | [] => []
  | s :: l => match nextR i last s with
    | none => []
    | some r => r :: scanFrom (i + 1) r.e l

def scanR (l : List ByteArray) : List R := scanFrom 0 0 l

theorem nextR_ok {i : Nat} {last : Int} {s : ByteArray} {r : R} (h : nextR i last s = some r) : recOf s = some r ∧ r.q = (i : Int) ∧ last ≤ r.e := by
  rw [nextR] at h
  split at h
  · cases h
  · rename_i r' hr
    split at h
    · rename_i hc
      injection h with h
      subst h
      exact ⟨hr, hc⟩
    · cases h

end Go.Proofs.YtenkpgnkkkgdmaeDoor

namespace Go.Proofs.YtenkpgnkkkgdmaeDoor
open Go.RowKit
set_option linter.unusedVariables false

theorem scanFrom_at (l : List ByteArray) : ∀ (i : Nat) (last : Int) (k : Nat) (r : R), (scanFrom i last l)[k]? = some r → (∃ x, l[k]? = some x ∧ recOf x = some r) ∧ r.q = ((i + k : Nat) : Int) ∧ last ≤ r.e := by
  induction l with
  | nil => intro i last k r h; simp [scanFrom] at h
  | cons s l ih =>
    intro i last k r h
    rw [scanFrom] at h
    cases hn : nextR i last s with
    | none => rw [hn] at h; simp at h
    | some r0 =>
      rw [hn] at h
      obtain ⟨h1, h2, h3⟩ := nextR_ok hn
      cases k with
      | zero =>
        simp at h
        subst h
        exact ⟨⟨s, rfl, h1⟩, by simpa using h2, h3⟩
      | succ k =>
        simp at h
        obtain ⟨⟨x, hx, hr⟩, hq, he⟩ := ih (i + 1) r0.e k r h
        exact ⟨⟨x, by simpa using hx, hr⟩, by rw [hq]; congr 1; omega, by omega⟩

theorem scanFrom_len (l : List ByteArray) : ∀ (i : Nat) (last : Int), (scanFrom i last l).length ≤ l.length := by
  induction l with
  | nil => intro i last; exact Nat.le_refl _
  | cons s l ih =>
    intro i last
    rw [scanFrom]
    cases hn : nextR i last s with
    | none => exact Nat.zero_le _
    | some r0 =>
      have := ih (i + 1) r0.e
      simp only [List.length_cons]
      omega

theorem scanFrom_up (l : List ByteArray) : ∀ (i : Nat) (last : Int) (k : Nat) (r r' : R), (scanFrom i last l)[k]? = some r → (scanFrom i last l)[k + 1]? = some r' → r.e ≤ r'.e := by
  induction l with
  | nil => intro i last k r r' h; simp [scanFrom] at h
  | cons s l ih =>
    intro i last k r r' h h'
    rw [scanFrom] at h h'
    cases hn : nextR i last s with
    | none => rw [hn] at h; simp at h
    | some r0 =>
      rw [hn] at h h'
      cases k with
      | zero =>
        simp at h h'
        subst h
        exact (scanFrom_at l (i + 1) r0.e 0 r' (by simpa using h')).2.2
      | succ k =>
        simp at h h'
        exact ih (i + 1) r0.e k r r' h h'

theorem topStep_ge (m : Int) (s : ByteArray) : m ≤ topStep m s := by
  cases h : recOf s with
  | none => rw [topStep_none h]; exact Int.le_refl _
  | some r => rw [topStep_some h]; split <;> omega

theorem top_ge (l : List ByteArray) : ∀ m : Int, m ≤ l.foldl topStep m := by
  induction l with
  | nil => intro m; exact Int.le_refl _
  | cons s l ih => intro m; exact Int.le_trans (topStep_ge m s) (ih _)

theorem top_in (l : List ByteArray) : ∀ (m : Int) (k : Nat) (x : ByteArray) (r : R), l[k]? = some x → recOf x = some r → r.e ≤ l.foldl topStep m := by
  induction l with
  | nil => intro m k x r h; simp at h
  | cons s l ih =>
    intro m k x r h hr
    cases k with
    | zero =>
      simp at h
      subst h
      refine Int.le_trans ?_ (top_ge l _)
      rw [topStep_some hr]
      split <;> omega
    | succ k => exact ih _ k x r (by simpa using h) hr

/-- One of the records ahead. -/
theorem scan_one {X : List ByteArray} {k : Nat} {r : R} (h : (scanR X)[k]? = some r) : (∃ x, X[k]? = some x ∧ recOf x = some r) ∧ r.q = (k : Int) ∧ r.e ≤ topE X := by
  obtain ⟨⟨x, hx, hr⟩, hq, _⟩ := scanFrom_at X 0 0 k r h
  exact ⟨⟨x, hx, hr⟩, by rw [hq]; congr 1; omega, top_in X (-1) k x r hx hr⟩

theorem scan_two {X : List ByteArray} {k : Nat} {r r' : R} (h : (scanR X)[k]? = some r) (h' : (scanR X)[k + 1]? = some r') : r.e ≤ r'.e := scanFrom_up X 0 0 k r r' h h'

end Go.Proofs.YtenkpgnkkkgdmaeDoor
