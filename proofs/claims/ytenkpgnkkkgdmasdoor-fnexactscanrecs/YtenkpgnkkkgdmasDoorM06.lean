/- An answer that is a disk: its rows lie in memory from base on, and apart. No program in it. A disk in a variable of the law's: its rows lie from lo on and below the variable. A row of records of the law's: where it lies. No statement of the program but its table of types. A variable of any number of cells: no program in it. The comparison of bytes that the laws call. For slices of at most 2^40 bytes. -/
import Derived.Test.YtenkpgnkkkgdmasDoorM05
import Derived.Deep.AppendSrc
import Derived.Test.YtenkpgnkkkgdmasDoorM03
import Derived.Test.YtenkpgnkkkgdmasDoorM04
import Derived.Test.YtenkpgnkkkgdmasDoorM01
import Derived.Test.YtenkpgnkkkgdmasDoorRows
import Derived.Deep.QuietTactic
import Derived.BigQuiet
namespace Go.Proofs.YtenkpgnkkkgdmasDoor
open Go.RowKit
set_option linter.unusedVariables false

def AnsD (base : Nat) (X Y : List ByteArray) (v : Value) (w' : World) : Prop :=
  ∃ A C A' C', v = .agg #[.slice A X.length C, .slice A' Y.length C'] ∧ OwnSt w' base (.slice A X.length C) X.length X ∧ OwnSt w' base (.slice A' Y.length C') Y.length Y ∧ ∀ q, A.map (·.block) = some q → A'.map (·.block) ≠ some q

theorem AnsD.mk' {base : Nat} {X Y : List ByteArray} {w' : World} {A A' : Option Addr} {n C n' C' : Nat} (hn : X.length = n) (hn' : Y.length = n') (h1 : OwnSt w' base (.slice A n C) n X) (h2 : OwnSt w' base (.slice A' n' C') n' Y) (hne : ∀ q, A.map (·.block) = some q → A'.map (·.block) ≠ some q) : AnsD base X Y (.agg #[.slice A n C, .slice A' n' C']) w' := by
  subst hn hn'
  exact ⟨A, C, A', C', rfl, h1, h2, hne⟩

/-- Texts as what is appended. -/
theorem Strs.src {w : World} {a : Option Addr} {n c : Nat} {l : List ByteArray} (h : Strs w a n l) : Src Tryd.prog 1 36 (.slice a n c) n (scells l) w := by
  cases a with
  | none =>
    have h0 := h.none_nil rfl
    subst h0
    have : l = [] := List.eq_nil_of_length_eq_zero h.1
    subst this
    exact Src.ofNil _ Tryd.underlying36 c
  | some ad => exact Src.ofSlice _ Tryd.underlying36 ad n c _ (by rw [scells_len, h.1, Nat.mul_one]) (h.cells ad rfl) (scells_one l)

theorem cellD_kept {Y : World} {b b' i k : Nat} {v u : Value} (hne : b ≠ b') (h : Y.cell? ⟨b, i, none⟩ = some v) : (Y.setCell ⟨b', k, none⟩ u).cell? ⟨b, i, none⟩ = some v := by
  have e := set_block_ne Y b b' k u hne
  simp only [World.cell?] at h ⊢
  rw [e]
  exact h

end Go.Proofs.YtenkpgnkkkgdmasDoor

namespace Go.Proofs.YtenkpgnkkkgdmasDoor
open Go.RowKit
set_option linter.unusedVariables false

def DAt (W : World) (lo b : Nat) (A : Option Addr) (m C : Nat) (l : List ByteArray) (A' : Option Addr) (m' C' : Nat) (l' : List ByteArray) : Prop :=
  Box2R W b 42 (.slice A m C) (.slice A' m' C') ∧ OwnSt W lo (.slice A m C) m l ∧ OwnSt W lo (.slice A' m' C') m' l' ∧ lo ≤ b ∧ (∀ q, A.map (·.block) = some q → q < b) ∧ (∀ q, A'.map (·.block) = some q → q < b) ∧ ∀ q, A.map (·.block) = some q → A'.map (·.block) ≠ some q

section
variable {W W' : World} {lo b : Nat} {A : Option Addr} {m C : Nat} {l : List ByteArray} {A' : Option Addr} {m' C' : Nat} {l' : List ByteArray}

theorem DAt.stays (h : DAt W lo b A m C l A' m' C' l') (hb : Below W.heap.size W W') : DAt W' lo b A m C l A' m' C' l' := ⟨h.1.stays hb, h.2.1.below hb, h.2.2.1.below hb, h.2.2.2⟩

theorem DAt.new (o1 : OwnSt W lo (.slice A m C) m l) (o2 : OwnSt W lo (.slice A' m' C') m' l') (hne : ∀ q, A.map (·.block) = some q → A'.map (·.block) ≠ some q) (hlo : lo ≤ W.heap.size) : DAt (W.alloc (.cells #[.slice A m C, .slice A' m' C'] 42)) lo W.heap.size A m C l A' m' C' l' :=
  ⟨Box2R.new _ _ _ _, o1.below ((Below.refl _ _).alloc (Nat.le_refl _) _), o2.below ((Below.refl _ _).alloc (Nat.le_refl _) _), hlo, fun q e => (o1.lt q (by rw [blkOf_slice]; exact e)).2, fun q e => (o2.lt q (by rw [blkOf_slice]; exact e)).2, hne⟩

theorem DAt.row (h : DAt W lo b A m C l A' m' C' l') : (∀ q, A.map (·.block) = some q → lo ≤ q ∧ q < b) ∧ ∀ q, A'.map (·.block) = some q → lo ≤ q ∧ q < b :=
  ⟨fun q e => ⟨(h.2.1.lt q (by rw [blkOf_slice]; exact e)).1, h.2.2.2.2.1 q e⟩, fun q e => ⟨(h.2.2.1.lt q (by rw [blkOf_slice]; exact e)).1, h.2.2.2.2.2.1 q e⟩⟩

theorem DAt.kept {r : Option Nat} (h : DAt W lo b A m C l A' m' C' l') (hg : W.grownBy W' r) (hr : ∀ q, r = some q → q < lo ∨ b < q) : DAt W' lo b A m C l A' m' C' l' := by
  obtain ⟨r1, r2⟩ := h.row
  refine ⟨h.1.grown hg (fun e => by have := hr _ e; have := h.2.2.2.1; omega), h.2.1.kept hg (fun q e e2 => ?_), h.2.2.1.kept hg (fun q e e2 => ?_), h.2.2.2⟩
  · rw [blkOf_slice] at e2
    have := hr q e
    have := r1 q e2
    omega
  · rw [blkOf_slice] at e2
    have := hr q e
    have := r2 q e2
    omega

theorem DAt.kept2 {r r' : Option Nat} (h : DAt W lo b A m C l A' m' C' l') (hg : Two W W' r r') (hr : ∀ q, r = some q → q < lo ∨ b < q) (hr' : ∀ q, r' = some q → q < lo ∨ b < q) : DAt W' lo b A m C l A' m' C' l' := by
  obtain ⟨w1, g1, g2⟩ := hg
  exact (h.kept g1 hr).kept g2 hr'

theorem DAt.marked {k k' : List ByteArray} (h : DAt W lo b A m C l A' m' C' l') (o1 : OwnSt W' lo (.slice A m C) m k) (o2 : OwnSt W' lo (.slice A' m' C') m' k') (hg : Two W W' (A.map (·.block)) (A'.map (·.block))) : DAt W' lo b A m C k A' m' C' k' := by
  obtain ⟨w1, g1, g2⟩ := hg
  exact ⟨(h.1.grown g1 (fun e => by have := h.2.2.2.2.1 _ e; omega)).grown g2 (fun e => by have := h.2.2.2.2.2.1 _ e; omega), o1, o2, h.2.2.2⟩
end

theorem box_kept2 {W W' : World} {b : Nat} {t : TypeId} {x y : Value} {r r' : Option Nat} (h : Box2R W b t x y) (hg : Two W W' r r') (hr : r ≠ some b) (hr' : r' ≠ some b) : Box2R W' b t x y := by
  obtain ⟨w1, g1, g2⟩ := hg
  exact (h.grown g1 hr).grown g2 hr'

theorem below_two {B : Nat} {w W W' : World} {r r' : Option Nat} (h : Below B w W) (hB : B ≤ W.heap.size) (hg : Two W W' r r') (hr : ∀ q, r = some q → B ≤ q) (hr' : ∀ q, r' = some q → B ≤ q) : Below B w W' := by
  obtain ⟨w1, g1, g2⟩ := hg
  exact (h.grown g1 hB hr).grown g2 (Nat.le_trans hB g1.size) hr'

end Go.Proofs.YtenkpgnkkkgdmasDoor

namespace Go.Proofs.YtenkpgnkkkgdmasDoor
open Go.RowKit
set_option linter.unusedVariables false

def RAt (W : World) (lo hi : Nat) (v : Value) (l : List RE) : Prop := RcRow W lo v l ∧ (∀ q, v.ownBlock = some q → q < hi) ∧ ∀ e ∈ l, ∀ q, e.a.map (·.block) = some q → q < hi

section
variable {W W' : World} {lo hi : Nat} {v : Value} {l : List RE}

theorem RAt.new (h : RcRow W lo v l) : RAt W lo W.heap.size v l := ⟨h, fun q e => (h.lts.1 q e).2, fun e he q hq => (h.lts.2 e he q hq).2⟩
theorem RAt.stays (h : RAt W lo hi v l) (hb : Below W.heap.size W W') : RAt W' lo hi v l := ⟨h.1.stays hb, h.2⟩

theorem RAt.kept {r : Option Nat} (h : RAt W lo hi v l) (hg : W.grownBy W' r) (hr : ∀ q, r = some q → q < lo ∨ hi ≤ q) : RAt W' lo hi v l := by
  refine ⟨h.1.grown hg (fun q e e2 => ?_) (fun x hx q e e2 => ?_), h.2⟩
  · have h1 := hr q e
    have h2 := (h.1.lts.1 q e2).1
    have h3 := h.2.1 q e2
    omega
  · have h1 := hr q e
    have h2 := (h.1.lts.2 x hx q e2).1
    have h3 := h.2.2 x hx q e2
    omega

theorem RAt.kept2 {r r' : Option Nat} (h : RAt W lo hi v l) (hg : Two W W' r r') (hr : ∀ q, r = some q → q < lo ∨ hi ≤ q) (hr' : ∀ q, r' = some q → q < lo ∨ hi ≤ q) : RAt W' lo hi v l := by
  obtain ⟨w1, g1, g2⟩ := hg
  exact (h.kept g1 hr).kept g2 hr'

theorem RAt.under {B : Nat} (h : RAt W lo hi v l) (hb : Below B W W') (hB : hi ≤ B) : RAt W' lo hi v l := ⟨h.1.under hb (fun q e => by have := h.2.1 q e; omega) (fun x hx q e => by have := h.2.2 x hx q e; omega), h.2⟩
end

theorem box_under {W W' : World} {b B : Nat} {t : TypeId} {x y : Value} (h : Box2R W b t x y) (hb : Below B W W') (hB : b < B) : Box2R W' b t x y := (hb.block b hB).trans h

end Go.Proofs.YtenkpgnkkkgdmasDoor

namespace Go.Proofs.YtenkpgnkkkgdmasDoor
open Go.RowKit
set_option linter.unusedVariables false

/-- The block holds a variable of these cells. -/
def BoxN (W : World) (b : Nat) (t : TypeId) (vs : List Value) : Prop := W.heap[b]? = some (.cells vs.toArray t (0, 0))

section
variable {W W' : World} {b : Nat} {t : TypeId} {vs : List Value}

theorem BoxN.lt (h : BoxN W b t vs) : b < W.heap.size := (Array.getElem?_eq_some_iff.1 h).1
theorem BoxN.stays (h : BoxN W b t vs) (hb : Below W.heap.size W W') : BoxN W' b t vs := (hb.block b h.lt).trans h
theorem BoxN.alloc (h : BoxN W b t vs) (o : Obj) : BoxN (W.alloc o) b t vs := h.stays ((Below.refl _ _).alloc (Nat.le_refl _) _)
theorem BoxN.new (W : World) (t : TypeId) (vs : List Value) : BoxN (W.alloc (.cells vs.toArray t)) W.heap.size t vs := heap_alloc_new W _

theorem BoxN.cell (h : BoxN W b t vs) (i : Nat) {v : Value} (hv : vs[i]? = some v) : W.cell? ⟨b, i, none⟩ = some v := by
  have h' : W.heap[b]? = some (.cells vs.toArray t (0, 0)) := h
  rw [cell_of_row _ _ _ _ _ _ h', ← hv]
  simp

theorem BoxN.frozen (h : BoxN W b t vs) (i : Nat) : W.frozen? ⟨b, i, none⟩ = false := by simp [World.frozen?, show W.heap[b]? = _ from h]
theorem BoxN.grown {r : Option Nat} (h : BoxN W b t vs) (hg : W.grownBy W' r) (hr : r ≠ some b) : BoxN W' b t vs := (hg.block b h.lt (Ne.symm hr)).trans h

theorem BoxN.set (h : BoxN W b t vs) (i : Nat) (v : Value) : BoxN (W.setCell ⟨b, i, none⟩ v) b t (vs.set i v) := by
  show (W.setCell ⟨b, i, none⟩ v).heap[b]? = _
  rw [setCell_eq_setRow W b i _ t (0, 0) _ h, setRow_heap W b _ _ t (0, 0) h]
  simp

theorem BoxN.other {b' k : Nat} (h : BoxN W b t vs) (hne : b ≠ b') (v : Value) : BoxN (W.setCell ⟨b', k, none⟩ v) b t vs := (set_block_ne W b b' k v hne).trans h
end

end Go.Proofs.YtenkpgnkkkgdmasDoor

namespace Go.Proofs.YtenkpgnkkkgdmasDoor
open Go.RowKit
set_option linter.unusedVariables false

set_option maxHeartbeats 400000 in
theorem eqByteS_same (a b : Option Addr) (len ca cb : Nat) (xs : List Int) (w : World) (hx : Seg w a len xs) (hy : Seg w b len xs) (hla : len ≤ 1099511627776) :
    Calls Tryd.prog 33 #[.slice a len ca, .slice b len cb] w fun e w' => e = .returned (.bool true) ∧ ∃ n, w' = w.drewN n := by
  have HX : Hid (Seg w a len xs) := hx
  have HY : Hid (Seg w b len xs) := hy
  clear hx hy
  have hne : ((len : Int) != (len : Int)) = false := by simp
  go_enter Tryd.func33, Tryd.ntmps33
  go_wp2
  go_loopw [5] (fun i wr => ∃ k : Nat, k ≤ len ∧ i = .int .i64 k ∧ Hid (∃ n, wr = w.drewN n)) (fun i _ => len - (intOf i).toNat)
  case atStart => exact ⟨0, Nat.zero_le _, rfl, ⟨0, rfl⟩⟩
  case round =>
    obtain ⟨k, hk, rfl, HW⟩ := hrel
    by_cases hlt : k < len
    · obtain ⟨ba, oa, rfl, hba, hca⟩ : ∃ b off, a = some ⟨b, off, none⟩ ∧ b < w.heap.size ∧ ∀ i, i < len → w.cell? ⟨b, off + i, none⟩ = some (.int .u8 (xs.getD i 0)) := by
        rcases HX.out.2.2 with h | h
        · omega
        · exact h
      obtain ⟨bb, ob, rfl, hbb, hcb⟩ : ∃ b' off, b = some ⟨b', off, none⟩ ∧ b' < w.heap.size ∧ ∀ i, i < len → w.cell? ⟨b', off + i, none⟩ = some (.int .u8 (xs.getD i 0)) := by
        rcases HY.out.2.2 with h | h
        · omega
        · exact h
      have ha : wr.cell? ⟨ba, oa + k, none⟩ = some (.int .u8 (xs.getD k 0)) := by obtain ⟨n, rfl⟩ := HW; exact hca k hlt
      have hb : wr.cell? ⟨bb, ob + k, none⟩ = some (.int .u8 (xs.getD k 0)) := by obtain ⟨n, rfl⟩ := HW; exact hcb k hlt
      clear hca hcb
      have hki : (k : Int) < (len : Int) := by omega
      have hk0 : (0 : Int) ≤ (k : Int) := by omega
      go_wp2
      go_quiet (fail)
      go_wp2
      go_roundw
      case rel =>
        refine ⟨k + 1, by omega, by go_num, ?_⟩
        obtain ⟨n, rfl⟩ := HW.out
        exact ⟨_, World.drewN_drewN _ _ _⟩
      case measure => simp [intOf]; omega
    · go_wp2
      go_ret
      exact ⟨rfl, HW.out⟩

end Go.Proofs.YtenkpgnkkkgdmasDoor
