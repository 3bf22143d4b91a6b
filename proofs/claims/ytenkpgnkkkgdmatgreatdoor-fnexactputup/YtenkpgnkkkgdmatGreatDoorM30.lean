/- A copy of a disk in a variable, beside the disk and a variable for the answer. No statement of the program but its table of types. What the program's hasSector answers. What a put does: the model; no program in it. What the program's PutSector answers. -/
import Derived.Test.YtenkpgnkkkgdmatGreatDoorM28
import Derived.Test.YtenkpgnkkkgdmatGreatDoorM04
import Derived.Test.YtenkpgnkkkgdmatGreatDoorM04
import Derived.Test.YtenkpgnkkkgdmatGreatDoorM19
import Derived.Test.YtenkpgnkkkgdmatGreatDoorM20
import Derived.Deep.CutBlock
namespace Go.Proofs.YtenkpgnkkkgdmatGreatDoor
open Go.RowKit
set_option linter.unusedVariables false

def DOut (w W : World) (d d' : Value) (o : Nat) (v v' : Value) (k k' : Nat) (X Y : List ByteArray) : Prop :=
  Box2R W w.heap.size 29 d d' ∧ Box2R W (w.heap.size + 1) 29 (.slice none 0 0) (.slice none 0 0) ∧ Box2R W o 29 v v' ∧
  OwnSt W (w.heap.size + 2) v k X ∧ OwnSt W (w.heap.size + 2) v' k' Y ∧ (∀ q, blkOf v = some q → q < o ∧ blkOf v' ≠ some q) ∧ (∀ q, blkOf v' = some q → q < o) ∧ w.heap.size + 2 ≤ o ∧ Below w.heap.size w W

section
variable {w W W' : World} {d d' v v' : Value} {o k k' : Nat} {X Y : List ByteArray}

theorem DOut.stays (h : DOut w W d d' o v v' k k' X Y) (hb : Below W.heap.size W W') : DOut w W' d d' o v v' k k' X Y := by
  obtain ⟨h1, h2, h3, h4, h5, h6, h7, h8, h9⟩ := h
  exact ⟨h1.stays hb, h2.stays hb, h3.stays hb, h4.below hb, h5.below hb, h6, h7, h8, h9.trans (hb.mono h9.size)⟩

theorem DOut.new {x : World} (h1 : Box2R W w.heap.size 29 d d') (h2 : Box2R W (w.heap.size + 1) 29 (.slice none 0 0) (.slice none 0 0)) (hz : W.heap.size = w.heap.size + 2) (hb : Below w.heap.size w W) (hx : Below W.heap.size W x)
    (o1 : OwnSt x W.heap.size v k X) (o2 : OwnSt x W.heap.size v' k' Y) (hne : ∀ q, blkOf v = some q → blkOf v' ≠ some q) : DOut w (x.alloc (.cells #[v, v'] 29)) d d' x.heap.size v v' k k' X Y := by
  have ha := (Below.refl x.heap.size x).alloc (Nat.le_refl _) (.cells #[v, v'] 29)
  have hxs := hx.size
  refine ⟨(h1.stays hx).alloc _, (h2.stays hx).alloc _, Box2R.new _ _ _ _, (o1.below ha).low (by omega), (o2.below ha).low (by omega), fun q e => ⟨(o1.lt q e).2, hne q e⟩, fun q e => (o2.lt q e).2, by omega, ?_⟩
  have hbx := hb.trans (hx.mono hb.size)
  exact hbx.alloc hbx.size _

/-- One text of the first row is written. -/
theorem DOut.put0 {g c j : Nat} (h : DOut w W d d' o (.slice (some ⟨g, 0, none⟩) k c) v' k k' X Y) (x : ByteArray) (hx : x.size ≤ maxLen) : DOut w (W.setCell ⟨g, j, none⟩ (.string x)) d d' o (.slice (some ⟨g, 0, none⟩) k c) v' k k' (X.set j x) Y := by
  obtain ⟨h1, h2, h3, h4, h5, h6, h7, h8, h9⟩ := h
  have hg := (h4.lt g rfl).1
  have hgo := (h6 g rfl).1
  have hst := (h4.1.stored j (.string x)).1
  rw [scells_set] at hst
  refine ⟨h1.other (by omega) _, h2.other (by omega) _, h3.other (by omega) _, ⟨hst, fun y hy => ?_⟩, h5.setCell (h6 g rfl).2 _, h6, h7, h8, h9.setCell (by dsimp only; omega) _⟩
  rcases List.mem_or_eq_of_mem_set hy with hy | rfl
  · exact h4.2 y hy
  · exact hx

/-- One text of the second row is written. -/
theorem DOut.put1 {g c j : Nat} (h : DOut w W d d' o v (.slice (some ⟨g, 0, none⟩) k' c) k k' X Y) (x : ByteArray) (hx : x.size ≤ maxLen) : DOut w (W.setCell ⟨g, j, none⟩ (.string x)) d d' o v (.slice (some ⟨g, 0, none⟩) k' c) k k' X (Y.set j x) := by
  obtain ⟨h1, h2, h3, h4, h5, h6, h7, h8, h9⟩ := h
  have hg := (h5.lt g rfl).1
  have hgo := h7 g rfl
  have hst := (h5.1.stored j (.string x)).1
  rw [scells_set] at hst
  refine ⟨h1.other (by omega) _, h2.other (by omega) _, h3.other (by omega) _, h4.setCell (fun e => (h6 g e).2 rfl) _, ⟨hst, fun y hy => ?_⟩, h6, h7, h8, h9.setCell (by dsimp only; omega) _⟩
  rcases List.mem_or_eq_of_mem_set hy with hy | rfl
  · exact h5.2 y hy
  · exact hx

/-- The copy is the answer. -/
theorem DOut.done {A A' : Option Addr} {c c' : Nat} (h : DOut w W d d' o (.slice A k c) (.slice A' k' c') k k' X Y) : AnsD w.heap.size X Y (.agg #[.slice A k c, .slice A' k' c']) ((W.setCell ⟨w.heap.size + 1, 0, none⟩ (.slice A k c)).setCell ⟨w.heap.size + 1, 1, none⟩ (.slice A' k' c')) ∧ Below w.heap.size w ((W.setCell ⟨w.heap.size + 1, 0, none⟩ (.slice A k c)).setCell ⟨w.heap.size + 1, 1, none⟩ (.slice A' k' c')) := by
  obtain ⟨h1, h2, h3, h4, h5, h6, h7, h8, h9⟩ := h
  have n0 : blkOf (.slice A k c) ≠ some (w.heap.size + 1) := fun e => by have := (h4.lt _ e).1; omega
  have n1 : blkOf (.slice A' k' c') ≠ some (w.heap.size + 1) := fun e => by have := (h5.lt _ e).1; omega
  refine ⟨AnsD.mk' h4.len h5.len (((h4.setCell n0 _).setCell n0 _).low (by omega)) (((h5.setCell n1 _).setCell n1 _).low (by omega)) (fun q e e2 => ?_), (h9.setCell (by dsimp only; omega) _).setCell (by dsimp only; omega) _⟩
  refine (h6 q ?_).2 ?_
  · cases A <;> simp_all [blkOf]
  · cases A' <;> simp_all [blkOf]
end

end Go.Proofs.YtenkpgnkkkgdmatGreatDoor

namespace Go.Proofs.YtenkpgnkkkgdmatGreatDoor
open Go.RowKit
set_option linter.unusedVariables false

theorem ret_bH {a b : Bool} (h : a = b) : Ending.returned (.bool a) = .returned (.bool b) := by rw [h]

/-- Whether there is a sector i. -/
def hasB (n : Nat) (i : Int) : Bool := decide (0 ≤ i ∧ i < (n : Int))

theorem implHas_any (a : Option Addr) (n ca : Nat) (a' : Option Addr) (n' ca' : Nat) (i : Int) (w : World) (hn : n ≤ 1099511627776) :
    Calls Tryz.prog 84 #[.agg #[.slice a n ca, .slice a' n' ca'], .int .i64 i] w fun e w' => e = .returned (.bool (hasB n i)) ∧ Below w.heap.size w w' := by
  have HB : Hid (Below w.heap.size w (w.alloc (Obj.cells #[Value.slice a n ca, Value.slice a' n' ca'] 29))) := (Below.refl _ _).alloc (Nat.le_refl _) _
  by_cases h0 : 0 ≤ i
  · have HF : Hid (hasB n i = decide (i < (n : Int))) := by
      show _ = _
      rw [hasB, decide_eq_decide]
      omega
    go_enter Tryz.func84, Tryz.ntmps84
    go_wp2_with fail
    go_ret
    exact ⟨ret_bH HF.out.symm, HB.out⟩
  · have HF : Hid (hasB n i = false) := decide_eq_false (by omega)
    go_enter Tryz.func84, Tryz.ntmps84
    go_wp2_with fail
    go_ret
    exact ⟨ret_bH HF.out.symm, HB.out⟩

end Go.Proofs.YtenkpgnkkkgdmatGreatDoor

namespace Go.Proofs.YtenkpgnkkkgdmatGreatDoor
open Go.RowKit
set_option linter.unusedVariables false

/-- Whether a sector may be put. -/
def mayPut (xs ys : List ByteArray) (i : Int) (s : ByteArray) : Bool := okD xs ys && decide (0 ≤ i ∧ i ≤ (xs.length : Int) - 1) && decide (s.size ≤ 64)

/-- The sectors behind a put. -/
def putX (xs ys : List ByteArray) (i : Int) (s : ByteArray) : List ByteArray := if mayPut xs ys i s then xs.set i.toNat s else xs

theorem putX_len (xs ys : List ByteArray) (i : Int) (s : ByteArray) : (putX xs ys i s).length = xs.length := by
  rw [putX]
  split
  · rw [List.length_set]
  · rfl

end Go.Proofs.YtenkpgnkkkgdmatGreatDoor

namespace Go.Proofs.YtenkpgnkkkgdmatGreatDoor
open Go.RowKit
set_option linter.unusedVariables false

theorem blkOf_sP (a : Option Addr) (n c : Nat) : blkOf (.slice a n c) = a.map (·.block) := by cases a <;> rfl

set_option maxRecDepth 10000 in
set_option maxHeartbeats 3200000 in
theorem implPutD_any (a : Option Addr) (n ca : Nat) (xs : List ByteArray) (a' : Option Addr) (n' ca' : Nat) (ys : List ByteArray) (i : Int) (s : ByteArray) (w : World) (h1 : Strs w a n xs) (h2 : Strs w a' n' ys) (hn : n ≤ 2097152) (hn' : n' ≤ 2097152) (hs : s.size ≤ maxLen) :
    Calls Tryz.prog 58 #[.agg #[.slice a n ca, .slice a' n' ca'], .int .i64 i, .string s] w fun e w' => (∃ v, e = .returned (.tuple #[v, .bool (mayPut xs ys i s)]) ∧ AnsD w.heap.size (putX xs ys i s) ys v w') ∧ Below w.heap.size w w' := by
  have HX : Hid (∀ W, Below w.heap.size w W → Strs W a n xs ∧ Strs W a' n' ys) := fun W h => ⟨h1.below h, h2.below h⟩
  have HLn : Hid (xs.length = n ∧ ys.length = n') := ⟨h1.1, h2.1⟩
  obtain ⟨W2, hW2⟩ : ∃ W2, (w.alloc (.cells #[.slice a n ca, .slice a' n' ca'] 29)).alloc (.cells #[.slice none 0 0, .slice none 0 0] 29) = W2 := ⟨_, rfl⟩
  have HE : Hid ((w.alloc (.cells #[.slice a n ca, .slice a' n' ca'] 29)).alloc (.cells #[.slice none 0 0, .slice none 0 0] 29) = W2) := hW2
  have HB2 : Hid (Below w.heap.size w W2) := by show Below _ _ _; rw [← hW2]; exact ((Below.refl _ _).alloc (Nat.le_refl _) _).alloc (by simp) _
  have HZ2 : Hid (W2.heap.size = w.heap.size + 2) := by show _ = _; rw [← hW2]; simp
  have HQ1 : Hid (Box2R W2 w.heap.size 29 (.slice a n ca) (.slice a' n' ca')) := by show Box2R _ _ _ _ _; rw [← hW2]; exact (Box2R.new _ _ _ _).alloc _
  have HQ2 : Hid (Box2R W2 (w.heap.size + 1) 29 (.slice none 0 0) (.slice none 0 0)) := by
    show Box2R _ _ _ _ _
    rw [← hW2]
    have := Box2R.new (w.alloc (.cells #[.slice a n ca, .slice a' n' ca'] 29)) 29 (.slice none 0 0) (.slice none 0 0)
    rwa [World.size_alloc] at this
  clear hW2 h1 h2
  go_enter Tryz.func58, Tryz.ntmps58
  go_upto_region 1 with fail
  rw [HE.out]
  clear HE
  obtain ⟨c0, c1⟩ := HQ1.out.cells
  go_wp2_with fail
  refine (implDcopy_any a n ca xs a' n' ca' ys _ (HX.out _ HB2.out).1 (HX.out _ HB2.out).2 hn hn').mono ?_
  rintro e x3 ⟨⟨v, rfl, A, C, A', C', rfl, o1, o2, hap⟩, hb3⟩
  rw [HLn.out.1] at o1 ⊢
  rw [HLn.out.2] at o2 ⊢
  have HD : Hid (DOut w (x3.alloc (.cells #[.slice A n C, .slice A' n' C'] 29)) (.slice a n ca) (.slice a' n' ca') x3.heap.size (.slice A n C) (.slice A' n' C') n n' xs ys) := DOut.new HQ1.out HQ2.out HZ2.out HB2.out hb3 o1 o2 (fun q e e2 => by rw [blkOf_sP] at e e2; exact hap q e e2)
  clear o1 o2 hap hb3 HQ1 HQ2 HB2 HZ2 c0 c1
  go_upto_region 2 with fail
  obtain ⟨W3, hW3⟩ : ∃ W3, x3.alloc (.cells #[.slice A n C, .slice A' n' C'] 29) = W3 := ⟨_, rfl⟩
  rw [hW3] at HD ⊢
  clear hW3
  generalize x3.heap.size = o at *
  obtain ⟨c0, c1⟩ := HD.out.1.cells
  go_wp2_with fail
  refine (implDok_any a n ca xs a' n' ca' ys _ (HX.out _ HD.out.2.2.2.2.2.2.2.2).1 (HX.out _ HD.out.2.2.2.2.2.2.2.2).2 (by omega) (by omega)).mono ?_
  rintro e x4 ⟨rfl, hb4⟩
  have HDx : Hid (DOut w x4 (.slice a n ca) (.slice a' n' ca') o (.slice A n C) (.slice A' n' C') n n' xs ys) := HD.out.stays hb4
  clear hb4 HD c0 c1
  cases hok : okD xs ys
  · have HM : Hid (mayPut xs ys i s = false) := by show _ = _; rw [mayPut, hok]; rfl
    have HP : Hid (putX xs ys i s = xs) := by show _ = _; rw [putX, HM.out]; rfl
    clear hok
    obtain ⟨c0, c1⟩ := HDx.out.2.2.1.cells
    obtain ⟨r0, r1⟩ := HDx.out.2.1.cells
    have f0 := HDx.out.2.1.frozen 0
    have f1 := HDx.out.2.1.frozen 1
    have HR := (show Hid _ from HDx.out.done)
    clear HDx
    go_wp2_with fail
    refine bodyPost_ret (v := .tuple #[.agg #[.slice A n C, .slice A' n' C'], .bool false]) (by simp [results, Tryz.f58, go_sem, r0, r1]) rfl ?_
    exact ⟨⟨_, by rw [HM.out], by rw [HP.out]; exact HR.out.1⟩, HR.out.2⟩
  obtain ⟨c0, c1⟩ := HDx.out.1.cells
  go_wp2_with fail
  refine (implHas_any a n ca a' n' ca' i _ (by omega)).mono ?_
  rintro e x5 ⟨rfl, hb5⟩
  have HD5 : Hid (DOut w x5 (.slice a n ca) (.slice a' n' ca') o (.slice A n C) (.slice A' n' C') n n' xs ys) := HDx.out.stays hb5
  clear hb5 HDx c0 c1
  have HDx := HD5
  clear HD5
  by_cases hin : 0 ≤ i ∧ i ≤ (n : Int) - 1
  case neg =>
    have HM : Hid (mayPut xs ys i s = false) := by show _ = _; rw [mayPut, hok, HLn.out.1, decide_eq_false hin]; rfl
    have HP : Hid (putX xs ys i s = xs) := by show _ = _; rw [putX, HM.out]; rfl
    rw [show hasB n i = false from decide_eq_false (by omega)]
    clear hok hin
    obtain ⟨c0, c1⟩ := HDx.out.2.2.1.cells
    obtain ⟨r0, r1⟩ := HDx.out.2.1.cells
    have f0 := HDx.out.2.1.frozen 0
    have f1 := HDx.out.2.1.frozen 1
    have HR := (show Hid _ from HDx.out.done)
    clear HDx
    go_wp2_with fail
    refine bodyPost_ret (v := .tuple #[.agg #[.slice A n C, .slice A' n' C'], .bool false]) (by simp [results, Tryz.f58, go_sem, r0, r1]) rfl ?_
    exact ⟨⟨_, by rw [HM.out], by rw [HP.out]; exact HR.out.1⟩, HR.out.2⟩
  rw [show hasB n i = true from decide_eq_true (by omega)]
  by_cases hsz : s.size ≤ 64
  case neg =>
    have HM : Hid (mayPut xs ys i s = false) := by show _ = _; rw [mayPut, decide_eq_false hsz, Bool.and_false]
    have HP : Hid (putX xs ys i s = xs) := by show _ = _; rw [putX, HM.out]; rfl
    have hft : fitsD s = false := decide_eq_false hsz
    clear hok hin
    go_wp2_with fail
    refine (implLong_any s _ hs).mono ?_
    rintro e x6 ⟨rfl, rfl⟩
    rw [hft]
    obtain ⟨c0, c1⟩ := HDx.out.2.2.1.cells
    obtain ⟨r0, r1⟩ := HDx.out.2.1.cells
    have f0 := HDx.out.2.1.frozen 0
    have f1 := HDx.out.2.1.frozen 1
    have HR := (show Hid _ from HDx.out.done)
    clear HDx
    go_wp2_with fail
    refine bodyPost_ret (v := .tuple #[.agg #[.slice A n C, .slice A' n' C'], .bool false]) (by simp [results, Tryz.f58, go_sem, r0, r1]) rfl ?_
    exact ⟨⟨_, by rw [HM.out], by rw [HP.out]; exact HR.out.1⟩, HR.out.2⟩
  have HM : Hid (mayPut xs ys i s = true) := by show _ = _; rw [mayPut, hok, HLn.out.1, decide_eq_true hin, decide_eq_true hsz]; rfl
  have hft : fitsD s = true := decide_eq_true hsz
  obtain ⟨K, rfl⟩ := Int.eq_ofNat_of_zero_le hin.1
  have hK : K < n := by omega
  have HP : Hid (putX xs ys (K : Int) s = xs.set K s) := by show _ = _; rw [putX, HM.out, if_pos rfl, Int.toNat_natCast]
  clear hok
  obtain ⟨g, rfl⟩ : ∃ g, A = some ⟨g, 0, none⟩ := by
    rcases HDx.out.2.2.2.1.1.2 with ⟨_, h0⟩ | ⟨g, cap', cur, he, _⟩
    · omega
    · injection he with e1 _ _
      exact ⟨g, e1⟩
  have hKi : (K : Int) < (n : Int) := by omega
  go_wp2_with fail
  refine (implLong_any s _ hs).mono ?_
  rintro e x6 ⟨rfl, rfl⟩
  rw [hft]
  obtain ⟨c0, c1⟩ := HDx.out.2.2.1.cells
  have hcl : (scells xs).length = n := by rw [scells_len, HLn.out.1]
  have fz : x6.frozen? ⟨g, K, none⟩ = false := HDx.out.2.2.2.1.1.frozenAt _
  obtain ⟨u0, hu0⟩ : ∃ u, x6.cell? ⟨g, K, none⟩ = some u := by
    rw [HDx.out.2.2.2.1.1.cellAt _ (by omega)]
    exact ⟨_, List.getElem?_eq_getElem (by omega)⟩
  clear hcl
  have HD6 : Hid (DOut w (x6.setCell ⟨g, K, none⟩ (.string s)) (.slice a n ca) (.slice a' n' ca') o (.slice (some ⟨g, 0, none⟩) n C) (.slice A' n' C') n n' (xs.set K s) ys) := HDx.out.put0 s hs
  clear HDx
  go_upto_region 5 with fail
  obtain ⟨W6, hW6⟩ : ∃ W6, x6.setCell ⟨g, K, none⟩ (.string s) = W6 := ⟨_, rfl⟩
  rw [hW6] at HD6 ⊢
  clear hW6 c0 c1 fz hu0
  have HDx := HD6
  clear HD6
  obtain ⟨c0, c1⟩ := HDx.out.2.2.1.cells
  obtain ⟨r0, r1⟩ := HDx.out.2.1.cells
  have f0 := HDx.out.2.1.frozen 0
  have f1 := HDx.out.2.1.frozen 1
  have HR := (show Hid _ from HDx.out.done)
  clear HDx
  go_wp2_with fail
  refine bodyPost_ret (v := .tuple #[.agg #[.slice (some ⟨g, 0, none⟩) n C, .slice A' n' C'], .bool true]) (by simp [results, Tryz.f58, go_sem, r0, r1]) rfl ?_
  exact ⟨⟨_, by rw [HM.out], by rw [HP.out]; exact HR.out.1⟩, HR.out.2⟩

end Go.Proofs.YtenkpgnkkkgdmatGreatDoor
