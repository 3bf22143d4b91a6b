/- Rows of records wherever they lie, their bytes wherever these do. No program in it. What the program's hasSector answers. What a put does: the model; no program in it. What the program's PutSector answers. -/
import Derived.Test.YtogopmngbjkcjaaGreatDoorM10
import Derived.Test.YtogopmngbjkcjaaGreatDoorM06
import Derived.Test.YtogopmngbjkcjaaGreatDoorM06
import Derived.Test.YtogopmngbjkcjaaGreatDoorM09
import Derived.Test.YtogopmngbjkcjaaGreatDoorM31
import Derived.Test.YtogopmngbjkcjaaGreatDoorM26
import Derived.Test.YtogopmngbjkcjaaGreatDoorM35
import Derived.Test.YtogopmngbjkcjaaGreatDoorM35
import Derived.Deep.CutBlock
namespace Go.Proofs.YtogopmngbjkcjaaGreatDoor
open Go.RowKit
set_option linter.unusedVariables false

def RcsI (w : World) (a : Option Addr) (n : Nat) (l : List RE) : Prop :=
  l.length = n ∧ (∀ e ∈ l, Seg w e.a e.n e.r.zs) ∧
  (n = 0 ∨ ∃ b off, a = some ⟨b, off, none⟩ ∧ b < w.heap.size ∧ ∀ i (hi : i < l.length), w.cell? ⟨b, off + i * 6, none⟩ = some (.int .i64 (l[i]).r.e) ∧ w.cell? ⟨b, off + i * 6 + 1, none⟩ = some (.int .i64 (l[i]).r.q) ∧ w.cell? ⟨b, off + i * 6 + 2, none⟩ = some (.int .i64 (l[i]).r.k) ∧ w.cell? ⟨b, off + i * 6 + 3, none⟩ = some (.string (l[i]).r.id) ∧ w.cell? ⟨b, off + i * 6 + 4, none⟩ = some (.int .i64 (l[i]).r.n) ∧ w.cell? ⟨b, off + i * 6 + 5, none⟩ = some (.slice (l[i]).a (l[i]).n (l[i]).c))

theorem RcsI.below {w w' : World} {a : Option Addr} {n : Nat} {l : List RE} (h : RcsI w a n l) (hb : Below w.heap.size w w') : RcsI w' a n l := by
  obtain ⟨h1, h2, h3⟩ := h
  refine ⟨h1, fun e he => (h2 e he).below hb, ?_⟩
  rcases h3 with h3 | ⟨b, off, rfl, hlt, hc⟩
  · exact .inl h3
  · refine .inr ⟨b, off, rfl, Nat.lt_of_lt_of_le hlt hb.size, fun i hi => ?_⟩
    obtain ⟨c0, c1, c2, c3, c4, c5⟩ := hc i hi
    have key : ∀ j v, w.cell? ⟨b, j, none⟩ = some v → w'.cell? ⟨b, j, none⟩ = some v := fun j v hv => (hb.cell (p := ⟨b, j, none⟩) hlt).trans hv
    exact ⟨key _ _ c0, key _ _ c1, key _ _ c2, key _ _ c3, key _ _ c4, key _ _ c5⟩

/-- The cells of the record at an index. -/
theorem RcsI.at {w : World} {a : Option Addr} {n : Nat} {l : List RE} (h : RcsI w a n l) {i : Nat} (hi : i < l.length) : ∃ b off, a = some ⟨b, off, none⟩ ∧ w.cell? ⟨b, off + i * 6, none⟩ = some (.int .i64 (l[i]).r.e) ∧ w.cell? ⟨b, off + i * 6 + 1, none⟩ = some (.int .i64 (l[i]).r.q) ∧ w.cell? ⟨b, off + i * 6 + 2, none⟩ = some (.int .i64 (l[i]).r.k) ∧ w.cell? ⟨b, off + i * 6 + 3, none⟩ = some (.string (l[i]).r.id) ∧ w.cell? ⟨b, off + i * 6 + 4, none⟩ = some (.int .i64 (l[i]).r.n) ∧ w.cell? ⟨b, off + i * 6 + 5, none⟩ = some (.slice (l[i]).a (l[i]).n (l[i]).c) := by
  rcases h.2.2 with h0 | ⟨b, off, rfl, _, hc⟩
  · have := h.1; omega
  · exact ⟨b, off, rfl, hc i hi⟩

theorem RcRow.rcsI {w : World} {base n c : Nat} {a : Option Addr} {l : List RE} (h : RcRow w base (.slice a n c) l) (hn : n = l.length) : RcsI w a n l := by
  refine ⟨hn.symm, fun e he => (h.2.1 e he).seg, ?_⟩
  by_cases h0 : n = 0
  · exact .inl h0
  · have h1 : 0 < l.length := by omega
    obtain ⟨g, rfl, _⟩ := h.at hn h1
    have hlt := (h.1.lt g rfl).2
    refine .inr ⟨g, 0, rfl, hlt, fun i hi => ?_⟩
    obtain ⟨g', hg', c0, c1, c2, c3, c4, c5, _⟩ := h.at hn hi
    injection hg' with hg'
    injection hg' with hg'
    subst hg'
    simp only [Nat.zero_add]
    exact ⟨c0, c1, c2, c3, c4, c5⟩

end Go.Proofs.YtogopmngbjkcjaaGreatDoor

namespace Go.Proofs.YtogopmngbjkcjaaGreatDoor
open Go.RowKit
set_option linter.unusedVariables false

theorem ret_bH {a b : Bool} (h : a = b) : Ending.returned (.bool a) = .returned (.bool b) := by rw [h]

/-- Whether there is a sector i. -/
def hasB (n : Nat) (i : Int) : Bool := decide (0 ≤ i ∧ i < (n : Int))

theorem implHas_any (a : Option Addr) (n ca : Nat) (a' : Option Addr) (n' ca' : Nat) (i : Int) (w : World) (hn : n ≤ 1099511627776) :
    Calls Tryz.prog 68 #[.agg #[.slice a n ca, .slice a' n' ca'], .int .i64 i] w fun e w' => e = .returned (.bool (hasB n i)) ∧ Below w.heap.size w w' := by
  have HB : Hid (Below w.heap.size w (w.alloc (Obj.cells #[Value.slice a n ca, Value.slice a' n' ca'] 26))) := (Below.refl _ _).alloc (Nat.le_refl _) _
  by_cases h0 : 0 ≤ i
  · have HF : Hid (hasB n i = decide (i < (n : Int))) := by
      show _ = _
      rw [hasB, decide_eq_decide]
      omega
    go_enter Tryz.func68, Tryz.ntmps68
    go_wp2_with fail
    go_ret
    exact ⟨ret_bH HF.out.symm, HB.out⟩
  · have HF : Hid (hasB n i = false) := decide_eq_false (by omega)
    go_enter Tryz.func68, Tryz.ntmps68
    go_wp2_with fail
    go_ret
    exact ⟨ret_bH HF.out.symm, HB.out⟩

end Go.Proofs.YtogopmngbjkcjaaGreatDoor

namespace Go.Proofs.YtogopmngbjkcjaaGreatDoor
open Go.RowKit
set_option linter.unusedVariables false

/-- Whether a sector may be put. -/
def mayPut (xs ys : List ByteArray) (i : Int) (s : ByteArray) : Bool := okD xs ys && decide (0 ≤ i ∧ i ≤ (xs.length : Int) - 1) && decide (s.size ≤ 64)

/-- The sectors behind a put. -/
def putX (xs ys : List ByteArray) (i : Int) (s : ByteArray) : List ByteArray := if mayPut xs ys i s then xs.set i.toNat s else xs

theorem putX_len (xs ys : List ByteArray) (i : Int) (s : ByteArray) : (putX xs ys i s).length = xs.length := by
  rw [putX]
  split
  · rw [List.length_set]
  · rfl

end Go.Proofs.YtogopmngbjkcjaaGreatDoor

namespace Go.Proofs.YtogopmngbjkcjaaGreatDoor
open Go.RowKit
set_option linter.unusedVariables false

theorem blkOf_sP (a : Option Addr) (n c : Nat) : blkOf (.slice a n c) = a.map (·.block) := by cases a <;> rfl

set_option maxRecDepth 10000 in
set_option maxHeartbeats 3200000 in
theorem implPutD_any (a : Option Addr) (n ca : Nat) (xs : List ByteArray) (a' : Option Addr) (n' ca' : Nat) (ys : List ByteArray) (i : Int) (s : ByteArray) (w : World) (h1 : Strs w a n xs) (h2 : Strs w a' n' ys) (hn : n ≤ 2097152) (hn' : n' ≤ 2097152) (hs : s.size ≤ maxLen) :
    Calls Tryz.prog 40 #[.agg #[.slice a n ca, .slice a' n' ca'], .int .i64 i, .string s] w fun e w' => (∃ v, e = .returned (.tuple #[v, .bool (mayPut xs ys i s)]) ∧ AnsD w.heap.size (putX xs ys i s) ys v w') ∧ Below w.heap.size w w' := by
  have HX : Hid (∀ W, Below w.heap.size w W → Strs W a n xs ∧ Strs W a' n' ys) := fun W h => ⟨h1.below h, h2.below h⟩
  have HLn : Hid (xs.length = n ∧ ys.length = n') := ⟨h1.1, h2.1⟩
  obtain ⟨W2, hW2⟩ : ∃ W2, (w.alloc (.cells #[.slice a n ca, .slice a' n' ca'] 26)).alloc (.cells #[.slice none 0 0, .slice none 0 0] 26) = W2 := ⟨_, rfl⟩
  have HE : Hid ((w.alloc (.cells #[.slice a n ca, .slice a' n' ca'] 26)).alloc (.cells #[.slice none 0 0, .slice none 0 0] 26) = W2) := hW2
  have HB2 : Hid (Below w.heap.size w W2) := by show Below _ _ _; rw [← hW2]; exact ((Below.refl _ _).alloc (Nat.le_refl _) _).alloc (by simp) _
  have HZ2 : Hid (W2.heap.size = w.heap.size + 2) := by show _ = _; rw [← hW2]; simp
  have HQ1 : Hid (Box2R W2 w.heap.size 26 (.slice a n ca) (.slice a' n' ca')) := by show Box2R _ _ _ _ _; rw [← hW2]; exact (Box2R.new _ _ _ _).alloc _
  have HQ2 : Hid (Box2R W2 (w.heap.size + 1) 26 (.slice none 0 0) (.slice none 0 0)) := by
    show Box2R _ _ _ _ _
    rw [← hW2]
    have := Box2R.new (w.alloc (.cells #[.slice a n ca, .slice a' n' ca'] 26)) 26 (.slice none 0 0) (.slice none 0 0)
    rwa [World.size_alloc] at this
  clear hW2 h1 h2
  go_enter Tryz.func40, Tryz.ntmps40
  go_upto_region 1 with fail
  rw [HE.out]
  clear HE
  obtain ⟨c0, c1⟩ := HQ1.out.cells
  go_wp2_with fail
  refine (implDcopy_any a n ca xs a' n' ca' ys _ (HX.out _ HB2.out).1 (HX.out _ HB2.out).2 hn hn').mono ?_
  rintro e x3 ⟨⟨v, rfl, A, C, A', C', rfl, o1, o2, hap⟩, hb3⟩
  rw [HLn.out.1] at o1 ⊢
  rw [HLn.out.2] at o2 ⊢
  have HD : Hid (DOut w (x3.alloc (.cells #[.slice A n C, .slice A' n' C'] 26)) (.slice a n ca) (.slice a' n' ca') x3.heap.size (.slice A n C) (.slice A' n' C') n n' xs ys) := DOut.new HQ1.out HQ2.out HZ2.out HB2.out hb3 o1 o2 (fun q e e2 => by rw [blkOf_sP] at e e2; exact hap q e e2)
  clear o1 o2 hap hb3 HQ1 HQ2 HB2 HZ2 c0 c1
  go_upto_region 2 with fail
  obtain ⟨W3, hW3⟩ : ∃ W3, x3.alloc (.cells #[.slice A n C, .slice A' n' C'] 26) = W3 := ⟨_, rfl⟩
  rw [hW3] at HD ⊢
  clear hW3
  generalize x3.heap.size = o at *
  obtain ⟨c0, c1⟩ := HD.out.1.cells
  go_wp2_with fail
  refine (implDok_any a n ca xs a' n' ca' ys _ (HX.out _ HD.out.2.2.2.2.2.2.2.2).1 (HX.out _ HD.out.2.2.2.2.2.2.2.2).2 (by omega) (by omega)).mono ?_
  rintro e x4 ⟨rfl, hb4⟩
  have HDx : Hid (DOut w x4 (.slice a n ca) (.slice a' n' ca') o (.slice A n C) (.slice A' n' C') n n' xs ys) := HD.out.stays hb4
  clear hb4 HD c0 c1
  cases hok : okD xs ys
  · have HM : Hid (mayPut xs ys i s = false) := by show _ = _; rw [mayPut, hok]; rfl
    have HP : Hid (putX xs ys i s = xs) := by show _ = _; rw [putX, HM.out]; rfl
    clear hok
    obtain ⟨c0, c1⟩ := HDx.out.2.2.1.cells
    obtain ⟨r0, r1⟩ := HDx.out.2.1.cells
    have f0 := HDx.out.2.1.frozen 0
    have f1 := HDx.out.2.1.frozen 1
    have HR := (show Hid _ from HDx.out.done)
    clear HDx
    go_wp2_with fail
    refine bodyPost_ret (v := .tuple #[.agg #[.slice A n C, .slice A' n' C'], .bool false]) (by simp [results, Tryz.f40, go_sem, r0, r1]) rfl ?_
    exact ⟨⟨_, by rw [HM.out], by rw [HP.out]; exact HR.out.1⟩, HR.out.2⟩
  obtain ⟨c0, c1⟩ := HDx.out.1.cells
  go_wp2_with fail
  refine (implHas_any a n ca a' n' ca' i _ (by omega)).mono ?_
  rintro e x5 ⟨rfl, hb5⟩
  have HD5 : Hid (DOut w x5 (.slice a n ca) (.slice a' n' ca') o (.slice A n C) (.slice A' n' C') n n' xs ys) := HDx.out.stays hb5
  clear hb5 HDx c0 c1
  have HDx := HD5
  clear HD5
  by_cases hin : 0 ≤ i ∧ i ≤ (n : Int) - 1
  case neg =>
    have HM : Hid (mayPut xs ys i s = false) := by show _ = _; rw [mayPut, hok, HLn.out.1, decide_eq_false hin]; rfl
    have HP : Hid (putX xs ys i s = xs) := by show _ = _; rw [putX, HM.out]; rfl
    rw [show hasB n i = false from decide_eq_false (by omega)]
    clear hok hin
    obtain ⟨c0, c1⟩ := HDx.out.2.2.1.cells
    obtain ⟨r0, r1⟩ := HDx.out.2.1.cells
    have f0 := HDx.out.2.1.frozen 0
    have f1 := HDx.out.2.1.frozen 1
    have HR := (show Hid _ from HDx.out.done)
    clear HDx
    go_wp2_with fail
    refine bodyPost_ret (v := .tuple #[.agg #[.slice A n C, .slice A' n' C'], .bool false]) (by simp [results, Tryz.f40, go_sem, r0, r1]) rfl ?_
    exact ⟨⟨_, by rw [HM.out], by rw [HP.out]; exact HR.out.1⟩, HR.out.2⟩
  rw [show hasB n i = true from decide_eq_true (by omega)]
  by_cases hsz : s.size ≤ 64
  case neg =>
    have HM : Hid (mayPut xs ys i s = false) := by show _ = _; rw [mayPut, decide_eq_false hsz, Bool.and_false]
    have HP : Hid (putX xs ys i s = xs) := by show _ = _; rw [putX, HM.out]; rfl
    have hft : fitsD s = false := decide_eq_false hsz
    clear hok hin
    go_wp2_with fail
    refine (implLong_any s _ hs).mono ?_
    rintro e x6 ⟨rfl, rfl⟩
    rw [hft]
    obtain ⟨c0, c1⟩ := HDx.out.2.2.1.cells
    obtain ⟨r0, r1⟩ := HDx.out.2.1.cells
    have f0 := HDx.out.2.1.frozen 0
    have f1 := HDx.out.2.1.frozen 1
    have HR := (show Hid _ from HDx.out.done)
    clear HDx
    go_wp2_with fail
    refine bodyPost_ret (v := .tuple #[.agg #[.slice A n C, .slice A' n' C'], .bool false]) (by simp [results, Tryz.f40, go_sem, r0, r1]) rfl ?_
    exact ⟨⟨_, by rw [HM.out], by rw [HP.out]; exact HR.out.1⟩, HR.out.2⟩
  have HM : Hid (mayPut xs ys i s = true) := by show _ = _; rw [mayPut, hok, HLn.out.1, decide_eq_true hin, decide_eq_true hsz]; rfl
  have hft : fitsD s = true := decide_eq_true hsz
  obtain ⟨K, rfl⟩ := Int.eq_ofNat_of_zero_le hin.1
  have hK : K < n := by omega
  have HP : Hid (putX xs ys (K : Int) s = xs.set K s) := by show _ = _; rw [putX, HM.out, if_pos rfl, Int.toNat_natCast]
  clear hok
  obtain ⟨g, rfl⟩ : ∃ g, A = some ⟨g, 0, none⟩ := by
    rcases HDx.out.2.2.2.1.1.2 with ⟨_, h0⟩ | ⟨g, cap', cur, he, _⟩
    · omega
    · injection he with e1 _ _
      exact ⟨g, e1⟩
  have hKi : (K : Int) < (n : Int) := by omega
  go_wp2_with fail
  refine (implLong_any s _ hs).mono ?_
  rintro e x6 ⟨rfl, rfl⟩
  rw [hft]
  obtain ⟨c0, c1⟩ := HDx.out.2.2.1.cells
  have hcl : (scells xs).length = n := by rw [scells_len, HLn.out.1]
  have fz : x6.frozen? ⟨g, K, none⟩ = false := HDx.out.2.2.2.1.1.frozenAt _
  obtain ⟨u0, hu0⟩ : ∃ u, x6.cell? ⟨g, K, none⟩ = some u := by
    rw [HDx.out.2.2.2.1.1.cellAt _ (by omega)]
    exact ⟨_, List.getElem?_eq_getElem (by omega)⟩
  clear hcl
  have HD6 : Hid (DOut w (x6.setCell ⟨g, K, none⟩ (.string s)) (.slice a n ca) (.slice a' n' ca') o (.slice (some ⟨g, 0, none⟩) n C) (.slice A' n' C') n n' (xs.set K s) ys) := HDx.out.put0 s hs
  clear HDx
  go_upto_region 5 with fail
  obtain ⟨W6, hW6⟩ : ∃ W6, x6.setCell ⟨g, K, none⟩ (.string s) = W6 := ⟨_, rfl⟩
  rw [hW6] at HD6 ⊢
  clear hW6 c0 c1 fz hu0
  have HDx := HD6
  clear HD6
  obtain ⟨c0, c1⟩ := HDx.out.2.2.1.cells
  obtain ⟨r0, r1⟩ := HDx.out.2.1.cells
  have f0 := HDx.out.2.1.frozen 0
  have f1 := HDx.out.2.1.frozen 1
  have HR := (show Hid _ from HDx.out.done)
  clear HDx
  go_wp2_with fail
  refine bodyPost_ret (v := .tuple #[.agg #[.slice (some ⟨g, 0, none⟩) n C, .slice A' n' C'], .bool true]) (by simp [results, Tryz.f40, go_sem, r0, r1]) rfl ?_
  exact ⟨⟨_, by rw [HM.out], by rw [HP.out]; exact HR.out.1⟩, HR.out.2⟩

end Go.Proofs.YtogopmngbjkcjaaGreatDoor
