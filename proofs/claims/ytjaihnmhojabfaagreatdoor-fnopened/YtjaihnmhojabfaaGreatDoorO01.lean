/- A disk in a variable of a draw's: its rows are of its own, apart from each other, the variable and the answer's. No program in it but its table of types. A drawn text of a sector. For codes of at most 2^40 bytes. What the specification's PutSector answers. A drawn disk. For codes of at most 2^40 bytes. A drawn disk that may not be right. For codes of at most 2^40 bytes. -/
import Derived.Test.YtjaihnmhojabfaaGreatDoorM10
import Derived.Test.YtjaihnmhojabfaaGreatDoorM01
import Derived.Test.YtjaihnmhojabfaaGreatDoorM09
import Derived.Test.YtjaihnmhojabfaaGreatDoorM23
import Derived.Test.YtjaihnmhojabfaaGreatDoorM16
import Derived.Test.YtjaihnmhojabfaaGreatDoorM16
import Derived.Test.YtjaihnmhojabfaaGreatDoorM43
import Derived.Deep.CutBlock
import Derived.Test.YtjaihnmhojabfaaGreatDoorM24
import Derived.Deep.RegionHeld3
import Derived.Test.YtjaihnmhojabfaaGreatDoorM37
namespace Go.Proofs.YtjaihnmhojabfaaGreatDoor
open Go.RowKit
set_option linter.unusedVariables false

def DV (w W : World) (b : Nat) (A : Option Addr) (n C : Nat) (A' : Option Addr) (n' C' : Nat) (X Y : List ByteArray) : Prop :=
  Box2R W b 26 (.slice A n C) (.slice A' n' C') ∧ Box2R W w.heap.size 26 (.slice none 0 0) (.slice none 0 0) ∧ OwnSt W (w.heap.size + 1) (.slice A n C) n X ∧ OwnSt W (w.heap.size + 1) (.slice A' n' C') n' Y ∧
  (∀ q, A.map (·.block) = some q → q ≠ b ∧ A'.map (·.block) ≠ some q) ∧ (∀ q, A'.map (·.block) = some q → q ≠ b) ∧ w.heap.size < b

theorem blkOf_sV (a : Option Addr) (n c : Nat) : blkOf (.slice a n c) = a.map (·.block) := by cases a <;> rfl

/-- Some disk of at most k sectors, in memory of its own. -/
def DrawnD (base k : Nat) (v : Value) (w' : World) : Prop := ∃ X Y, AnsD base X Y v w' ∧ X.length ≤ k ∧ Y.length ≤ k

theorem AnsD.at {base n n' : Nat} {X Y : List ByteArray} {v : Value} {w' : World} (h : AnsD base X Y v w') (hX : X.length = n) (hY : Y.length = n') : ∃ A C A' C', v = .agg #[.slice A n C, .slice A' n' C'] ∧ OwnSt w' base (.slice A n C) n X ∧ OwnSt w' base (.slice A' n' C') n' Y ∧ ∀ q, A.map (·.block) = some q → A'.map (·.block) ≠ some q := by
  subst hX hY
  exact h

section
variable {w W W' : World} {b n n' C C' : Nat} {A A' : Option Addr} {X Y : List ByteArray}

theorem DV.grown (h : DV w W b A n C A' n' C' X Y) {r : Option Nat} (hg : W.grownBy W' r) (hr : ∀ q, r = some q → q < w.heap.size) : DV w W' b A n C A' n' C' X Y := by
  obtain ⟨h1, h2, h3, h4, h5, h6, h7⟩ := h
  refine ⟨h1.grown hg (fun e => by have := hr _ e; omega), h2.grown hg (fun e => by have := hr _ e; omega), h3.kept hg (fun q e e2 => ?_), h4.kept hg (fun q e e2 => ?_), h5, h6, h7⟩
  · have := hr q e
    have := (h3.lt q e2).1
    omega
  · have := hr q e
    have := (h4.lt q e2).1
    omega

theorem DV.stays (h : DV w W b A n C A' n' C' X Y) (hb : Below W.heap.size W W') : DV w W' b A n C A' n' C' X Y := h.grown (gbelow hb none) (by simp)

/-- The disk is assigned an answer. -/
theorem DV.assign (h : DV w W b A n C A' n' C' X Y) (hb : Below W.heap.size W W') {B B' : Option Addr} {m m' D D' : Nat} {X' Y' : List ByteArray} (o1 : OwnSt W' W.heap.size (.slice B m D) m X') (o2 : OwnSt W' W.heap.size (.slice B' m' D') m' Y') (hne : ∀ q, B.map (·.block) = some q → B'.map (·.block) ≠ some q) :
    DV w ((W'.setCell ⟨b, 0, none⟩ (.slice B m D)).setCell ⟨b, 1, none⟩ (.slice B' m' D')) b B m D B' m' D' X' Y' := by
  obtain ⟨h1, h2, h3, h4, h5, h6, h7⟩ := h
  have hlt := h1.lt
  have e1 : ∀ q, B.map (·.block) = some q → W.heap.size ≤ q := fun q e => (o1.lt q (by rw [blkOf_sV]; exact e)).1
  have e2 : ∀ q, B'.map (·.block) = some q → W.heap.size ≤ q := fun q e => (o2.lt q (by rw [blkOf_sV]; exact e)).1
  have n1 : blkOf (.slice B m D) ≠ some b := fun e => by rw [blkOf_sV] at e; have := e1 _ e; omega
  have n2 : blkOf (.slice B' m' D') ≠ some b := fun e => by rw [blkOf_sV] at e; have := e2 _ e; omega
  refine ⟨((h1.stays hb).set0 _).set1 _, ((h2.stays hb).other (by omega) _).other (by omega) _, ((o1.setCell n1 _).setCell n1 _).low (by omega), ((o2.setCell n2 _).setCell n2 _).low (by omega), fun q e => ⟨by have := e1 q e; omega, hne q e⟩, fun q e => by have := e2 q e; omega, h7⟩

/-- A disk that is answered is laid into a new variable. -/
theorem DV.new {w1 : World} (hq : Box2R W w.heap.size 26 (.slice none 0 0) (.slice none 0 0)) (hb : Below W.heap.size W w1) {B B' : Option Addr} {m m' D D' : Nat} {X' Y' : List ByteArray} (o1 : OwnSt w1 W.heap.size (.slice B m D) m X') (o2 : OwnSt w1 W.heap.size (.slice B' m' D') m' Y') (hne : ∀ q, B.map (·.block) = some q → B'.map (·.block) ≠ some q) :
    DV w (w1.alloc (.cells #[.slice B m D, .slice B' m' D'] 26)) w1.heap.size B m D B' m' D' X' Y' := by
  have hlt := hq.lt
  have hs := hb.size
  have e1 : ∀ q, B.map (·.block) = some q → q < w1.heap.size := fun q e => (o1.lt q (by rw [blkOf_sV]; exact e)).2
  have e2 : ∀ q, B'.map (·.block) = some q → q < w1.heap.size := fun q e => (o2.lt q (by rw [blkOf_sV]; exact e)).2
  refine ⟨Box2R.new _ _ _ _, (hq.stays hb).alloc _, (o1.below ((Below.refl _ _).alloc (Nat.le_refl _) _)).low (by omega), (o2.below ((Below.refl _ _).alloc (Nat.le_refl _) _)).low (by omega), fun q e => ⟨by have := e1 q e; omega, hne q e⟩, fun q e => by have := e2 q e; omega, by omega⟩

/-- The disk is answered. -/
theorem DV.done (h : DV w W b A n C A' n' C' X Y) : AnsD w.heap.size X Y (.agg #[.slice A n C, .slice A' n' C']) ((W.setCell ⟨w.heap.size, 0, none⟩ (.slice A n C)).setCell ⟨w.heap.size, 1, none⟩ (.slice A' n' C')) := by
  obtain ⟨h1, h2, h3, h4, h5, h6, h7⟩ := h
  have n1 : blkOf (.slice A n C) ≠ some w.heap.size := fun e => by have := (h3.lt _ e).1; omega
  have n2 : blkOf (.slice A' n' C') ≠ some w.heap.size := fun e => by have := (h4.lt _ e).1; omega
  exact AnsD.mk' h3.len h4.len (((h3.setCell n1 _).setCell n1 _).low (by omega)) (((h4.setCell n2 _).setCell n2 _).low (by omega)) (fun q e => (h5 q e).2)
end

end Go.Proofs.YtjaihnmhojabfaaGreatDoor

namespace Go.Proofs.YtjaihnmhojabfaaGreatDoor
open Go.RowKit
set_option linter.unusedVariables false

def someL : List ByteArray := [⟨#[]⟩, ⟨#[97]⟩, ⟨#[98, 98]⟩, ⟨#[0]⟩, ⟨#[120, 121, 122]⟩]

theorem someL_short : ∀ s ∈ someL, s.size ≤ 3 := by decide

set_option maxRecDepth 10000 in
set_option maxHeartbeats 1600000 in
theorem l12Some_any (B c : Nat) (a : Option Addr) (len cap : Nat) (zs : List Int) (w : World) (hcur : Cur w B c a len cap zs) (hl : len ≤ 1099511627776) :
    Calls Tryz.prog 119 #[.pointer (some ⟨c, 0, none⟩)] w fun e w' => ∃ s : ByteArray, e = .returned (.string s) ∧ s.size ≤ 3 ∧ Cur w' B c a len cap zs ∧ w.grownBy w' (some c) := by
  have HC : Hid (Cur w B c a len cap zs) := hcur
  clear hcur
  have hcw : c < w.heap.size := HC.out.lt
  go_enter Tryz.func119, Tryz.ntmps119
  go_wp2_with fail
  refine (l1Str_any B c a len cap zs w.heap.size 5 5 someL _ (HC.out.new _) hl (heap_alloc_new w _) (by omega) rfl (by omega) (by omega)).mono ?_
  rintro e w2 ⟨s, rfl, hs, hc2, hg2⟩
  have HS : Hid (s.size ≤ 3) := someL_short s hs
  have HC2 : Hid (Cur w2 B c a len cap zs) := hc2
  have HG2 : Hid (w.grownBy w2 (some c)) := gtrans (World.grownBy_alloc w _ _) hg2
  clear hs hc2 hg2
  go_wp2_with fail
  go_ret
  exact ⟨s, rfl, HS.out, HC2.out, HG2.out⟩

end Go.Proofs.YtjaihnmhojabfaaGreatDoor

namespace Go.Proofs.YtjaihnmhojabfaaGreatDoor
open Go.RowKit
set_option linter.unusedVariables false

theorem blkOf_sl (a : Option Addr) (n c : Nat) : blkOf (.slice a n c) = a.map (·.block) := by cases a <;> rfl

set_option maxRecDepth 10000 in
set_option maxHeartbeats 3200000 in
theorem specPutD_any (a : Option Addr) (n ca : Nat) (xs : List ByteArray) (a' : Option Addr) (n' ca' : Nat) (ys : List ByteArray) (i : Int) (s : ByteArray) (w : World) (h1 : Strs w a n xs) (h2 : Strs w a' n' ys) (hn : n ≤ 2097152) (hn' : n' ≤ 2097152) (hs : s.size ≤ maxLen) :
    Calls Tryz.prog 118 #[.agg #[.slice a n ca, .slice a' n' ca'], .int .i64 i, .string s] w fun e w' => (∃ v, e = .returned (.tuple #[v, .bool (mayPut xs ys i s)]) ∧ AnsD w.heap.size (putX xs ys i s) ys v w') ∧ Below w.heap.size w w' := by
  have HX : Hid (∀ W, Below w.heap.size w W → Strs W a n xs ∧ Strs W a' n' ys) := fun W h => ⟨h1.below h, h2.below h⟩
  have HLn : Hid (xs.length = n ∧ ys.length = n') := ⟨h1.1, h2.1⟩
  obtain ⟨W2, hW2⟩ : ∃ W2, (w.alloc (.cells #[.slice a n ca, .slice a' n' ca'] 26)).alloc (.cells #[.slice none 0 0, .slice none 0 0] 26) = W2 := ⟨_, rfl⟩
  have HE : Hid ((w.alloc (.cells #[.slice a n ca, .slice a' n' ca'] 26)).alloc (.cells #[.slice none 0 0, .slice none 0 0] 26) = W2) := hW2
  have HB2 : Hid (Below w.heap.size w W2) := by show Below _ _ _; rw [← hW2]; exact ((Below.refl _ _).alloc (Nat.le_refl _) _).alloc (by simp) _
  have HZ2 : Hid (W2.heap.size = w.heap.size + 2) := by show _ = _; rw [← hW2]; simp
  have HQ1 : Hid (Box2R W2 w.heap.size 26 (.slice a n ca) (.slice a' n' ca')) := by show Box2R _ _ _ _ _; rw [← hW2]; exact (Box2R.new _ _ _ _).alloc _
  have HQ2 : Hid (Box2R W2 (w.heap.size + 1) 26 (.slice none 0 0) (.slice none 0 0)) := by
    show Box2R _ _ _ _ _
    rw [← hW2]
    have := Box2R.new (w.alloc (.cells #[.slice a n ca, .slice a' n' ca'] 26)) 26 (.slice none 0 0) (.slice none 0 0)
    rwa [World.size_alloc] at this
  clear hW2 h1 h2
  go_enter Tryz.func118, Tryz.ntmps118
  go_upto_region 1 with fail
  rw [HE.out]
  clear HE
  obtain ⟨c0, c1⟩ := HQ1.out.cells
  go_wp2_with fail
  refine (specDcopy_any a n ca xs a' n' ca' ys _ (HX.out _ HB2.out).1 (HX.out _ HB2.out).2 hn hn').mono ?_
  rintro e x3 ⟨⟨v, rfl, A, C, A', C', rfl, o1, o2, hap⟩, hb3⟩
  rw [HLn.out.1] at o1 ⊢
  rw [HLn.out.2] at o2 ⊢
  have HD : Hid (DOut w (x3.alloc (.cells #[.slice A n C, .slice A' n' C'] 26)) (.slice a n ca) (.slice a' n' ca') x3.heap.size (.slice A n C) (.slice A' n' C') n n' xs ys) := DOut.new HQ1.out HQ2.out HZ2.out HB2.out hb3 o1 o2 (fun q e e2 => by rw [blkOf_sl] at e e2; exact hap q e e2)
  clear o1 o2 hap hb3 HQ1 HQ2 HB2 HZ2 c0 c1
  go_upto_region 2 with fail
  obtain ⟨W3, hW3⟩ : ∃ W3, x3.alloc (.cells #[.slice A n C, .slice A' n' C'] 26) = W3 := ⟨_, rfl⟩
  rw [hW3] at HD ⊢
  clear hW3
  generalize x3.heap.size = o at *
  obtain ⟨c0, c1⟩ := HD.out.1.cells
  go_wp2_with fail
  refine (specDok_any a n ca xs a' n' ca' ys _ (HX.out _ HD.out.2.2.2.2.2.2.2.2).1 (HX.out _ HD.out.2.2.2.2.2.2.2.2).2 (by omega) (by omega)).mono ?_
  rintro e x4 ⟨rfl, hb4⟩
  have HDx : Hid (DOut w x4 (.slice a n ca) (.slice a' n' ca') o (.slice A n C) (.slice A' n' C') n n' xs ys) := HD.out.stays hb4
  clear hb4 HD c0 c1
  cases hok : okD xs ys
  · have HM : Hid (mayPut xs ys i s = false) := by show _ = _; rw [mayPut, hok]; rfl
    have HP : Hid (putX xs ys i s = xs) := by show _ = _; rw [putX, HM.out]; rfl
    clear hok
    obtain ⟨c0, c1⟩ := HDx.out.2.2.1.cells
    obtain ⟨r0, r1⟩ := HDx.out.2.1.cells
    have f0 := HDx.out.2.1.frozen 0
    have f1 := HDx.out.2.1.frozen 1
    have HR := (show Hid _ from HDx.out.done)
    clear HDx
    go_wp2_with fail
    refine bodyPost_ret (v := .tuple #[.agg #[.slice A n C, .slice A' n' C'], .bool false]) (by simp [results, Tryz.f118, go_sem, r0, r1]) rfl ?_
    exact ⟨⟨_, by rw [HM.out], by rw [HP.out]; exact HR.out.1⟩, HR.out.2⟩
  by_cases hin : 0 ≤ i ∧ i ≤ (n : Int) - 1
  case neg =>
    have HM : Hid (mayPut xs ys i s = false) := by show _ = _; rw [mayPut, hok, HLn.out.1, decide_eq_false hin]; rfl
    have HP : Hid (putX xs ys i s = xs) := by show _ = _; rw [putX, HM.out]; rfl
    have HIn : Hid (∀ W : World, Calls Tryz.prog 42 #[.int .i64 i, .int .i64 0, .int .i64 ((n : Int) - 1)] W fun e w' => e = .returned (.bool false) ∧ w' = W) := fun W => l1In_no _ _ _ W (by omega)
    clear hok hin
    obtain ⟨c0, c1⟩ := HDx.out.1.cells
    go_wp2_with fail
    refine (HIn.out _).mono ?_
    rintro e x5 ⟨rfl, rfl⟩
    clear c0 c1
    obtain ⟨c0, c1⟩ := HDx.out.2.2.1.cells
    obtain ⟨r0, r1⟩ := HDx.out.2.1.cells
    have f0 := HDx.out.2.1.frozen 0
    have f1 := HDx.out.2.1.frozen 1
    have HR := (show Hid _ from HDx.out.done)
    clear HDx
    go_wp2_with fail
    refine bodyPost_ret (v := .tuple #[.agg #[.slice A n C, .slice A' n' C'], .bool false]) (by simp [results, Tryz.f118, go_sem, r0, r1]) rfl ?_
    exact ⟨⟨_, by rw [HM.out], by rw [HP.out]; exact HR.out.1⟩, HR.out.2⟩
  have HIn : Hid (∀ W : World, Calls Tryz.prog 42 #[.int .i64 i, .int .i64 0, .int .i64 ((n : Int) - 1)] W fun e w' => e = .returned (.bool true) ∧ w' = W) := fun W => l1In_yes _ _ _ W hin.1 hin.2
  by_cases hsz : s.size ≤ 64
  case neg =>
    have HM : Hid (mayPut xs ys i s = false) := by show _ = _; rw [mayPut, decide_eq_false hsz, Bool.and_false]
    have HP : Hid (putX xs ys i s = xs) := by show _ = _; rw [putX, HM.out]; rfl
    have hbig : (64 : Int) < (s.size : Int) := by omega
    have hmm : maxLen < 9223372036854775808 := by decide
    clear hok hin
    obtain ⟨c0, c1⟩ := HDx.out.1.cells
    go_wp2_with fail
    refine (HIn.out _).mono ?_
    rintro e x5 ⟨rfl, rfl⟩
    clear c0 c1
    obtain ⟨c0, c1⟩ := HDx.out.2.2.1.cells
    obtain ⟨r0, r1⟩ := HDx.out.2.1.cells
    have f0 := HDx.out.2.1.frozen 0
    have f1 := HDx.out.2.1.frozen 1
    have HR := (show Hid _ from HDx.out.done)
    clear HDx
    go_wp2_with fail
    refine bodyPost_ret (v := .tuple #[.agg #[.slice A n C, .slice A' n' C'], .bool false]) (by simp [results, Tryz.f118, go_sem, r0, r1]) rfl ?_
    exact ⟨⟨_, by rw [HM.out], by rw [HP.out]; exact HR.out.1⟩, HR.out.2⟩
  have HM : Hid (mayPut xs ys i s = true) := by show _ = _; rw [mayPut, hok, HLn.out.1, decide_eq_true hin, decide_eq_true hsz]; rfl
  obtain ⟨K, rfl⟩ := Int.eq_ofNat_of_zero_le hin.1
  have hK : K < n := by omega
  have HP : Hid (putX xs ys (K : Int) s = xs.set K s) := by show _ = _; rw [putX, HM.out, if_pos rfl, Int.toNat_natCast]
  clear hok
  obtain ⟨g, rfl⟩ : ∃ g, A = some ⟨g, 0, none⟩ := by
    rcases HDx.out.2.2.2.1.1.2 with ⟨_, h0⟩ | ⟨g, cap', cur, he, _⟩
    · omega
    · injection he with e1 _ _
      exact ⟨g, e1⟩
  have hKi : (K : Int) < (n : Int) := by omega
  obtain ⟨c0, c1⟩ := HDx.out.1.cells
  go_wp2_with fail
  refine (HIn.out _).mono ?_
  rintro e x5 ⟨rfl, rfl⟩
  clear c0 c1
  obtain ⟨c0, c1⟩ := HDx.out.2.2.1.cells
  have hcl : (scells xs).length = n := by rw [scells_len, HLn.out.1]
  have fz : x5.frozen? ⟨g, K, none⟩ = false := HDx.out.2.2.2.1.1.frozenAt _
  obtain ⟨u0, hu0⟩ : ∃ u, x5.cell? ⟨g, K, none⟩ = some u := by
    rw [HDx.out.2.2.2.1.1.cellAt _ (by omega)]
    exact ⟨_, List.getElem?_eq_getElem (by omega)⟩
  clear hcl
  have HD6 : Hid (DOut w (x5.setCell ⟨g, K, none⟩ (.string s)) (.slice a n ca) (.slice a' n' ca') o (.slice (some ⟨g, 0, none⟩) n C) (.slice A' n' C') n n' (xs.set K s) ys) := HDx.out.put0 s hs
  clear HDx
  go_upto_region 5 with fail
  obtain ⟨W6, hW6⟩ : ∃ W6, x5.setCell ⟨g, K, none⟩ (.string s) = W6 := ⟨_, rfl⟩
  rw [hW6] at HD6 ⊢
  clear hW6 c0 c1 fz hu0
  have HDx := HD6
  clear HD6
  obtain ⟨c0, c1⟩ := HDx.out.2.2.1.cells
  obtain ⟨r0, r1⟩ := HDx.out.2.1.cells
  have f0 := HDx.out.2.1.frozen 0
  have f1 := HDx.out.2.1.frozen 1
  have HR := (show Hid _ from HDx.out.done)
  clear HDx
  go_wp2_with fail
  refine bodyPost_ret (v := .tuple #[.agg #[.slice (some ⟨g, 0, none⟩) n C, .slice A' n' C'], .bool true]) (by simp [results, Tryz.f118, go_sem, r0, r1]) rfl ?_
  exact ⟨⟨_, by rw [HM.out], by rw [HP.out]; exact HR.out.1⟩, HR.out.2⟩

end Go.Proofs.YtjaihnmhojabfaaGreatDoor

namespace Go.Proofs.YtjaihnmhojabfaaGreatDoor
open Go.RowKit
set_option linter.unusedVariables false

set_option maxRecDepth 10000 in
set_option maxHeartbeats 3200000 in
theorem l12Draw_any (B c : Nat) (a : Option Addr) (len cap : Nat) (zs : List Int) (w : World) (hcur : Cur w B c a len cap zs) (hl : len ≤ 1099511627776) :
    Calls Tryz.prog 97 #[.pointer (some ⟨c, 0, none⟩)] w fun e w' => (∃ v, e = .returned v ∧ DrawnD w.heap.size 6 v w') ∧ Cur w' B c a len cap zs ∧ w.grownBy w' (some c) := by
  have HC : Hid (Cur w B c a len cap zs) := hcur
  clear hcur
  have hcw : c < w.heap.size := HC.out.lt
  obtain ⟨w1, hw1⟩ : ∃ w1, w.alloc (.cells #[.slice none 0 0, .slice none 0 0] 26) = w1 := ⟨_, rfl⟩
  have HE : Hid (w.alloc (.cells #[.slice none 0 0, .slice none 0 0] 26) = w1) := hw1
  have HQ1 : Hid (Box2R w1 w.heap.size 26 (.slice none 0 0) (.slice none 0 0)) := by show Box2R _ _ _ _ _; rw [← hw1]; exact Box2R.new _ _ _ _
  have HC1 : Hid (Cur w1 B c a len cap zs) := by show Cur _ _ _ _ _ _ _; rw [← hw1]; exact HC.out.new _
  have HG1 : Hid (w.grownBy w1 (some c)) := by show World.grownBy _ _ _; rw [← hw1]; exact World.grownBy_alloc w _ _
  clear hw1 HC
  go_enter Tryz.func97, Tryz.ntmps97
  go_upto_region 1 with fail
  rw [HE.out]
  clear HE
  have hc1w : c < w1.heap.size := HC1.out.lt
  go_wp2_with fail
  refine (l1Int_any B c a len cap zs w1.heap.size 4 4 [4, 1, 0, 6] _ (HC1.out.new _) hl (heap_alloc_new w1 _) (by omega) rfl (by omega) (by omega)).mono ?_
  rintro e w2 ⟨x, rfl, hx, hc2, hg2⟩
  have HN : Hid (newN x ≤ 6) := by
    show _ ≤ _
    have hx6 : x ≤ 6 := by
      simp only [List.mem_cons, List.not_mem_nil, or_false] at hx
      omega
    rw [newN, if_pos (by omega)]
    omega
  have HC2 : Hid (Cur w2 B c a len cap zs) := hc2
  have hg12 : w1.grownBy w2 (some c) := gtrans (World.grownBy_alloc w1 _ _) hg2
  have HG2 : Hid (w.grownBy w2 (some c)) := gtrans HG1.out hg12
  have HQ2 : Hid (Box2R w2 w.heap.size 26 (.slice none 0 0) (.slice none 0 0)) := HQ1.out.grown hg12 (fun e => by injection e with e; omega)
  clear hx hc2 hg2 hg12 HC1 HG1 HQ1 hc1w
  go_wp2_with fail
  refine (specDnew_any x w2).mono ?_
  rintro e w3 ⟨⟨v, rfl, A, C, A', C', rfl, o1, o2, hap⟩, hb3⟩
  generalize hn : newN x = n at *
  rw [List.length_replicate] at o1 o2 ⊢
  have HD3 : Hid (DV w (w3.alloc (.cells #[.slice A n C, .slice A' n C'] 26)) w3.heap.size A n C A' n C' (List.replicate n ⟨#[]⟩) (List.replicate n ⟨#[]⟩)) := DV.new HQ2.out hb3 o1 o2 hap
  have HC3 : Hid (Cur (w3.alloc (.cells #[.slice A n C, .slice A' n C'] 26)) B c a len cap zs) := (HC2.out.kept (gbelow hb3 none) (by simp)).new _
  have HG3 : Hid (w.grownBy (w3.alloc (.cells #[.slice A n C, .slice A' n C'] 26)) (some c)) := gnew (gtrans HG2.out (gbelow hb3 _)) _
  clear hn o1 o2 hap hb3 HC2 HG2 HQ2
  have hn6 := HN.out
  go_wp2_with fail
  obtain ⟨w4, hw4⟩ : ∃ w4, w3.alloc (.cells #[.slice A n C, .slice A' n C'] 26) = w4 := ⟨_, rfl⟩
  rw [hw4] at HD3 HC3 HG3 ⊢
  clear hw4
  generalize w3.heap.size = b at *
  refine (l1Below_any B c a len cap zs 6 w4 HC3.out hl (by omega) (by omega)).mono ?_
  rintro e w5 ⟨m, rfl, hm0, hm1, hc5, hg5⟩
  obtain ⟨M, rfl⟩ := Int.eq_ofNat_of_zero_le hm0
  have HD5 : Hid (∃ X Y, DV w w5 b A n C A' n C' X Y) := ⟨_, _, HD3.out.grown hg5 (fun q e => by injection e with e; omega)⟩
  have HC5 : Hid (Cur w5 B c a len cap zs) := hc5
  have HG5 : Hid (w.grownBy w5 (some c)) := gtrans HG3.out hg5
  clear hc5 hg5 HD3 HC3 HG3
  go_wp2_with fail
  go_loopw [4] (fun v wr => ∃ (j : Nat) (A A' : Option Addr) (C C' : Nat) (X Y : List ByteArray), v = .int .i64 (j : Int) ∧ j ≤ 6 ∧ Hid (wr.cell? ⟨b, 0, none⟩ = some (.slice A n C)) ∧ Hid (DV w wr b A n C A' n C' X Y) ∧ Hid (Cur wr B c a len cap zs) ∧ Hid (w.grownBy wr (some c))) (fun v _ => (intOf v).toNat)
  case atStart =>
    obtain ⟨X, Y, hd⟩ := HD5.out
    exact ⟨M, A, A', C, C', X, Y, rfl, by omega, hd.1.cells.1, hd, HC5, HG5⟩
  case round =>
    clear HD5 HC5 HG5
    obtain ⟨j, A, A', C, C', X, Y, rfl, hj6, HK, HD, HC, HG⟩ := hrel
    obtain ⟨c0, c1⟩ := HD.out.1.cells
    by_cases hend : j = 0 ∨ n = 0
    · obtain ⟨r0, r1⟩ := HD.out.2.1.cells
      have f0 := HD.out.2.1.frozen 0
      have f1 := HD.out.2.1.frozen 1
      have HR : Hid (DrawnD w.heap.size 6 (.agg #[.slice A n C, .slice A' n C']) ((wr.setCell ⟨w.heap.size, 0, none⟩ (.slice A n C)).setCell ⟨w.heap.size, 1, none⟩ (.slice A' n C')) ∧ Cur ((wr.setCell ⟨w.heap.size, 0, none⟩ (.slice A n C)).setCell ⟨w.heap.size, 1, none⟩ (.slice A' n C')) B c a len cap zs ∧ w.grownBy ((wr.setCell ⟨w.heap.size, 0, none⟩ (.slice A n C)).setCell ⟨w.heap.size, 1, none⟩ (.slice A' n C')) (some c)) := by
        have l1 := HD.out.2.2.1.len
        have l2 := HD.out.2.2.2.1.len
        exact ⟨⟨X, Y, HD.out.done, by omega, by omega⟩, (HC.out.put hcw _).put hcw _, gput (gput HG.out (Nat.le_refl _) _) (Nat.le_refl _) _⟩
      clear HD HC HG HK
      by_cases hj : j = 0
      · subst hj
        go_wp2_with fail
        refine bodyPost_ret (v := .agg #[.slice A n C, .slice A' n C']) (by simp [results, Tryz.f97, go_sem, r0, r1]) rfl ?_
        exact ⟨⟨_, rfl, HR.out.1⟩, HR.out.2⟩
      · have hji : (0 : Int) < (j : Int) := by omega
        obtain rfl : n = 0 := by omega
        go_wp2_with fail
        refine bodyPost_ret (v := .agg #[.slice A 0 C, .slice A' 0 C']) (by simp [results, Tryz.f97, go_sem, r0, r1]) rfl ?_
        exact ⟨⟨_, rfl, HR.out.1⟩, HR.out.2⟩
    have hji : (0 : Int) < (j : Int) := by omega
    have hni : (0 : Int) < (n : Int) := by omega
    have HL : Hid (X.length = n ∧ Y.length = n) := ⟨HD.out.2.2.1.len, HD.out.2.2.2.1.len⟩
    have HDd : Hid (DV w wr.drew b A n C A' n C' X Y) := HD.out.stays (Below.refl _ _).drew
    have HCd : Hid (Cur wr.drew B c a len cap zs) := HC.out.kept (gbelow (Below.refl _ _).drew none) (by simp)
    have HGd : Hid (w.grownBy wr.drew (some c)) := gtrans HG.out (gbelow (Below.refl _ _).drew _)
    clear HD HC HG HK hend
    go_upto_region 5 with fail
    go_cut [37] from 11 (fun u W => u = undef ∧ ∃ A A' C C' X Y, Hid (DV w W b A n C A' n C' X Y) ∧ Hid (Cur W B c a len cap zs) ∧ Hid (w.grownBy W (some c)))
    case first =>
      go_region_with (first
        | (go_at_call 118; refine (specPutD_any A n C X A' n C' Y (x : Int) s _ hD2.2.2.1.strs hD2.2.2.2.1.strs (by omega) (by omega) (by unfold maxLen; omega)).mono ?_; rintro e y3 ⟨⟨v, rfl, hans⟩, hb3⟩
           obtain ⟨A3, C3, A3', C3', rfl, o1, o2, hap⟩ := hans.at (n := n) (n' := n) (by rw [putX_len]; exact HL.out.1) HL.out.2
           have hD3 := hD2.stays hb3
           obtain ⟨p0, p1⟩ := hD3.1.cells
           have f0 := hD3.1.frozen 0
           have f1 := hD3.1.frozen 1)
        | (go_at_call 119; refine (l12Some_any B c a len cap zs _ hC1 hl).mono ?_; rintro e y2 ⟨s, rfl, hs3, hC2, hg2⟩
           have hD2 := hD1.grown hg2 (fun q e => by injection e with e; omega)
           have hG2 := gtrans hG1 hg2
           obtain ⟨m0, m1⟩ := hD2.1.cells)
        | (go_at_call 32; refine (l1Below_any B c a len cap zs (n : Int) _ HCd.out hl (by omega) (by omega)).mono ?_; rintro e y1 ⟨x, rfl, hx0, hx1, hC1, hg1⟩
           have hD1 := HDd.out.grown hg1 (fun q e => by injection e with e; omega)
           have hG1 := gtrans HGd.out hg1
           obtain ⟨e0, e1⟩ := hD1.1.cells)
        | fail)
      all_goals
        have HF : Hid (DV w ((y3.setCell ⟨b, 0, none⟩ (.slice A3 n C3)).setCell ⟨b, 1, none⟩ (.slice A3' n C3')) b A3 n C3 A3' n C3' (putX X Y x s) Y ∧ Cur ((y3.setCell ⟨b, 0, none⟩ (.slice A3 n C3)).setCell ⟨b, 1, none⟩ (.slice A3' n C3')) B c a len cap zs ∧ w.grownBy ((y3.setCell ⟨b, 0, none⟩ (.slice A3 n C3)).setCell ⟨b, 1, none⟩ (.slice A3' n C3')) (some c)) := by
          have hbw := hD2.2.2.2.2.2.2
          exact ⟨hD2.assign hb3 o1 o2 hap, ((hC2.kept (gbelow hb3 none) (by simp)).put (by omega) _).put (by omega) _, gput (gput (gtrans hG2 (gbelow hb3 _)) (by omega) _) (by omega) _⟩
        clear hD1 hD2 hD3 hC1 hC2 hg1 hg2 hG1 hG2 o1 o2 hap hb3 hans e0 e1 m0 m1
        go_wp2_with fail
        go_meet
        exact ⟨rfl, A3, A3', C3, C3', _, _, HF.out.1, HF.out.2.1, HF.out.2.2⟩
    case rest =>
    obtain ⟨x6, hx6⟩ : ∃ x6, wc = x6 := ⟨_, rfl⟩
    rw [hx6] at hcut ⊢
    clear hx6 HDd HCd HGd HL c0 c1
    obtain ⟨rfl, A, A', C, C', X, Y, HD, HC, HG⟩ := hcut
    go_wp2_with fail
    refine (l1Once_any B c a len cap zs 3 x6 HC.out hl (by omega) (by omega)).mono ?_
    rintro e w7 ⟨bb, rfl, hc7, hg7⟩
    have HD7 : Hid (DV w w7 b A n C A' n C' X Y) := HD.out.grown hg7 (fun q e => by injection e with e; omega)
    have HC7 : Hid (Cur w7 B c a len cap zs) := hc7
    have HG7 : Hid (w.grownBy w7 (some c)) := gtrans HG.out hg7
    clear hc7 hg7 HD HC HG
    obtain ⟨c0, c1⟩ := HD7.out.1.cells
    cases bb
    · go_wp2_with fail
      go_roundw
      case rel => exact ⟨j - 1, A, A', C, C', X, Y, by go_num, by omega, c0, HD7, HC7, HG7⟩
      case measure => simp [intOf]; omega
    · have HL : Hid (X.length = n) := HD7.out.2.2.1.len
      go_wp2_with fail
      refine (specFlush_any A n C X A' n C' Y w7 HD7.out.2.2.1.strs HD7.out.2.2.2.1.strs (by omega) (by omega)).mono ?_
      rintro e w8 ⟨⟨v, rfl, hans⟩, hb8⟩
      obtain ⟨A8, C8, A8', C8', rfl, o1, o2, hap⟩ := hans.at (n := n) (n' := n) HL.out HL.out
      have HF : Hid (DV w ((w8.setCell ⟨b, 0, none⟩ (.slice A8 n C8)).setCell ⟨b, 1, none⟩ (.slice A8' n C8')) b A8 n C8 A8' n C8' X X ∧ Cur ((w8.setCell ⟨b, 0, none⟩ (.slice A8 n C8)).setCell ⟨b, 1, none⟩ (.slice A8' n C8')) B c a len cap zs ∧ w.grownBy ((w8.setCell ⟨b, 0, none⟩ (.slice A8 n C8)).setCell ⟨b, 1, none⟩ (.slice A8' n C8')) (some c)) := by
        have hbw := HD7.out.2.2.2.2.2.2
        exact ⟨HD7.out.assign hb8 o1 o2 hap, ((HC7.out.kept (gbelow hb8 none) (by simp)).put (by omega) _).put (by omega) _, gput (gput (gtrans HG7.out (gbelow hb8 _)) (by omega) _) (by omega) _⟩
      have hD8 := HD7.out.stays hb8
      obtain ⟨p0, p1⟩ := hD8.1.cells
      have f0 := hD8.1.frozen 0
      have f1 := hD8.1.frozen 1
      clear hD8 o1 o2 hap hb8 hans HD7 HC7 HG7 c0 c1
      go_wp2_with fail
      go_roundw
      case rel => exact ⟨j - 1, A8, A8', C8, C8', X, X, by go_num, by omega, HF.out.1.1.cells.1, HF.out.1, HF.out.2.1, HF.out.2.2⟩
      case measure => simp [intOf]; omega

end Go.Proofs.YtjaihnmhojabfaaGreatDoor

namespace Go.Proofs.YtjaihnmhojabfaaGreatDoor
open Go.RowKit
set_option linter.unusedVariables false

section
variable {w W : World} {b n n' C C' : Nat} {A A' : Option Addr} {X Y : List ByteArray}

theorem DV.newG {w1 : World} {r : Option Nat} (hq : Box2R W w.heap.size 26 (.slice none 0 0) (.slice none 0 0)) (hg : W.grownBy w1 r) (hr : ∀ q, r = some q → q < w.heap.size) (o1 : OwnSt w1 W.heap.size (.slice A n C) n X) (o2 : OwnSt w1 W.heap.size (.slice A' n' C') n' Y) (hne : ∀ q, A.map (·.block) = some q → A'.map (·.block) ≠ some q) :
    DV w (w1.alloc (.cells #[.slice A n C, .slice A' n' C'] 26)) w1.heap.size A n C A' n' C' X Y := by
  have hlt := hq.lt
  have hs := hg.size
  have e1 : ∀ q, A.map (·.block) = some q → q < w1.heap.size := fun q e => (o1.lt q (by rw [blkOf_sV]; exact e)).2
  have e2 : ∀ q, A'.map (·.block) = some q → q < w1.heap.size := fun q e => (o2.lt q (by rw [blkOf_sV]; exact e)).2
  refine ⟨Box2R.new _ _ _ _, (hq.grown hg (fun e => by have := hr _ e; omega)).alloc _, (o1.below ((Below.refl _ _).alloc (Nat.le_refl _) _)).low (by omega), (o2.below ((Below.refl _ _).alloc (Nat.le_refl _) _)).low (by omega), fun q e => ⟨by have := e1 q e; omega, hne q e⟩, fun q e => by have := e2 q e; omega, by omega⟩

/-- The disk is answered. -/
theorem DV.fin {B c : Nat} {a : Option Addr} {len cap : Nat} {zs : List Int} (h : DV w W b A n C A' n' C' X Y) (hc : Cur W B c a len cap zs) (hg : w.grownBy W (some c)) (hcw : c < w.heap.size) (hn : n ≤ 7) (hn' : n' ≤ 7) : DrawnD w.heap.size 7 (.agg #[.slice A n C, .slice A' n' C']) ((W.setCell ⟨w.heap.size, 0, none⟩ (.slice A n C)).setCell ⟨w.heap.size, 1, none⟩ (.slice A' n' C')) ∧ Cur ((W.setCell ⟨w.heap.size, 0, none⟩ (.slice A n C)).setCell ⟨w.heap.size, 1, none⟩ (.slice A' n' C')) B c a len cap zs ∧ w.grownBy ((W.setCell ⟨w.heap.size, 0, none⟩ (.slice A n C)).setCell ⟨w.heap.size, 1, none⟩ (.slice A' n' C')) (some c) := by
  have l1 := h.2.2.1.len
  have l2 := h.2.2.2.1.len
  exact ⟨⟨X, Y, h.done, by omega, by omega⟩, (hc.put hcw _).put hcw _, gput (gput hg (Nat.le_refl _) _) (Nat.le_refl _) _⟩

/-- A sector of Sure is set. -/
theorem DV.sure {g : Nat} (h : DV w W b A n C (some ⟨g, 0, none⟩) n' C' X Y) (k : Nat) (x : ByteArray) (hx : x.size ≤ maxLen) : DV w (W.setCell ⟨g, k, none⟩ (.string x)) b A n C (some ⟨g, 0, none⟩) n' C' X (Y.set k x) := by
  obtain ⟨h1, h2, h3, h4, h5, h6, h7⟩ := h
  have hg := h6 g rfl
  have hlt := (h4.lt g rfl).1
  have n1 : blkOf (.slice A n C) ≠ some g := fun e => by rw [blkOf_sV] at e; exact (h5 g e).2 rfl
  refine ⟨h1.other (fun e => hg e.symm) _, h2.other (by omega) _, h3.setCell n1 _, ?_, h5, h6, h7⟩
  refine ⟨?_, fun y hy => ?_⟩
  · rw [← scells_set]
    exact (h4.1.stored k (.string x)).1
  · rcases List.mem_or_eq_of_mem_set hy with h | rfl
    · exact h4.2 y h
    · exact hx

/-- A sector is put behind Now. -/
theorem DV.longer (h : DV w W b A n C A' n' C' X Y) (o : Obj) {w2 : World} {B : Option Addr} {m D : Nat} {Z : List ByteArray} (ho : OwnSt w2 (w.heap.size + 1) (.slice B m D) m Z) (hg : (W.alloc o).grownBy w2 (A.map (·.block))) (hw : B.map (·.block) = A.map (·.block) ∨ B.map (·.block) = some (W.alloc o).heap.size) :
    DV w (w2.setCell ⟨b, 0, none⟩ (.slice B m D)) b B m D A' n' C' Z Y ∧ Box2R w2 b 26 (.slice A n C) (.slice A' n' C') := by
  obtain ⟨h1, h2, h3, h4, h5, h6, h7⟩ := h
  have hlt := h1.lt
  have lA : ∀ q, A.map (·.block) = some q → w.heap.size + 1 ≤ q := fun q e => (h3.lt q (by rw [blkOf_sV]; exact e)).1
  have lA' : ∀ q, A'.map (·.block) = some q → w.heap.size + 1 ≤ q ∧ q < W.heap.size := fun q e => h4.lt q (by rw [blkOf_sV]; exact e)
  have lB : ∀ q, B.map (·.block) = some q → w.heap.size + 1 ≤ q := fun q e => (ho.lt q (by rw [blkOf_sV]; exact e)).1
  have g1 := (h1.alloc o).grown hg (fun e => (h5 _ e).1 rfl)
  have g2 := (h2.alloc o).grown hg (fun e => by have := lA _ e; omega)
  have g4 := (h4.below ((Below.refl _ _).alloc (Nat.le_refl _) o)).kept hg (fun q e e2 => by rw [blkOf_sV] at e2; exact (h5 q e).2 e2)
  have hB : ∀ q, B.map (·.block) = some q → q ≠ b ∧ A'.map (·.block) ≠ some q := by
    intro q e
    rcases hw with hw | hw
    · exact h5 q (hw ▸ e)
    · rw [hw, World.size_alloc] at e
      injection e with e
      exact ⟨by omega, fun e2 => by have := (lA' q e2).2; omega⟩
  have n1 : blkOf (.slice B m D) ≠ some b := fun e => by rw [blkOf_sV] at e; exact (hB b e).1 rfl
  have n2 : blkOf (.slice A' n' C') ≠ some b := fun e => by rw [blkOf_sV] at e; exact h6 b e rfl
  exact ⟨⟨g1.set0 _, g2.other (by omega) _, ho.setCell n1 _, g4.setCell n2 _, hB, h6, h7⟩, g1⟩
end

set_option maxRecDepth 10000 in
set_option maxHeartbeats 3200000 in
theorem l12Any_any (B c : Nat) (a : Option Addr) (len cap : Nat) (zs : List Int) (w : World) (hcur : Cur w B c a len cap zs) (hl : len ≤ 1099511627776) :
    Calls Tryz.prog 60 #[.pointer (some ⟨c, 0, none⟩)] w fun e w' => (∃ v, e = .returned v ∧ DrawnD w.heap.size 7 v w') ∧ Cur w' B c a len cap zs ∧ w.grownBy w' (some c) := by
  obtain ⟨i0, hi, hz0, hz1, hz2⟩ := info_parts info_string
  have HC : Hid (Cur w B c a len cap zs) := hcur
  clear hcur
  have hcw : c < w.heap.size := HC.out.lt
  obtain ⟨w1, hw1⟩ : ∃ w1, w.alloc (.cells #[.slice none 0 0, .slice none 0 0] 26) = w1 := ⟨_, rfl⟩
  have HE : Hid (w.alloc (.cells #[.slice none 0 0, .slice none 0 0] 26) = w1) := hw1
  have HQ1 : Hid (Box2R w1 w.heap.size 26 (.slice none 0 0) (.slice none 0 0)) := by show Box2R _ _ _ _ _; rw [← hw1]; exact Box2R.new _ _ _ _
  have HC1 : Hid (Cur w1 B c a len cap zs) := by show Cur _ _ _ _ _ _ _; rw [← hw1]; exact HC.out.new _
  have HG1 : Hid (w.grownBy w1 (some c)) := by show World.grownBy _ _ _; rw [← hw1]; exact World.grownBy_alloc w _ _
  clear hw1 HC
  go_enter Tryz.func60, Tryz.ntmps60
  go_upto_region 1 with fail
  rw [HE.out]
  clear HE
  have hc1w : c < w1.heap.size := HC1.out.lt
  go_wp2_with fail
  refine (l12Draw_any B c a len cap zs w1 HC1.out hl).mono ?_
  rintro e w3 ⟨⟨v, rfl, X, Y, hans, hX6, hY6⟩, hc3, hg3⟩
  obtain ⟨n, hn⟩ : ∃ n, X.length = n := ⟨_, rfl⟩
  obtain ⟨n', hn'⟩ : ∃ n', Y.length = n' := ⟨_, rfl⟩
  obtain ⟨A, C, A', C', rfl, o1, o2, hap⟩ := hans.at hn hn'
  have HD3 : Hid (DV w (w3.alloc (.cells #[.slice A n C, .slice A' n' C'] 26)) w3.heap.size A n C A' n' C' X Y) := DV.newG HQ1.out hg3 (fun q e => by injection e with e; omega) o1 o2 hap
  have HC3 : Hid (Cur (w3.alloc (.cells #[.slice A n C, .slice A' n' C'] 26)) B c a len cap zs) := hc3.new _
  have HG3 : Hid (w.grownBy (w3.alloc (.cells #[.slice A n C, .slice A' n' C'] 26)) (some c)) := gnew (gtrans HG1.out hg3) _
  rw [hn] at hX6
  rw [hn'] at hY6
  clear hn hn' hans hc3 hg3 o1 o2 hap HQ1 HC1 HG1 hc1w
  go_wp2_with fail
  obtain ⟨w4, hw4⟩ : ∃ w4, w3.alloc (.cells #[.slice A n C, .slice A' n' C'] 26) = w4 := ⟨_, rfl⟩
  rw [hw4] at HD3 HC3 HG3 ⊢
  clear hw4
  generalize w3.heap.size = b at *
  refine (l1Below_any B c a len cap zs 12 w4 HC3.out hl (by omega) (by omega)).mono ?_
  rintro e w5 ⟨m, rfl, hm0, hm1, hc5, hg5⟩
  have HD5 : Hid (DV w w5 b A n C A' n' C' X Y) := HD3.out.grown hg5 (fun q e => by injection e with e; omega)
  have HC5 : Hid (Cur w5 B c a len cap zs) := hc5
  have HG5 : Hid (w.grownBy w5 (some c)) := gtrans HG3.out hg5
  clear hc5 hg5 HD3 HC3 HG3
  by_cases hk0 : m = 0
  · subst hk0
    obtain ⟨c0, c1⟩ := HD5.out.1.cells
    have hsz : w.heap.size + 1 ≤ w5.heap.size := by have := HD5.out.1.lt; have := HD5.out.2.2.2.2.2.2; omega
    have HO1 : Hid ((w5.alloc (.cells #[.string ⟨#[]⟩] 9)).ownsRow (w.heap.size + 1) 9 1 (.slice A n C) n (scells X)) := HD5.out.2.2.1.1.alloc _
    go_wp2_with (at_builtin; refine wpList_append_where rfl _ _ 24 rfl (w.heap.size + 1) 9 i0 (.string ⟨#[]⟩) 1 16 Tryz.underlying24 hi hz0 hz1 hz2 rfl (by decide) (.slice A n C) n (scells X) rfl HO1.out ⟨w5.heap.size, 0, none⟩ 1 1 (by decide) [.string ⟨#[]⟩] rfl rfl (str_new w5 ⟨#[]⟩) (by simp [Value.oneCell']) (by unfold maxLen; omega) (by omega) (by simp; omega) ?_; intro v2 w2 hown2 hgrow2 hw2; obtain ⟨A2, C2, rfl⟩ := srow_shape hown2; refine Hid.out ?_)
    refine hidden ?_
    rw [blkOf_own, blkOf_sV] at hgrow2
    rw [blkOf_own, blkOf_own, blkOf_sV, blkOf_sV] at hw2
    have ho2 : OwnSt w2 (w.heap.size + 1) (.slice A2 (n + 1) C2) (n + 1) (X ++ [⟨#[]⟩]) := ⟨by rw [scells_append]; exact hown2, fun x hx => by
      rcases List.mem_append.1 hx with h | h
      · exact HD5.out.2.2.1.2 x h
      · rw [List.mem_singleton.1 h]; exact Nat.zero_le _⟩
    obtain ⟨hd6, hbx⟩ := HD5.out.longer _ ho2 hgrow2 hw2
    have HD6 : Hid (DV w (w2.setCell ⟨b, 0, none⟩ (.slice A2 (n + 1) C2)) b A2 (n + 1) C2 A' n' C' (X ++ [⟨#[]⟩]) Y) := hd6
    have hbw := HD5.out.2.2.2.2.2.2
    have hAr : ∀ k, A.map (·.block) = some k → w.heap.size ≤ k := fun k e => by have := (HD5.out.2.2.1.lt k (by rw [blkOf_sV]; exact e)).1; omega
    have HC6 : Hid (Cur (w2.setCell ⟨b, 0, none⟩ (.slice A2 (n + 1) C2)) B c a len cap zs) := ((HC5.out.new _).kept hgrow2 (fun k e => ⟨by have := hAr k e; have := HC5.out.1; omega, by have := hAr k e; omega⟩)).put (by omega) _
    have HG6 : Hid (w.grownBy (w2.setCell ⟨b, 0, none⟩ (.slice A2 (n + 1) C2)) (some c)) := gput (gown (gnew HG5.out _) hgrow2 hAr) (by omega) _
    obtain ⟨p0, p1⟩ := hbx.cells
    have z0 := hbx.frozen 0
    clear hown2 hgrow2 hw2 ho2 hd6 hbx hAr HO1 HD5 HC5 HG5 c0 c1
    go_upto_region 8 with fail
    obtain ⟨w6, hw6⟩ : ∃ w6, w2.setCell ⟨b, 0, none⟩ (.slice A2 (n + 1) C2) = w6 := ⟨_, rfl⟩
    rw [hw6] at HD6 HC6 HG6 ⊢
    clear hw6 p0 p1 z0
    obtain ⟨c0, c1⟩ := HD6.out.1.cells
    obtain ⟨r0, r1⟩ := HD6.out.2.1.cells
    have f0 := HD6.out.2.1.frozen 0
    have f1 := HD6.out.2.1.frozen 1
    have HR := (show Hid _ from HD6.out.fin HC6.out HG6.out hcw (by omega) (by omega))
    clear HD6 HC6 HG6
    go_wp2_with fail
    refine bodyPost_ret (v := .agg #[.slice A2 (n + 1) C2, .slice A' n' C']) (by simp [results, Tryz.f60, go_sem, r0, r1]) rfl ?_
    exact ⟨⟨_, rfl, HR.out.1⟩, HR.out.2⟩
  have hk0b : (m == 0) = false := by simpa using hk0
  by_cases hk1 : m = 1
  case neg =>
    have hk1b : (m == 1) = false := by simpa using hk1
    obtain ⟨c0, c1⟩ := HD5.out.1.cells
    obtain ⟨r0, r1⟩ := HD5.out.2.1.cells
    have f0 := HD5.out.2.1.frozen 0
    have f1 := HD5.out.2.1.frozen 1
    have HR := (show Hid _ from HD5.out.fin HC5.out HG5.out hcw (by omega) (by omega))
    clear HD5 HC5 HG5
    go_wp2_with fail
    refine bodyPost_ret (v := .agg #[.slice A n C, .slice A' n' C']) (by simp [results, Tryz.f60, go_sem, r0, r1]) rfl ?_
    exact ⟨⟨_, rfl, HR.out.1⟩, HR.out.2⟩
  have hk1b : (m == 1) = true := by simpa using hk1
  by_cases hn0 : n' = 0
  · subst hn0
    obtain ⟨c0, c1⟩ := HD5.out.1.cells
    obtain ⟨r0, r1⟩ := HD5.out.2.1.cells
    have f0 := HD5.out.2.1.frozen 0
    have f1 := HD5.out.2.1.frozen 1
    have HR := (show Hid _ from HD5.out.fin HC5.out HG5.out hcw (by omega) (by omega))
    clear HD5 HC5 HG5
    go_wp2_with fail
    refine bodyPost_ret (v := .agg #[.slice A n C, .slice A' 0 C']) (by simp [results, Tryz.f60, go_sem, r0, r1]) rfl ?_
    exact ⟨⟨_, rfl, HR.out.1⟩, HR.out.2⟩
  have hni : (0 : Int) < (n' : Int) := by omega
  obtain ⟨g', rfl⟩ : ∃ g, A' = some ⟨g, 0, none⟩ := by
    rcases HD5.out.2.2.2.1.1.2 with ⟨_, h0⟩ | ⟨g, cap', cur, he, _⟩
    · omega
    · injection he with e1 _ _
      exact ⟨g, e1⟩
  obtain ⟨j0, ji, jz0, jz1, jz2⟩ := info_parts Tryz.info5
  have hbg : b ≠ g' := fun e => HD5.out.2.2.2.2.2.1 g' rfl e.symm
  have hgw : w.heap.size < g' := (HD5.out.2.2.2.1.lt g' rfl).1
  have HDd : Hid (DV w w5.drew b A n C (some ⟨g', 0, none⟩) n' C' X Y) := HD5.out.stays (Below.refl _ _).drew
  have HCd : Hid (Cur w5.drew B c a len cap zs) := HC5.out.kept (gbelow (Below.refl _ _).drew none) (by simp)
  have HGd : Hid (w.grownBy w5.drew (some c)) := gtrans HG5.out (gbelow (Below.refl _ _).drew _)
  obtain ⟨c0, c1⟩ := HD5.out.1.cells
  clear HD5 HC5 HG5
  go_wp2_with fail
  go_region_with (first
    | (go_at_call 32; refine (l1Below_any B c a len cap zs 2 _ HCd.out hl (by omega) (by omega)).mono ?_; rintro e y1 ⟨k, rfl, hk0, hk1, hc1, hg1⟩
       obtain ⟨q, hq⟩ := Int.eq_ofNat_of_zero_le (show 0 ≤ 64 + k by omega)
       have hqs : q ≤ 65 := (by omega)
       have hqw : IntKind.i64.wrap (q : Int) = (q : Int) := wrap_i64_small q (by omega)
       have hmk := run_make_zero (P := Tryz.prog) y1 22 5 j0 Tryz.underlying22 ji jz0 jz1 jz2 q (by omega)
       obtain ⟨y2, hy2⟩ : ∃ y2, y1.alloc (.cells (List.replicate q (.int .u8 0)).toArray 5) = y2 := ⟨_, rfl⟩
       obtain ⟨s, hsz, hcv⟩ := run_text_zero (P := Tryz.prog) (y1.alloc (.cells (List.replicate q (.int .u8 0)).toArray 5)) 22 9 5 Tryz.underlying22 (by kernel_rfl) (by kernel_rfl) y1.heap.size q q (heap_alloc_new _ _)
       have hD1 := HDd.out.grown hg1 (fun q e => by injection e with e; omega)
       have hD2 := hD1.stays ((Below.refl _ _).alloc (Nat.le_refl _) (.cells (List.replicate q (.int .u8 0)).toArray 5))
       have hC2 := hc1.new (.cells (List.replicate q (.int .u8 0)).toArray 5)
       have hG2 := gnew (gtrans HGd.out hg1) (.cells (List.replicate q (.int .u8 0)).toArray 5)
       rw [hy2] at hmk hcv hD2 hC2 hG2
       obtain ⟨e0, e1⟩ := hD1.1.cells
       obtain ⟨m0, m1⟩ := hD2.1.cells
       have fz : y2.frozen? ⟨g', 0, none⟩ = false := hD2.2.2.2.1.1.frozenAt _
       obtain ⟨u0, hu0⟩ : ∃ u, y2.cell? ⟨g', 0, none⟩ = some u := (by
         have hyl : (scells Y).length = n' := (by rw [scells_len]; exact hD2.2.2.2.1.len)
         rw [hD2.2.2.2.1.1.cellAt _ (by omega)]
         exact ⟨_, List.getElem?_eq_getElem (by omega)⟩))
    | fail)
  all_goals
    obtain ⟨w6, hw6⟩ : ∃ w6, y2.setCell ⟨g', 0, none⟩ (.string s) = w6 := ⟨_, rfl⟩
    have HD6 : Hid (DV w w6 b A n C (some ⟨g', 0, none⟩) n' C' X (Y.set 0 s)) := by show DV _ _ _ _ _ _ _ _ _ _ _; rw [← hw6]; exact hD2.sure 0 s (by unfold maxLen; omega)
    have HC6 : Hid (Cur w6 B c a len cap zs) := by show Cur _ _ _ _ _ _ _; rw [← hw6]; exact hC2.put (by omega) _
    have HG6 : Hid (w.grownBy w6 (some c)) := by show World.grownBy _ _ _; rw [← hw6]; exact gput hG2 (by omega) _
    rw [hw6]
    clear hw6 hy2 hD1 hD2 hC2 hG2 hc1 hg1 hmk hcv e0 e1 m0 m1 fz hu0 hq hqw HDd HCd HGd c0 c1
    obtain ⟨c0, c1⟩ := HD6.out.1.cells
    obtain ⟨r0, r1⟩ := HD6.out.2.1.cells
    have f0 := HD6.out.2.1.frozen 0
    have f1 := HD6.out.2.1.frozen 1
    have HR := (show Hid _ from HD6.out.fin HC6.out HG6.out hcw (by omega) (by omega))
    clear HD6 HC6 HG6
    go_wp2_with fail
    refine bodyPost_ret (v := .agg #[.slice A n C, .slice (some ⟨g', 0, none⟩) n' C']) (by simp [results, Tryz.f60, go_sem, r0, r1]) rfl ?_
    exact ⟨⟨_, rfl, HR.out.1⟩, HR.out.2⟩

end Go.Proofs.YtjaihnmhojabfaaGreatDoor
