/- A disk in a variable of a draw's whose sectors are put; no program in it but its table of types. A record in a variable of a draw's; no program in it but its table of types. A drawn record. For codes of at most 2^40 bytes. What the specification's PutRec answers. A drawn disk of records. For codes of at most 2^40 bytes. -/
import Derived.Test.YtjaihnmhojabfaaGreatDoorO01
import Derived.Test.YtjaihnmhojabfaaGreatDoorM06
import Derived.Test.YtjaihnmhojabfaaGreatDoorM01
import Derived.Test.YtjaihnmhojabfaaGreatDoorM18
import Derived.Test.YtjaihnmhojabfaaGreatDoorM09
import Derived.Test.YtjaihnmhojabfaaGreatDoorM09
import Derived.Deep.CutBlock
import Derived.Deep.RegionHeld3
import Derived.Test.YtjaihnmhojabfaaGreatDoorM17
import Derived.Test.YtjaihnmhojabfaaGreatDoorM24
import Derived.StillTailTactics
namespace Go.Proofs.YtjaihnmhojabfaaGreatDoor
open Go.RowKit
set_option linter.unusedVariables false

theorem putT_sz (e q k : Int) (id : ByteArray) (n : Int) (zs : List Int) : (putT e q k id n zs).size ≤ 48 := by
  rw [putT]
  split
  · rename_i h
    obtain ⟨_, _, _, hi, _, hd⟩ := okRec_iff h
    rw [txU_size]
    have := put_len ⟨e, q, k, id, n, zs⟩
    rw [R.put, R.body] at this
    dsimp only at this
    omega
  · exact Nat.zero_le _

theorem ownSt_at {W : World} {base n C : Nat} {A : Option Addr} {X : List ByteArray} (h : OwnSt W base (.slice A n C) n X) (hn : 0 < n) : ∃ g, A = some ⟨g, 0, none⟩ := by
  rcases h.1.2 with ⟨_, h0⟩ | ⟨g, cap', cur, he, _⟩
  · omega
  · injection he with e1 _ _
    exact ⟨g, e1⟩

/-- A sector in Now is put. -/
theorem DV.putN {w W : World} {b n n' C C' : Nat} {A' : Option Addr} {X Y : List ByteArray} {g : Nat} (h : DV w W b (some ⟨g, 0, none⟩) n C A' n' C' X Y) (k : Nat) (x : ByteArray) (hx : x.size ≤ maxLen) : DV w (W.setCell ⟨g, k, none⟩ (.string x)) b (some ⟨g, 0, none⟩) n C A' n' C' (X.set k x) Y := by
  obtain ⟨h1, h2, h3, h4, h5, h6, h7⟩ := h
  have hg := h5 g rfl
  have hlt := (h3.lt g rfl).1
  have n1 : blkOf (.slice A' n' C') ≠ some g := fun e => by rw [blkOf_sV] at e; exact hg.2 e
  refine ⟨h1.other (fun e => hg.1 e.symm) _, h2.other (by omega) _, ?_, h4.setCell n1 _, h5, h6, h7⟩
  refine ⟨?_, fun y hy => ?_⟩
  · rw [← scells_set]
    exact (h3.1.stored k (.string x)).1
  · rcases List.mem_or_eq_of_mem_set hy with h | rfl
    · exact h3.2 y h
    · exact hx

/-- A sector in Sure is put. -/
theorem DV.putS {w W : World} {b n n' C C' : Nat} {A : Option Addr} {X Y : List ByteArray} {g : Nat} (h : DV w W b A n C (some ⟨g, 0, none⟩) n' C' X Y) (k : Nat) (x : ByteArray) (hx : x.size ≤ maxLen) : DV w (W.setCell ⟨g, k, none⟩ (.string x)) b A n C (some ⟨g, 0, none⟩) n' C' X (Y.set k x) := by
  obtain ⟨h1, h2, h3, h4, h5, h6, h7⟩ := h
  have hg := h6 g rfl
  have hlt := (h4.lt g rfl).1
  have n1 : blkOf (.slice A n C) ≠ some g := fun e => by rw [blkOf_sV] at e; exact (h5 g e).2 rfl
  refine ⟨h1.other (fun e => hg e.symm) _, h2.other (by omega) _, h3.setCell n1 _, ?_, h5, h6, h7⟩
  refine ⟨?_, fun y hy => ?_⟩
  · rw [← scells_set]
    exact (h4.1.stored k (.string x)).1
  · rcases List.mem_or_eq_of_mem_set hy with h | rfl
    · exact h4.2 y h
    · exact hx

/-- A cell of a row of texts, and that it is not frozen. -/
theorem ownSt_cell {W : World} {base g n C : Nat} {X : List ByteArray} (h : OwnSt W base (.slice (some ⟨g, 0, none⟩) n C) n X) {k : Nat} (hk : k < n) : ∃ x, X[k]? = some x ∧ W.cell? ⟨g, k, none⟩ = some (.string x) ∧ W.frozen? ⟨g, k, none⟩ = false := by
  have hl : X.length = n := h.len
  have hk' : k < X.length := by omega
  refine ⟨X[k], List.getElem?_eq_getElem hk', ?_, h.1.frozenAt _⟩
  rw [h.1.cellAt _ (by omega)]
  simp [scells, List.getElem?_eq_getElem hk']

/-- Some disk of five sectors of short texts, in memory of its own. -/
def Drawn5 (base : Nat) (v : Value) (w' : World) : Prop := ∃ X Y, AnsD base X Y v w' ∧ X.length = 5 ∧ Y.length = 5 ∧ ∀ x ∈ X, x.size ≤ 48

end Go.Proofs.YtjaihnmhojabfaaGreatDoor

namespace Go.Proofs.YtjaihnmhojabfaaGreatDoor
open Go.RowKit
set_option linter.unusedVariables false

theorem owns_lowV {w : World} {base lo n cap : Nat} {a : Option Addr} {zs : List Int} (h : Owns w base a n cap zs) (hl : lo ≤ base) : Owns w lo a n cap zs := ⟨own_low h.1 hl, h.2⟩

def RV (w W : World) (b : Nat) (e q k : Int) (id : ByteArray) (n : Int) (A : Option Addr) (d C : Nat) (zs : List Int) : Prop :=
  BoxN W b 69 [.int .i64 e, .int .i64 q, .int .i64 k, .string id, .int .i64 n, .slice A d C] ∧ BoxN W w.heap.size 69 [.int .i64 0, .int .i64 0, .int .i64 0, .string ⟨#[]⟩, .int .i64 0, .slice none 0 0] ∧ Owns W (w.heap.size + 1) A d C zs ∧ (∀ q, A.map (·.block) = some q → q ≠ b) ∧ w.heap.size < b

/-- Some record of few bytes, its bytes in memory of its own. -/
def DrawnR (base : Nat) (v : Value) (w' : World) : Prop := ∃ (r : R) (A : Option Addr) (C : Nat), v = .agg #[.int .i64 r.e, .int .i64 r.q, .int .i64 r.k, .string r.id, .int .i64 r.n, .slice A r.zs.length C] ∧ Owns w' base A r.zs.length C r.zs ∧ r.id.size ≤ 9 ∧ r.zs.length ≤ 25

section
variable {w W W' : World} {b : Nat} {e q k : Int} {id : ByteArray} {n : Int} {A : Option Addr} {d C : Nat} {zs : List Int}

theorem RV.grown (h : RV w W b e q k id n A d C zs) {r : Option Nat} (hg : W.grownBy W' r) (hr : ∀ q, r = some q → q < w.heap.size) : RV w W' b e q k id n A d C zs := by
  obtain ⟨h1, h2, h3, h4, h5⟩ := h
  exact ⟨h1.grown hg (fun e => by have := hr _ e; omega), h2.grown hg (fun e => by have := hr _ e; omega), h3.grown hg (fun q e e2 => by have := hr q e; have := (h3.lt q e2).1; omega), h4, h5⟩

theorem RV.new (hq : BoxN W w.heap.size 69 [.int .i64 0, .int .i64 0, .int .i64 0, .string ⟨#[]⟩, .int .i64 0, .slice none 0 0]) (e q k : Int) (id : ByteArray) (n : Int) : RV w (W.alloc (.cells #[.int .i64 e, .int .i64 q, .int .i64 k, .string id, .int .i64 n, .slice none 0 0] 69)) W.heap.size e q k id n none 0 0 [] :=
  ⟨BoxN.new _ _ _, hq.alloc _, ⟨⟨rfl, .inl ⟨rfl, rfl⟩⟩, by simp⟩, by simp, hq.lt⟩

/-- Its number is set. -/
theorem RV.setN (h : RV w W b e q k id n A d C zs) (m : Int) : RV w (W.setCell ⟨b, 4, none⟩ (.int .i64 m)) b e q k id m A d C zs := by
  obtain ⟨h1, h2, h3, h4, h5⟩ := h
  exact ⟨h1.set 4 _, h2.other (by omega) _, owns_set h3 (fun e => h4 b e rfl), h4, h5⟩

theorem RV.setE (h : RV w W b e q k id n A d C zs) (m : Int) : RV w (W.setCell ⟨b, 0, none⟩ (.int .i64 m)) b m q k id n A d C zs := by
  obtain ⟨h1, h2, h3, h4, h5⟩ := h
  exact ⟨h1.set 0 _, h2.other (by omega) _, owns_set h3 (fun e => h4 b e rfl), h4, h5⟩

theorem RV.setQ (h : RV w W b e q k id n A d C zs) (m : Int) : RV w (W.setCell ⟨b, 1, none⟩ (.int .i64 m)) b e m k id n A d C zs := by
  obtain ⟨h1, h2, h3, h4, h5⟩ := h
  exact ⟨h1.set 1 _, h2.other (by omega) _, owns_set h3 (fun e => h4 b e rfl), h4, h5⟩

theorem RV.setK (h : RV w W b e q k id n A d C zs) (m : Int) : RV w (W.setCell ⟨b, 2, none⟩ (.int .i64 m)) b e q m id n A d C zs := by
  obtain ⟨h1, h2, h3, h4, h5⟩ := h
  exact ⟨h1.set 2 _, h2.other (by omega) _, owns_set h3 (fun e => h4 b e rfl), h4, h5⟩

theorem RV.setI (h : RV w W b e q k id n A d C zs) (m : ByteArray) : RV w (W.setCell ⟨b, 3, none⟩ (.string m)) b e q k m n A d C zs := by
  obtain ⟨h1, h2, h3, h4, h5⟩ := h
  exact ⟨h1.set 3 _, h2.other (by omega) _, owns_set h3 (fun e => h4 b e rfl), h4, h5⟩

/-- Its bytes are set. -/
theorem RV.setD (h : RV w W b e q k id n A d C zs) {A' : Option Addr} {d' C' : Nat} {zs' : List Int} {lo : Nat} (ho : Owns W lo A' d' C' zs') (hlo : b < lo) : RV w (W.setCell ⟨b, 5, none⟩ (.slice A' d' C')) b e q k id n A' d' C' zs' := by
  obtain ⟨h1, h2, h3, h4, h5⟩ := h
  have hne : ∀ x, A'.map (·.block) = some x → x ≠ b := fun x hx => by have := (ho.lt x hx).1; omega
  exact ⟨h1.set 5 _, h2.other (by omega) _, owns_lowV (owns_set ho (fun e => hne b e rfl)) (by omega), hne, h5⟩

theorem RV.done (h : RV w W b e q k id n A d C zs) (hi : id.size ≤ 9) (hd : d ≤ 25) : DrawnR w.heap.size (.agg #[.int .i64 e, .int .i64 q, .int .i64 k, .string id, .int .i64 n, .slice A d C]) ((((((W.setCell ⟨w.heap.size, 0, none⟩ (.int .i64 e)).setCell ⟨w.heap.size, 1, none⟩ (.int .i64 q)).setCell ⟨w.heap.size, 2, none⟩ (.int .i64 k)).setCell ⟨w.heap.size, 3, none⟩ (.string id)).setCell ⟨w.heap.size, 4, none⟩ (.int .i64 n)).setCell ⟨w.heap.size, 5, none⟩ (.slice A d C)) := by
  obtain ⟨h1, h2, h3, h4, h5⟩ := h
  have hl := h3.seg.1
  have hA : A.map (·.block) ≠ some w.heap.size := fun e => by have := (h3.lt _ e).1; omega
  refine ⟨⟨e, q, k, id, n, zs⟩, A, C, by dsimp only; rw [hl], ?_, hi, by dsimp only; omega⟩
  dsimp only
  rw [hl]
  exact owns_lowV (owns_set (owns_set (owns_set (owns_set (owns_set (owns_set h3 hA) hA) hA) hA) hA) hA) (by omega)
end

end Go.Proofs.YtjaihnmhojabfaaGreatDoor

namespace Go.Proofs.YtjaihnmhojabfaaGreatDoor
open Go.RowKit
set_option linter.unusedVariables false

def rids : List ByteArray := [⟨#[97]⟩, ⟨#[98]⟩, ⟨#[117, 112, 49]⟩]
theorem rids_short : ∀ s ∈ rids, s.size ≤ 9 := by decide

set_option maxRecDepth 10000 in
set_option maxHeartbeats 3200000 in
theorem l13Rec_any (B c : Nat) (a : Option Addr) (len cap : Nat) (zs : List Int) (seq : Int) (w : World) (hcur : Cur w B c a len cap zs) (hl : len ≤ 1099511627776) :
    Calls Tryz.prog 95 #[.pointer (some ⟨c, 0, none⟩), .int .i64 seq] w fun e w' => (∃ v, e = .returned v ∧ DrawnR w.heap.size v w') ∧ Cur w' B c a len cap zs ∧ w.grownBy w' (some c) := by
  have HC : Hid (Cur w B c a len cap zs) := hcur
  clear hcur
  have hcw : c < w.heap.size := HC.out.lt
  obtain ⟨w1, hw1⟩ : ∃ w1, w.alloc (.cells #[.int .i64 0, .int .i64 0, .int .i64 0, .string ⟨#[]⟩, .int .i64 0, .slice none 0 0] 69) = w1 := ⟨_, rfl⟩
  have HE : Hid (w.alloc (.cells #[.int .i64 0, .int .i64 0, .int .i64 0, .string ⟨#[]⟩, .int .i64 0, .slice none 0 0] 69) = w1) := hw1
  have HQ1 : Hid (BoxN w1 w.heap.size 69 [.int .i64 0, .int .i64 0, .int .i64 0, .string ⟨#[]⟩, .int .i64 0, .slice none 0 0]) := by show BoxN _ _ _ _; rw [← hw1]; exact BoxN.new _ _ _
  have HC1 : Hid (Cur w1 B c a len cap zs) := by show Cur _ _ _ _ _ _ _; rw [← hw1]; exact HC.out.new _
  have HG1 : Hid (w.grownBy w1 (some c)) := by show World.grownBy _ _ _; rw [← hw1]; exact World.grownBy_alloc w _ _
  clear hw1 HC
  go_enter Tryz.func95, Tryz.ntmps95
  go_wp2_with fail
  rw [HE.out]
  clear HE
  refine (l1Below_any B c a len cap zs 3 w1 HC1.out hl (by omega) (by omega)).mono ?_
  rintro _ w2 ⟨e, rfl, he0, he1, hc2, hg2⟩
  have HQ2 : Hid (BoxN w2 w.heap.size 69 [.int .i64 0, .int .i64 0, .int .i64 0, .string ⟨#[]⟩, .int .i64 0, .slice none 0 0]) := HQ1.out.grown hg2 (fun e => by injection e with e; omega)
  have HC2 : Hid (Cur w2 B c a len cap zs) := hc2
  have HG2 : Hid (w.grownBy w2 (some c)) := gtrans HG1.out hg2
  clear hc2 hg2 HQ1 HC1 HG1
  have hc2w : c < w2.heap.size := HC2.out.lt
  go_wp2_with fail
  refine (l1Int_any B c a len cap zs w2.heap.size 5 5 [1, 2, 2, 3, 4] _ (HC2.out.new _) hl (heap_alloc_new w2 _) (by omega) rfl (by omega) (by omega)).mono ?_
  rintro _ w3 ⟨k, rfl, hk, hc3, hg3⟩
  have hg23 : w2.grownBy w3 (some c) := gtrans (World.grownBy_alloc w2 _ _) hg3
  have HQ3 : Hid (BoxN w3 w.heap.size 69 [.int .i64 0, .int .i64 0, .int .i64 0, .string ⟨#[]⟩, .int .i64 0, .slice none 0 0]) := HQ2.out.grown hg23 (fun e => by injection e with e; omega)
  have HC3 : Hid (Cur w3 B c a len cap zs) := hc3
  have HG3 : Hid (w.grownBy w3 (some c)) := gtrans HG2.out hg23
  clear hk hc3 hg3 hg23 HQ2 HC2 HG2 hc2w
  have hc3w : c < w3.heap.size := HC3.out.lt
  go_wp2_with fail
  refine (l1Str_any B c a len cap zs w3.heap.size 3 3 rids _ (HC3.out.new _) hl (heap_alloc_new w3 _) (by omega) rfl (by omega) (by omega)).mono ?_
  rintro _ w4 ⟨id, rfl, hid, hc4, hg4⟩
  have HI9 : Hid (id.size ≤ 9) := rids_short id hid
  have hg34 : w3.grownBy w4 (some c) := gtrans (World.grownBy_alloc w3 _ _) hg4
  have HQ4 : Hid (BoxN w4 w.heap.size 69 [.int .i64 0, .int .i64 0, .int .i64 0, .string ⟨#[]⟩, .int .i64 0, .slice none 0 0]) := HQ3.out.grown hg34 (fun e => by injection e with e; omega)
  have HD5 : Hid (RV w (w4.alloc (.cells #[.int .i64 e, .int .i64 seq, .int .i64 k, .string id, .int .i64 0, .slice none 0 0] 69)) w4.heap.size e seq k id 0 none 0 0 []) := RV.new HQ4.out e seq k id 0
  have HC5 : Hid (Cur (w4.alloc (.cells #[.int .i64 e, .int .i64 seq, .int .i64 k, .string id, .int .i64 0, .slice none 0 0] 69)) B c a len cap zs) := hc4.new _
  have HG5 : Hid (w.grownBy (w4.alloc (.cells #[.int .i64 e, .int .i64 seq, .int .i64 k, .string id, .int .i64 0, .slice none 0 0] 69)) (some c)) := gnew (gtrans HG3.out hg34) _
  clear hid hc4 hg4 hg34 HQ3 HC3 HG3 hc3w HQ4
  go_upto_region 2 with fail
  obtain ⟨w5, hw5⟩ : ∃ w5, w4.alloc (.cells #[.int .i64 e, .int .i64 seq, .int .i64 k, .string id, .int .i64 0, .slice none 0 0] 69) = w5 := ⟨_, rfl⟩
  rw [hw5] at HD5 HC5 HG5 ⊢
  clear hw5
  generalize w4.heap.size = b at *
  have hbw : w.heap.size < b := HD5.out.2.2.2.2
  have hbl : b < w5.heap.size := HD5.out.1.lt
  have hc5w : c < w5.heap.size := HC5.out.lt
  have s2 := HD5.out.1.cell 2 rfl
  by_cases hk1 : k = 1
  · subst hk1
    go_wp2_with fail
    refine (l1Int_any B c a len cap zs w5.heap.size 3 3 [0, 5, 30] _ (HC5.out.new _) hl (heap_alloc_new w5 _) (by omega) rfl (by omega) (by omega)).mono ?_
    rintro _ w6 ⟨n, rfl, hn, hc6, hg6⟩
    have hg56 : w5.grownBy w6 (some c) := gtrans (World.grownBy_alloc w5 _ _) hg6
    have hd6 := HD5.out.grown hg56 (fun q e => by injection e with e; omega)
    have HD7 : Hid (RV w (w6.setCell ⟨b, 4, none⟩ (.int .i64 n)) b e seq 1 id n none 0 0 []) := hd6.setN n
    have HC7 : Hid (Cur (w6.setCell ⟨b, 4, none⟩ (.int .i64 n)) B c a len cap zs) := hc6.put (by omega) _
    have HG7 : Hid (w.grownBy (w6.setCell ⟨b, 4, none⟩ (.int .i64 n)) (some c)) := gput (gtrans HG5.out hg56) (by omega) _
    have q4 := hd6.1.cell 4 rfl
    have z4 := hd6.1.frozen 4
    clear hn hc6 hg6 hg56 hd6 HD5 HC5 HG5 s2
    go_upto_region 8 with fail
    obtain ⟨w7, hw7⟩ : ∃ w7, w6.setCell ⟨b, 4, none⟩ (.int .i64 n) = w7 := ⟨_, rfl⟩
    rw [hw7] at HD7 HC7 HG7 ⊢
    clear hw7 q4 z4
    have c0 := HD7.out.1.cell 0 rfl
    have c1 := HD7.out.1.cell 1 rfl
    have c2 := HD7.out.1.cell 2 rfl
    have c3 := HD7.out.1.cell 3 rfl
    have c4 := HD7.out.1.cell 4 rfl
    have c5 := HD7.out.1.cell 5 rfl
    have r0 := HD7.out.2.1.cell 0 rfl
    have r1 := HD7.out.2.1.cell 1 rfl
    have r2 := HD7.out.2.1.cell 2 rfl
    have r3 := HD7.out.2.1.cell 3 rfl
    have r4 := HD7.out.2.1.cell 4 rfl
    have r5 := HD7.out.2.1.cell 5 rfl
    have f0 := HD7.out.2.1.frozen 0
    have f1 := HD7.out.2.1.frozen 1
    have f2 := HD7.out.2.1.frozen 2
    have f3 := HD7.out.2.1.frozen 3
    have f4 := HD7.out.2.1.frozen 4
    have f5 := HD7.out.2.1.frozen 5
    have HR := (show Hid _ from HD7.out.done HI9.out (by omega))
    have HCf := (show Hid _ from ((((((HC7.out.put (k := 0) hcw (.int .i64 e)).put (k := 1) hcw (.int .i64 seq)).put (k := 2) hcw (.int .i64 1)).put (k := 3) hcw (.string id)).put (k := 4) hcw (.int .i64 n)).put (k := 5) hcw (.slice none 0 0)))
    have HGf := (show Hid _ from gput (k := 5) (gput (k := 4) (gput (k := 3) (gput (k := 2) (gput (k := 1) (gput (k := 0) HG7.out (Nat.le_refl _) (.int .i64 e)) (Nat.le_refl _) (.int .i64 seq)) (Nat.le_refl _) (.int .i64 1)) (Nat.le_refl _) (.string id)) (Nat.le_refl _) (.int .i64 n)) (Nat.le_refl _) (.slice none 0 0))
    clear HD7 HC7 HG7
    go_wp2_with fail
    refine bodyPost_ret (v := .agg #[.int .i64 e, .int .i64 seq, .int .i64 1, .string id, .int .i64 n, .slice none 0 0]) (by simp [results, Tryz.f95, go_sem, r0, r1, r2, r3, r4, r5]) rfl ?_
    exact ⟨⟨_, rfl, HR.out⟩, HCf.out, HGf.out⟩
  have hk1b : (k == 1) = false := by simpa using hk1
  by_cases hk2 : k = 2
  case neg =>
    have hk2b : (k == 2) = false := by simpa using hk2
    have c0 := HD5.out.1.cell 0 rfl
    have c1 := HD5.out.1.cell 1 rfl
    have c2 := HD5.out.1.cell 2 rfl
    have c3 := HD5.out.1.cell 3 rfl
    have c4 := HD5.out.1.cell 4 rfl
    have c5 := HD5.out.1.cell 5 rfl
    have r0 := HD5.out.2.1.cell 0 rfl
    have r1 := HD5.out.2.1.cell 1 rfl
    have r2 := HD5.out.2.1.cell 2 rfl
    have r3 := HD5.out.2.1.cell 3 rfl
    have r4 := HD5.out.2.1.cell 4 rfl
    have r5 := HD5.out.2.1.cell 5 rfl
    have f0 := HD5.out.2.1.frozen 0
    have f1 := HD5.out.2.1.frozen 1
    have f2 := HD5.out.2.1.frozen 2
    have f3 := HD5.out.2.1.frozen 3
    have f4 := HD5.out.2.1.frozen 4
    have f5 := HD5.out.2.1.frozen 5
    have HR := (show Hid _ from HD5.out.done HI9.out (by omega))
    have HCf := (show Hid _ from ((((((HC5.out.put (k := 0) hcw (.int .i64 e)).put (k := 1) hcw (.int .i64 seq)).put (k := 2) hcw (.int .i64 k)).put (k := 3) hcw (.string id)).put (k := 4) hcw (.int .i64 0)).put (k := 5) hcw (.slice none 0 0)))
    have HGf := (show Hid _ from gput (k := 5) (gput (k := 4) (gput (k := 3) (gput (k := 2) (gput (k := 1) (gput (k := 0) HG5.out (Nat.le_refl _) (.int .i64 e)) (Nat.le_refl _) (.int .i64 seq)) (Nat.le_refl _) (.int .i64 k)) (Nat.le_refl _) (.string id)) (Nat.le_refl _) (.int .i64 0)) (Nat.le_refl _) (.slice none 0 0))
    clear HD5 HC5 HG5
    go_wp2_with fail
    refine bodyPost_ret (v := .agg #[.int .i64 e, .int .i64 seq, .int .i64 k, .string id, .int .i64 0, .slice none 0 0]) (by simp [results, Tryz.f95, go_sem, r0, r1, r2, r3, r4, r5]) rfl ?_
    exact ⟨⟨_, rfl, HR.out⟩, HCf.out, HGf.out⟩
  subst hk2
  go_wp2_with fail
  refine (l1Int_any B c a len cap zs w5.heap.size 3 3 [0, 3, 24] _ (HC5.out.new _) hl (heap_alloc_new w5 _) (by omega) rfl (by omega) (by omega)).mono ?_
  rintro _ w6 ⟨n, rfl, hn, hc6, hg6⟩
  have hg56 : w5.grownBy w6 (some c) := gtrans (World.grownBy_alloc w5 _ _) hg6
  have hd6 := HD5.out.grown hg56 (fun q e => by injection e with e; omega)
  have HD7 : Hid (RV w (w6.setCell ⟨b, 4, none⟩ (.int .i64 n)) b e seq 2 id n none 0 0 []) := hd6.setN n
  have HC7 : Hid (Cur (w6.setCell ⟨b, 4, none⟩ (.int .i64 n)) B c a len cap zs) := hc6.put (by omega) _
  have HG7 : Hid (w.grownBy (w6.setCell ⟨b, 4, none⟩ (.int .i64 n)) (some c)) := gput (gtrans HG5.out hg56) (by omega) _
  have q4 := hd6.1.cell 4 rfl
  have z4 := hd6.1.frozen 4
  clear hn hc6 hg6 hg56 hd6 HD5 HC5 HG5 s2
  go_upto_region 7 with fail
  obtain ⟨w7, hw7⟩ : ∃ w7, w6.setCell ⟨b, 4, none⟩ (.int .i64 n) = w7 := ⟨_, rfl⟩
  rw [hw7] at HD7 HC7 HG7 ⊢
  clear hw7 q4 z4
  have hc7w : c < w7.heap.size := HC7.out.lt
  have hb7 : b < w7.heap.size := HD7.out.1.lt
  go_wp2_with fail
  refine (l1Int_any B c a len cap zs w7.heap.size 3 3 [1, 3, 24] _ (HC7.out.new _) hl (heap_alloc_new w7 _) (by omega) rfl (by omega) (by omega)).mono ?_
  rintro _ w8 ⟨m, rfl, hm, hc8, hg8⟩
  obtain ⟨mm, rfl⟩ : ∃ mm : Nat, m = (mm : Int) := by
    simp only [List.mem_cons, List.not_mem_nil, or_false] at hm
    exact ⟨m.toNat, by omega⟩
  have hm24 : mm ≤ 24 := by
    simp only [List.mem_cons, List.not_mem_nil, or_false] at hm
    omega
  have hg78 : w7.grownBy w8 (some c) := gtrans (World.grownBy_alloc w7 _ _) hg8
  have HD8 : Hid (RV w w8 b e seq 2 id n none 0 0 []) := HD7.out.grown hg78 (fun q e => by injection e with e; omega)
  have HC8 : Hid (Cur w8 B c a len cap zs) := hc8
  have HG8 : Hid (w.grownBy w8 (some c)) := gtrans HG7.out hg78
  clear hm hc8 hg8 hg78 HD7 HC7 HG7
  have hb8 : b < w8.heap.size := HD8.out.1.lt
  go_wp2_with fail
  refine (l1Bytes_any B c a len cap zs mm w8 HC8.out hl (by omega)).mono ?_
  rintro _ w9 ⟨g, cp, ds, rfl, _, ho9, hc9, hg9⟩
  have hd9 := HD8.out.grown hg9 (fun q e => by injection e with e; omega)
  have HD10 : Hid (RV w (w9.setCell ⟨b, 5, none⟩ (.slice (some ⟨g, 0, none⟩) mm cp)) b e seq 2 id n (some ⟨g, 0, none⟩) mm cp ds) := hd9.setD ho9 hb8
  have HC10 : Hid (Cur (w9.setCell ⟨b, 5, none⟩ (.slice (some ⟨g, 0, none⟩) mm cp)) B c a len cap zs) := hc9.put (by omega) _
  have HG10 : Hid (w.grownBy (w9.setCell ⟨b, 5, none⟩ (.slice (some ⟨g, 0, none⟩) mm cp)) (some c)) := gput (gtrans HG8.out hg9) (by omega) _
  have q5 := hd9.1.cell 5 rfl
  have z5 := hd9.1.frozen 5
  clear ho9 hc9 hg9 hd9 HD8 HC8 HG8
  go_upto_region 8 with fail
  obtain ⟨w10, hw10⟩ : ∃ w10, w9.setCell ⟨b, 5, none⟩ (.slice (some ⟨g, 0, none⟩) mm cp) = w10 := ⟨_, rfl⟩
  rw [hw10] at HD10 HC10 HG10 ⊢
  clear hw10 q5 z5
  have c0 := HD10.out.1.cell 0 rfl
  have c1 := HD10.out.1.cell 1 rfl
  have c2 := HD10.out.1.cell 2 rfl
  have c3 := HD10.out.1.cell 3 rfl
  have c4 := HD10.out.1.cell 4 rfl
  have c5 := HD10.out.1.cell 5 rfl
  have r0 := HD10.out.2.1.cell 0 rfl
  have r1 := HD10.out.2.1.cell 1 rfl
  have r2 := HD10.out.2.1.cell 2 rfl
  have r3 := HD10.out.2.1.cell 3 rfl
  have r4 := HD10.out.2.1.cell 4 rfl
  have r5 := HD10.out.2.1.cell 5 rfl
  have f0 := HD10.out.2.1.frozen 0
  have f1 := HD10.out.2.1.frozen 1
  have f2 := HD10.out.2.1.frozen 2
  have f3 := HD10.out.2.1.frozen 3
  have f4 := HD10.out.2.1.frozen 4
  have f5 := HD10.out.2.1.frozen 5
  have HR := (show Hid _ from HD10.out.done HI9.out (by omega))
  have HCf := (show Hid _ from ((((((HC10.out.put (k := 0) hcw (.int .i64 e)).put (k := 1) hcw (.int .i64 seq)).put (k := 2) hcw (.int .i64 2)).put (k := 3) hcw (.string id)).put (k := 4) hcw (.int .i64 n)).put (k := 5) hcw (.slice (some ⟨g, 0, none⟩) mm cp)))
  have HGf := (show Hid _ from gput (k := 5) (gput (k := 4) (gput (k := 3) (gput (k := 2) (gput (k := 1) (gput (k := 0) HG10.out (Nat.le_refl _) (.int .i64 e)) (Nat.le_refl _) (.int .i64 seq)) (Nat.le_refl _) (.int .i64 2)) (Nat.le_refl _) (.string id)) (Nat.le_refl _) (.int .i64 n)) (Nat.le_refl _) (.slice (some ⟨g, 0, none⟩) mm cp))
  clear HD10 HC10 HG10
  go_wp2_with fail
  refine bodyPost_ret (v := .agg #[.int .i64 e, .int .i64 seq, .int .i64 2, .string id, .int .i64 n, .slice (some ⟨g, 0, none⟩) mm cp]) (by simp [results, Tryz.f95, go_sem, r0, r1, r2, r3, r4, r5]) rfl ?_
  exact ⟨⟨_, rfl, HR.out⟩, HCf.out, HGf.out⟩

end Go.Proofs.YtjaihnmhojabfaaGreatDoor

namespace Go.Proofs.YtjaihnmhojabfaaGreatDoor
open Go.RowKit
set_option linter.unusedVariables false

set_option maxRecDepth 10000 in
set_option maxHeartbeats 1600000 in
theorem specPutR_any (e q k : Int) (id : ByteArray) (n : Int) (a : Option Addr) (d ca : Nat) (zs : List Int) (w : World) (hs : Seg w a d zs) (hi : id.size ≤ maxLen) (hd : d ≤ 1099511627776) :
    Calls Tryz.prog 96 #[.agg #[.int .i64 e, .int .i64 q, .int .i64 k, .string id, .int .i64 n, .slice a d ca]] w fun r w' => r = .returned (.string (putT e q k id n zs)) ∧ Below w.heap.size w w' := by
  obtain ⟨w0, hw0⟩ : ∃ w0, w.alloc (.cells #[.int .i64 e, .int .i64 q, .int .i64 k, .string id, .int .i64 n, .slice a d ca] 69) = w0 := ⟨_, rfl⟩
  have HE : Hid (w.alloc (.cells #[.int .i64 e, .int .i64 q, .int .i64 k, .string id, .int .i64 n, .slice a d ca] 69) = w0) := hw0
  have q0 : BoxN w0 w.heap.size 69 [.int .i64 e, .int .i64 q, .int .i64 k, .string id, .int .i64 n, .slice a d ca] := by rw [← hw0]; exact BoxN.new _ _ _
  have HB : Hid (Below w.heap.size w w0) := by show Below _ _ _; rw [← hw0]; exact (Below.refl _ _).alloc (Nat.le_refl _) _
  have HQ : Hid (BoxN w0 w.heap.size 69 [.int .i64 e, .int .i64 q, .int .i64 k, .string id, .int .i64 n, .slice a d ca]) := q0
  have HS : Hid (Seg w0 a d zs) := hs.below HB.out
  have HL : Hid (zs.length = d) := hs.1
  clear hw0 hs
  have c0 := q0.cell 0 rfl
  have c1 := q0.cell 1 rfl
  have c2 := q0.cell 2 rfl
  have c3 := q0.cell 3 rfl
  have c4 := q0.cell 4 rfl
  have c5 := q0.cell 5 rfl
  clear q0
  go_enter Tryz.func96, Tryz.ntmps96
  go_upto_region 1 with fail
  rw [HE.out]
  clear HE
  go_wp2_with fail
  refine (specRok_any e q k id n a d ca w0 hi hd).mono ?_
  rintro r w1 ⟨rfl, hb1⟩
  have HB1 : Hid (Below w.heap.size w w1) := HB.out.trans (hb1.mono HB.out.size)
  have HS1 : Hid (Seg w1 a d zs) := HS.out.below hb1
  have q1 := HQ.out.stays hb1
  clear c0 c1 c2 c3 c4 c5 hb1 HQ HS HB
  have c0 := q1.cell 0 rfl
  have c1 := q1.cell 1 rfl
  have c2 := q1.cell 2 rfl
  have c3 := q1.cell 3 rfl
  have c4 := q1.cell 4 rfl
  have c5 := q1.cell 5 rfl
  clear q1
  cases hok : okRec e q k id n d
  · have HF : Hid (putT e q k id n zs = ⟨#[]⟩) := by show _ = _; rw [putT, HL.out, hok]; rfl
    clear hok
    go_wp2_with fail
    go_ret
    exact ⟨by rw [HF.out]; rfl, HB1.out⟩
  · obtain ⟨he, hq, hk, hid, hn, hd2⟩ := okRec_iff hok
    obtain ⟨E, rfl⟩ := Int.eq_ofNat_of_zero_le he.1
    obtain ⟨Q, rfl⟩ := Int.eq_ofNat_of_zero_le hq.1
    obtain ⟨K, rfl⟩ := Int.eq_ofNat_of_zero_le (show 0 ≤ k by omega)
    obtain ⟨M, rfl⟩ := Int.eq_ofNat_of_zero_le hn.1
    have HF : Hid (putT E Q K id M zs = txU (sumB (recB E Q K id M zs))) := by show _ = _; rw [putT, HL.out, hok]; rfl
    clear hok
    go_wp2_with fail
    refine (specPut13_any E Q K id M a d ca zs w1 HS1.out (by omega) (by omega) (by omega) (by omega) (by omega) (by omega)).mono ?_
    rintro r w2 ⟨rfl, hb2⟩
    have HB2 : Hid (Below w.heap.size w w2) := HB1.out.trans (hb2.mono HB1.out.size)
    rw [← HF.out]
    clear hb2
    go_wp2_with fail
    go_ret
    exact ⟨rfl, HB2.out⟩

end Go.Proofs.YtjaihnmhojabfaaGreatDoor

namespace Go.Proofs.YtjaihnmhojabfaaGreatDoor
open Go.RowKit
set_option linter.unusedVariables false

theorem DV.far {w W : World} {b n n' C C' : Nat} {A A' : Option Addr} {X Y : List ByteArray} (h : DV w W b A n C A' n' C' X Y) {q i : Nat} (hb : q ≠ b) (hw : q ≠ w.heap.size) (hA : A.map (·.block) ≠ some q) (hA' : A'.map (·.block) ≠ some q) (v : Value) : DV w (W.setCell ⟨q, i, none⟩ v) b A n C A' n' C' X Y := by
  obtain ⟨h1, h2, h3, h4, h5, h6, h7⟩ := h
  exact ⟨h1.other (Ne.symm hb) _, h2.other (Ne.symm hw) _, h3.setCell (by rw [blkOf_sV]; exact hA) _, h4.setCell (by rw [blkOf_sV]; exact hA') _, h5, h6, h7⟩

set_option maxRecDepth 10000 in
set_option maxHeartbeats 3200000 in
theorem l13Disk_any (B c : Nat) (a : Option Addr) (len cap : Nat) (zs : List Int) (w : World) (hcur : Cur w B c a len cap zs) (hl : len ≤ 1099511627776) :
    Calls Tryz.prog 59 #[.pointer (some ⟨c, 0, none⟩)] w fun e w' => (∃ v, e = .returned v ∧ Drawn5 w.heap.size v w') ∧ Cur w' B c a len cap zs ∧ w.grownBy w' (some c) := by
  have HC : Hid (Cur w B c a len cap zs) := hcur
  clear hcur
  have hcw : c < w.heap.size := HC.out.lt
  obtain ⟨w1, hw1⟩ : ∃ w1, w.alloc (.cells #[.slice none 0 0, .slice none 0 0] 26) = w1 := ⟨_, rfl⟩
  have HE : Hid (w.alloc (.cells #[.slice none 0 0, .slice none 0 0] 26) = w1) := hw1
  have HQ1 : Hid (Box2R w1 w.heap.size 26 (.slice none 0 0) (.slice none 0 0)) := by show Box2R _ _ _ _ _; rw [← hw1]; exact Box2R.new _ _ _ _
  have HC1 : Hid (Cur w1 B c a len cap zs) := by show Cur _ _ _ _ _ _ _; rw [← hw1]; exact HC.out.new _
  have HG1 : Hid (w.grownBy w1 (some c)) := by show World.grownBy _ _ _; rw [← hw1]; exact World.grownBy_alloc w _ _
  clear hw1 HC
  go_enter Tryz.func59, Tryz.ntmps59
  go_upto_region 1 with fail
  rw [HE.out]
  clear HE
  go_wp2_with fail
  refine (specDnew_any 5 w1).mono ?_
  rintro e w2 ⟨⟨v, rfl, A, C, A', C', rfl, o1, o2, hap⟩, hb2⟩
  rw [List.length_replicate, show newN 5 = 5 from rfl] at o1 o2 ⊢
  obtain ⟨g, rfl⟩ := ownSt_at o1 (by omega)
  obtain ⟨g', rfl⟩ := ownSt_at o2 (by omega)
  have HD3 : Hid (DV w (w2.alloc (.cells #[.slice (some ⟨g, 0, none⟩) 5 C, .slice (some ⟨g', 0, none⟩) 5 C'] 26)) w2.heap.size (some ⟨g, 0, none⟩) 5 C (some ⟨g', 0, none⟩) 5 C' (List.replicate 5 ⟨#[]⟩) (List.replicate 5 ⟨#[]⟩)) := DV.new HQ1.out hb2 o1 o2 hap
  have HC3 : Hid (Cur (w2.alloc (.cells #[.slice (some ⟨g, 0, none⟩) 5 C, .slice (some ⟨g', 0, none⟩) 5 C'] 26)) B c a len cap zs) := (HC1.out.kept (gbelow hb2 none) (by simp)).new _
  have HG3 : Hid (w.grownBy (w2.alloc (.cells #[.slice (some ⟨g, 0, none⟩) 5 C, .slice (some ⟨g', 0, none⟩) 5 C'] 26)) (some c)) := gnew (gtrans HG1.out (gbelow hb2 _)) _
  clear o1 o2 hap hb2 HC1 HG1 HQ1
  go_wp2_with fail
  obtain ⟨w4, hw4⟩ : ∃ w4, w2.alloc (.cells #[.slice (some ⟨g, 0, none⟩) 5 C, .slice (some ⟨g', 0, none⟩) 5 C'] 26) = w4 := ⟨_, rfl⟩
  rw [hw4] at HD3 HC3 HG3 ⊢
  clear hw4
  generalize w2.heap.size = b at *
  go_loopw [4] (fun v wr => ∃ (k : Nat) (X Y : List ByteArray), v = .int .i64 (k : Int) ∧ k ≤ 5 ∧ Hid (∀ x ∈ X, x.size ≤ 48) ∧ Hid (DV w wr b (some ⟨g, 0, none⟩) 5 C (some ⟨g', 0, none⟩) 5 C' X Y) ∧ Hid (Cur wr B c a len cap zs) ∧ Hid (w.grownBy wr (some c))) (fun v _ => 5 - (intOf v).toNat)
  case atStart => exact ⟨0, _, _, rfl, by omega, (fun x hx => by rw [List.eq_of_mem_replicate hx]; exact Nat.zero_le _), HD3, HC3, HG3⟩
  case round =>
    clear HD3 HC3 HG3
    obtain ⟨k, X, Y, rfl, hk5, HX, HD, HC, HG⟩ := hrel
    by_cases hk : k < 5
    case neg =>
      obtain rfl : k = 5 := by omega
      obtain ⟨c0, c1⟩ := HD.out.1.cells
      obtain ⟨r0, r1⟩ := HD.out.2.1.cells
      have f0 := HD.out.2.1.frozen 0
      have f1 := HD.out.2.1.frozen 1
      have HR : Hid (Drawn5 w.heap.size (.agg #[.slice (some ⟨g, 0, none⟩) 5 C, .slice (some ⟨g', 0, none⟩) 5 C']) ((wr.setCell ⟨w.heap.size, 0, none⟩ (.slice (some ⟨g, 0, none⟩) 5 C)).setCell ⟨w.heap.size, 1, none⟩ (.slice (some ⟨g', 0, none⟩) 5 C')) ∧ Cur ((wr.setCell ⟨w.heap.size, 0, none⟩ (.slice (some ⟨g, 0, none⟩) 5 C)).setCell ⟨w.heap.size, 1, none⟩ (.slice (some ⟨g', 0, none⟩) 5 C')) B c a len cap zs ∧ w.grownBy ((wr.setCell ⟨w.heap.size, 0, none⟩ (.slice (some ⟨g, 0, none⟩) 5 C)).setCell ⟨w.heap.size, 1, none⟩ (.slice (some ⟨g', 0, none⟩) 5 C')) (some c)) := by
        exact ⟨⟨X, Y, HD.out.done, HD.out.2.2.1.len, HD.out.2.2.2.1.len, HX.out⟩, (HC.out.put hcw _).put hcw _, gput (gput HG.out (Nat.le_refl _) _) (Nat.le_refl _) _⟩
      clear HD HC HG HX
      go_wp2_with fail
      refine bodyPost_ret (v := .agg #[.slice (some ⟨g, 0, none⟩) 5 C, .slice (some ⟨g', 0, none⟩) 5 C']) (by simp [results, Tryz.f59, go_sem, r0, r1]) rfl ?_
      exact ⟨⟨_, rfl, HR.out.1⟩, HR.out.2⟩
    have hki : (k : Int) < 5 := by omega
    have hk0 : (0 : Int) ≤ (k : Int) := by omega
    have hbw : w.heap.size < b := HD.out.2.2.2.2.2.2
    have hbr : b < wr.heap.size := HD.out.1.lt
    have hgr : g < wr.heap.size := (HD.out.2.2.1.lt g rfl).2
    have hgr' : g' < wr.heap.size := (HD.out.2.2.2.1.lt g' rfl).2
    go_wp2_with fail
    refine (l13Rec_any B c a len cap zs (k : Int) wr HC.out hl).mono ?_
    rintro _ x1 ⟨⟨v, rfl, r, A1, C1, rfl, ho1, hi9, hd25⟩, hc1, hg1⟩
    obtain ⟨d1, hd1⟩ : ∃ d1, r.zs.length = d1 := ⟨_, rfl⟩
    rw [hd1] at ho1 hd25 ⊢
    clear hd1
    have hx1 : wr.heap.size ≤ x1.heap.size := hg1.size
    have hb2 := (Below.refl x1.heap.size x1).alloc (Nat.le_refl _) (.cells #[.int .i64 r.e, .int .i64 r.q, .int .i64 r.k, .string r.id, .int .i64 r.n, .slice A1 d1 C1] 69)
    have HD2 : Hid (DV w (x1.alloc (.cells #[.int .i64 r.e, .int .i64 r.q, .int .i64 r.k, .string r.id, .int .i64 r.n, .slice A1 d1 C1] 69)) b (some ⟨g, 0, none⟩) 5 C (some ⟨g', 0, none⟩) 5 C' X Y) := (HD.out.grown hg1 (fun q e => by injection e with e; omega)).stays hb2
    have HC2 : Hid (Cur (x1.alloc (.cells #[.int .i64 r.e, .int .i64 r.q, .int .i64 r.k, .string r.id, .int .i64 r.n, .slice A1 d1 C1] 69)) B c a len cap zs) := hc1.new _
    have HG2 : Hid (w.grownBy (x1.alloc (.cells #[.int .i64 r.e, .int .i64 r.q, .int .i64 r.k, .string r.id, .int .i64 r.n, .slice A1 d1 C1] 69)) (some c)) := gnew (gtrans HG.out hg1) _
    have HR2 : Hid (BoxN (x1.alloc (.cells #[.int .i64 r.e, .int .i64 r.q, .int .i64 r.k, .string r.id, .int .i64 r.n, .slice A1 d1 C1] 69)) x1.heap.size 69 [.int .i64 r.e, .int .i64 r.q, .int .i64 r.k, .string r.id, .int .i64 r.n, .slice A1 d1 C1]) := BoxN.new _ _ _
    have HO2 : Hid (Owns (x1.alloc (.cells #[.int .i64 r.e, .int .i64 r.q, .int .i64 r.k, .string r.id, .int .i64 r.n, .slice A1 d1 C1] 69)) wr.heap.size A1 d1 C1 r.zs) := ho1.below hb2
    have HA1 : Hid (∀ q, A1.map (·.block) = some q → wr.heap.size ≤ q ∧ q < x1.heap.size) := fun q e => ho1.lt q e
    clear ho1 hc1 hg1 hb2 HD HC HG
    go_upto_region 6 with fail
    obtain ⟨x2, hx2⟩ : ∃ x2, x1.alloc (.cells #[.int .i64 r.e, .int .i64 r.q, .int .i64 r.k, .string r.id, .int .i64 r.n, .slice A1 d1 C1] 69) = x2 := ⟨_, rfl⟩
    rw [hx2] at HD2 HC2 HG2 HR2 HO2 ⊢
    clear hx2
    generalize x1.heap.size = rb at *
    have hrb : rb < x2.heap.size := HR2.out.lt
    go_wp2_with fail
    refine (l1Int_any B c a len cap zs x2.heap.size 5 5 [1, 1, 1, 0, 2] _ (HC2.out.new _) hl (heap_alloc_new x2 _) (by omega) rfl (by omega) (by omega)).mono ?_
    rintro _ x3 ⟨ep, rfl, hep, hc3, hg3⟩
    have hg23 : x2.grownBy x3 (some c) := gtrans (World.grownBy_alloc x2 _ _) hg3
    have hR3 := HR2.out.grown hg23 (fun e => by injection e with e; omega)
    have hD3 := HD2.out.grown hg23 (fun q e => by injection e with e; omega)
    have hO3 := HO2.out.grown hg23 (fun q e e2 => by injection e with e; have := (HA1.out q e2).1; omega)
    have HR4 : Hid (BoxN (x3.setCell ⟨rb, 0, none⟩ (.int .i64 ep)) rb 69 [.int .i64 ep, .int .i64 r.q, .int .i64 r.k, .string r.id, .int .i64 r.n, .slice A1 d1 C1]) := hR3.set 0 _
    have HD4 : Hid (DV w (x3.setCell ⟨rb, 0, none⟩ (.int .i64 ep)) b (some ⟨g, 0, none⟩) 5 C (some ⟨g', 0, none⟩) 5 C' X Y) := hD3.far (by omega) (by omega) (fun e => by simp at e; omega) (fun e => by simp at e; omega) _
    have HO4 : Hid (Owns (x3.setCell ⟨rb, 0, none⟩ (.int .i64 ep)) wr.heap.size A1 d1 C1 r.zs) := owns_set hO3 (fun e => by have := (HA1.out _ e).2; omega)
    have HC4 : Hid (Cur (x3.setCell ⟨rb, 0, none⟩ (.int .i64 ep)) B c a len cap zs) := hc3.put (by omega) _
    have HG4 : Hid (w.grownBy (x3.setCell ⟨rb, 0, none⟩ (.int .i64 ep)) (some c)) := gput (gtrans HG2.out hg23) (by omega) _
    have z0 := hR3.cell 0 rfl
    have y0 := hR3.frozen 0
    clear hep hc3 hg3 hg23 hR3 hD3 hO3 HD2 HC2 HG2 HR2 HO2
    go_upto_region 7 with fail
    obtain ⟨x4, hx4⟩ : ∃ x4, x3.setCell ⟨rb, 0, none⟩ (.int .i64 ep) = x4 := ⟨_, rfl⟩
    rw [hx4] at HD4 HC4 HG4 HR4 HO4 ⊢
    clear hx4 z0 y0
    go_wp2_with fail
    refine (l1Once_any B c a len cap zs 6 x4 HC4.out hl (by omega) (by omega)).mono ?_
    rintro _ x5 ⟨bb, rfl, hc5, hg5⟩
    have HC5 : Hid (Cur x5 B c a len cap zs) := hc5
    have HG5 : Hid (w.grownBy x5 (some c)) := gtrans HG4.out hg5
    have HD5 : Hid (DV w x5 b (some ⟨g, 0, none⟩) 5 C (some ⟨g', 0, none⟩) 5 C' X Y) := HD4.out.grown hg5 (fun q e => by injection e with e; omega)
    have HR5 : Hid (BoxN x5 rb 69 [.int .i64 ep, .int .i64 r.q, .int .i64 r.k, .string r.id, .int .i64 r.n, .slice A1 d1 C1]) := HR4.out.grown hg5 (fun e => by injection e with e; omega)
    have HO5 : Hid (Owns x5 wr.heap.size A1 d1 C1 r.zs) := HO4.out.grown hg5 (fun q e e2 => by injection e with e; have := (HA1.out q e2).1; omega)
    clear hc5 hg5 HD4 HC4 HG4 HR4 HO4
    cases bb
    case true =>
      clear HR5 HO5 HA1
      go_wp2_with fail
      refine (l1Once_any B c a len cap zs 2 x5 HC5.out hl (by omega) (by omega)).mono ?_
      rintro _ x7 ⟨b2, rfl, hc7, hg7⟩
      have HC7 : Hid (Cur x7 B c a len cap zs) := hc7
      have HG7 : Hid (w.grownBy x7 (some c)) := gtrans HG5.out hg7
      have HD7 : Hid (DV w x7 b (some ⟨g, 0, none⟩) 5 C (some ⟨g', 0, none⟩) 5 C' X Y) := HD5.out.grown hg7 (fun q e => by injection e with e; omega)
      clear hc7 hg7 HD5 HC5 HG5
      cases b2
      · go_wp2_with fail
        go_roundw
        case rel => exact ⟨k + 1, X, Y, by go_num, by omega, HX, HD7, HC7, HG7⟩
        case measure => simp [intOf]; omega
      · go_upto_region 10 with fail
        obtain ⟨c0, c1⟩ := HD7.out.1.cells
        obtain ⟨s, hs, e0, _⟩ := ownSt_cell HD7.out.2.2.1 hk
        obtain ⟨s', _, e1, e2⟩ := ownSt_cell HD7.out.2.2.2.1 hk
        have hs48 : s.size ≤ 48 := HX.out s (List.mem_of_getElem? hs)
        have d0 : x7.drew.cell? ⟨b, 0, none⟩ = some (.slice (some ⟨g, 0, none⟩) 5 C) := c0
        have d1' : x7.drew.cell? ⟨b, 1, none⟩ = some (.slice (some ⟨g', 0, none⟩) 5 C') := c1
        have d2 : x7.drew.cell? ⟨g, k, none⟩ = some (.string s) := e0
        have d3 : x7.drew.cell? ⟨g', k, none⟩ = some (.string s') := e1
        have d4 : x7.drew.frozen? ⟨g', k, none⟩ = false := e2
        have HD8 : Hid (DV w (x7.setCell ⟨g', k, none⟩ (.string s)).drew b (some ⟨g, 0, none⟩) 5 C (some ⟨g', 0, none⟩) 5 C' X (Y.set k s)) := (HD7.out.putS k s (by unfold maxLen; omega)).stays (Below.refl _ _).drew
        have hgl' : w.heap.size + 1 ≤ g' := (HD7.out.2.2.2.1.lt g' rfl).1
        have HC8 : Hid (Cur (x7.setCell ⟨g', k, none⟩ (.string s)).drew B c a len cap zs) := (HC7.out.put (by omega) _).kept (gbelow (Below.refl _ _).drew none) (by simp)
        have HG8 : Hid (w.grownBy (x7.setCell ⟨g', k, none⟩ (.string s)).drew (some c)) := gtrans (gput HG7.out (by omega) _) (gbelow (Below.refl _ _).drew _)
        clear HD7 HC7 HG7 c0 c1 e0 e1 e2 hs
        refine wp_region_still_tail 8 (by kernel_rfl) (by kernel_rfl) ?_
        simp only [List.take_succ_cons, List.take_zero, List.drop_succ_cons, List.drop_zero]
        repeat still_step
        refine wpStill_nil ?_
        go_wp2_with fail
        go_roundw
        case rel => exact ⟨k + 1, X, Y.set k s, by go_num, by omega, HX, HD8, HC8, HG8⟩
        case measure => simp [intOf]; omega

    case false =>
      go_upto_region 8 with fail
      have HSg : Hid (∀ W, Below x5.drew.heap.size x5.drew W → Seg W A1 d1 r.zs ∧ DV w W b (some ⟨g, 0, none⟩) 5 C (some ⟨g', 0, none⟩) 5 C' X Y ∧ Cur W B c a len cap zs ∧ w.grownBy W (some c)) := fun W h0 => by
        have h : Below x5.heap.size x5 W := ((Below.refl x5.heap.size x5).drew).trans h0
        exact ⟨HO5.out.seg.below h, HD5.out.stays h, HC5.out.kept (gbelow h none) (by simp), gtrans HG5.out (gbelow h _)⟩
      have HRd : Hid (∀ W, Below x5.drew.heap.size x5.drew W → BoxN W rb 69 [.int .i64 ep, .int .i64 r.q, .int .i64 r.k, .string r.id, .int .i64 r.n, .slice A1 d1 C1]) := fun W h => HR5.out.stays (((Below.refl x5.heap.size x5).drew).trans h)
      clear HD5 HC5 HG5 HR5 HO5
      go_cut [38] from 21 (fun u W => u = undef ∧ ∃ X', Hid (∀ x ∈ X', x.size ≤ 48) ∧ Hid (DV w W b (some ⟨g, 0, none⟩) 5 C (some ⟨g', 0, none⟩) 5 C' X' Y) ∧ Hid (Cur W B c a len cap zs) ∧ Hid (w.grownBy W (some c)))
      case first =>
        obtain ⟨k0, k1⟩ := (HSg.out x5.drew (Below.refl _ _)).2.1.1.cells
        obtain ⟨m0, m1, m2, m3, m4, m5⟩ := (show _ ∧ _ ∧ _ ∧ _ ∧ _ ∧ _ from ⟨(HRd.out x5.drew (Below.refl _ _)).cell 0 rfl, (HRd.out x5.drew (Below.refl _ _)).cell 1 rfl, (HRd.out x5.drew (Below.refl _ _)).cell 2 rfl, (HRd.out x5.drew (Below.refl _ _)).cell 3 rfl, (HRd.out x5.drew (Below.refl _ _)).cell 4 rfl, (HRd.out x5.drew (Below.refl _ _)).cell 5 rfl⟩)
        go_region_with (first
          | (go_at_call 96; refine (specPutR_any ep r.q r.k r.id r.n A1 d1 C1 r.zs _ (HSg.out x5.drew (Below.refl _ _)).1 (by unfold maxLen; omega) (by omega)).mono ?_; rintro _ y ⟨rfl, hby⟩
             obtain ⟨q0, q1⟩ := (HSg.out y hby).2.1.1.cells
             obtain ⟨s, hs, e0, e2⟩ := ownSt_cell (HSg.out y hby).2.1.2.2.1 hk)
          | fail)
        all_goals
          have hps := putT_sz ep r.q r.k r.id r.n r.zs
          generalize putT ep r.q r.k r.id r.n r.zs = ps at *
          have hgl : w.heap.size + 1 ≤ g := ((HSg.out y hby).2.1.2.2.1.lt g rfl).1
          have HF : Hid (Hid (∀ x ∈ X.set k ps, x.size ≤ 48) ∧ Hid (DV w (y.setCell ⟨g, k, none⟩ (.string ps)) b (some ⟨g, 0, none⟩) 5 C (some ⟨g', 0, none⟩) 5 C' (X.set k ps) Y) ∧ Hid (Cur (y.setCell ⟨g, k, none⟩ (.string ps)) B c a len cap zs) ∧ Hid (w.grownBy (y.setCell ⟨g, k, none⟩ (.string ps)) (some c))) := by
            refine ⟨fun x hx => ?_, (HSg.out y hby).2.1.putN k ps (by unfold maxLen; omega), (HSg.out y hby).2.2.1.put (by omega) _, gput (HSg.out y hby).2.2.2 (by omega) _⟩
            rcases List.mem_or_eq_of_mem_set hx with h | rfl
            · exact HX.out x h
            · exact hps
          clear hby q0 q1 hs e0 e2 k0 k1 m0 m1 m2 m3 m4 m5
          go_wp2_with fail
          go_meet
          exact ⟨rfl, _, HF.out⟩
      case rest =>
      obtain ⟨x6, hx6⟩ : ∃ x6, wc = x6 := ⟨_, rfl⟩
      rw [hx6] at hcut ⊢
      clear hx6 HSg HRd
      obtain ⟨rfl, X', HX', HD5, HC5, HG5⟩ := hcut
      go_wp2_with fail
      refine (l1Once_any B c a len cap zs 2 x6 HC5.out hl (by omega) (by omega)).mono ?_
      rintro _ x7 ⟨b2, rfl, hc7, hg7⟩
      have HC7 : Hid (Cur x7 B c a len cap zs) := hc7
      have HG7 : Hid (w.grownBy x7 (some c)) := gtrans HG5.out hg7
      have HD7 : Hid (DV w x7 b (some ⟨g, 0, none⟩) 5 C (some ⟨g', 0, none⟩) 5 C' X' Y) := HD5.out.grown hg7 (fun q e => by injection e with e; omega)
      clear hc7 hg7 HD5 HC5 HG5
      cases b2
      · go_wp2_with fail
        go_roundw
        case rel => exact ⟨k + 1, X', Y, by go_num, by omega, HX', HD7, HC7, HG7⟩
        case measure => simp [intOf]; omega
      · go_upto_region 10 with fail
        obtain ⟨c0, c1⟩ := HD7.out.1.cells
        obtain ⟨s, hs, e0, _⟩ := ownSt_cell HD7.out.2.2.1 hk
        obtain ⟨s', _, e1, e2⟩ := ownSt_cell HD7.out.2.2.2.1 hk
        have hs48 : s.size ≤ 48 := HX'.out s (List.mem_of_getElem? hs)
        have d0 : x7.drew.cell? ⟨b, 0, none⟩ = some (.slice (some ⟨g, 0, none⟩) 5 C) := c0
        have d1' : x7.drew.cell? ⟨b, 1, none⟩ = some (.slice (some ⟨g', 0, none⟩) 5 C') := c1
        have d2 : x7.drew.cell? ⟨g, k, none⟩ = some (.string s) := e0
        have d3 : x7.drew.cell? ⟨g', k, none⟩ = some (.string s') := e1
        have d4 : x7.drew.frozen? ⟨g', k, none⟩ = false := e2
        have HD8 : Hid (DV w (x7.setCell ⟨g', k, none⟩ (.string s)).drew b (some ⟨g, 0, none⟩) 5 C (some ⟨g', 0, none⟩) 5 C' X' (Y.set k s)) := (HD7.out.putS k s (by unfold maxLen; omega)).stays (Below.refl _ _).drew
        have hgl' : w.heap.size + 1 ≤ g' := (HD7.out.2.2.2.1.lt g' rfl).1
        have HC8 : Hid (Cur (x7.setCell ⟨g', k, none⟩ (.string s)).drew B c a len cap zs) := (HC7.out.put (by omega) _).kept (gbelow (Below.refl _ _).drew none) (by simp)
        have HG8 : Hid (w.grownBy (x7.setCell ⟨g', k, none⟩ (.string s)).drew (some c)) := gtrans (gput HG7.out (by omega) _) (gbelow (Below.refl _ _).drew _)
        clear HD7 HC7 HG7 c0 c1 e0 e1 e2 hs
        refine wp_region_still_tail 8 (by kernel_rfl) (by kernel_rfl) ?_
        simp only [List.take_succ_cons, List.take_zero, List.drop_succ_cons, List.drop_zero]
        repeat still_step
        refine wpStill_nil ?_
        go_wp2_with fail
        go_roundw
        case rel => exact ⟨k + 1, X', Y.set k s, by go_num, by omega, HX', HD8, HC8, HG8⟩
        case measure => simp [intOf]; omega


end Go.Proofs.YtjaihnmhojabfaaGreatDoor
