/- What the specification's StoreNew answers. A drawn store. For codes of at most 2^40 bytes. A drawn store, of a code. For codes of at most 2^40 bytes. Which sectors a crash keeps, drawn of a code. For codes of at most 2^40 bytes. Uploads that rise: where one is put, which one is gone, said as the program goes; no program in it. What lasts of a store that was made sure, with records written since, behind any crash. No program in it. An append onto a row of the call's own from a slice that may be nil: as an operation, as a step of a region that draws. No program in it. The library's Clone of texts, and the program's copy of a disk: the same in memory of its own. -/
import Derived.Test.YtiigdcpjelbdjaaGreatDoorM05
import Derived.Test.YtiigdcpjelbdjaaGreatDoorM24
import Derived.Test.YtiigdcpjelbdjaaGreatDoorM10
import Derived.Test.YtiigdcpjelbdjaaGreatDoorM02
import Derived.Test.YtiigdcpjelbdjaaGreatDoorM06
import Derived.Lib.Strings
import Derived.Test.YtiigdcpjelbdjaaGreatDoorM09
import Derived.Deep.RegionLaw
import Derived.Deep.AppendSrc
import Derived.Laws.AppendOwn
import Derived.WalkKit
import Derived.Lib.SliceRun
import Derived.Deep.RegionHeld3
namespace Go.Proofs.YtiigdcpjelbdjaaGreatDoor
open Go.RowKit
set_option linter.unusedVariables false

set_option maxRecDepth 10000 in
set_option maxHeartbeats 1600000 in
theorem specStoreNew_any (n : Int) (w : World) :
    Calls Tryz.prog 35 #[.int .i64 n] w fun e w' => (∃ v, e = .returned v ∧ AnsS w.heap.size (List.replicate (newN n) ⟨#[]⟩) (List.replicate (newN n) ⟨#[]⟩) 0 0 [] v w') ∧ Below w.heap.size w w' := by
  obtain ⟨w0, hw0⟩ : ∃ w0, w.alloc (.cells #[.slice none 0 0, .slice none 0 0, .int .i64 0, .int .i64 0, .slice none 0 0] 29) = w0 := ⟨_, rfl⟩
  have HE : Hid (w.alloc (.cells #[.slice none 0 0, .slice none 0 0, .int .i64 0, .int .i64 0, .slice none 0 0] 29) = w0) := hw0
  have HB : Hid (Below w.heap.size w w0) := by show Below _ _ _; rw [← hw0]; exact (Below.refl _ _).alloc (Nat.le_refl _) _
  have HR : Hid (BoxN w0 w.heap.size 29 [.slice none 0 0, .slice none 0 0, .int .i64 0, .int .i64 0, .slice none 0 0]) := by show BoxN _ _ _ _; rw [← hw0]; exact BoxN.new _ _ _
  have hlt : w.heap.size < w0.heap.size := HR.out.lt
  clear hw0
  have HC : Hid (Calls Tryz.prog 55 #[.int .i64 n] w0 fun e w' => (∃ v, e = .returned v ∧ AnsD w0.heap.size (List.replicate (newN n) ⟨#[]⟩) (List.replicate (newN n) ⟨#[]⟩) v w') ∧ Below w0.heap.size w0 w') := specDnew_any n w0
  obtain ⟨RX, hRX⟩ : ∃ RX : List ByteArray, List.replicate (newN n) ⟨#[]⟩ = RX := ⟨_, rfl⟩
  rw [hRX] at HC ⊢
  obtain ⟨M, hM⟩ : ∃ M, RX.length = M := ⟨_, rfl⟩
  unfold AnsD at HC
  rw [hM] at HC
  clear hRX hM
  go_enter Tryz.func35, Tryz.ntmps35
  go_upto_region 1 with fail
  rw [HE.out]
  clear HE
  go_wp2_with fail
  refine HC.out.mono ?_
  rintro e x ⟨⟨v, rfl, A, C, A', C', rfl, o1, o2, hap⟩, hb⟩
  have HB1 : Hid (Below w.heap.size w x) := HB.out.trans (hb.mono HB.out.size)
  have HS : Hid (StoAt x w0.heap.size A M C RX A' M C' RX none 0 0 []) := ⟨o1, o2, hap, ⟨⟨rfl, .inl ⟨rfl, rfl⟩⟩, by simp, by simp⟩, rfl⟩
  have hR := HR.out.stays hb
  clear o1 o2 hap hb HC HB HR
  have a0 := hR.cell 0 rfl
  have a1 := hR.cell 1 rfl
  have a2 := hR.cell 2 rfl
  have a3 := hR.cell 3 rfl
  have a4 := hR.cell 4 rfl
  have e0 := hR.frozen 0
  have e1 := hR.frozen 1
  have e2 := hR.frozen 2
  have e3 := hR.frozen 3
  have e4 := hR.frozen 4
  go_wp2_with fail
  refine bodyPost_ret (v := .agg #[.slice A M C, .slice A' M C', .int .i64 0, .int .i64 0, .slice none 0 0]) (by simp [results, Tryz.f35, go_sem, a0, a1, a2, a3, a4]) rfl ?_
  refine ⟨⟨_, rfl, A, M, C, A', M, C', none, 0, 0, [], rfl, ?_, rfl⟩, ?_⟩
  · exact (((((HS.out.setLow (by omega) _).setLow (by omega) _).setLow (by omega) _).setLow (by omega) _).setLow (by omega) _).low (by omega)
  · exact ((((HB1.out.setCell (by dsimp only; omega) _).setCell (by dsimp only; omega) _).setCell (by dsimp only; omega) _).setCell (by dsimp only; omega) _).setCell (by dsimp only; omega) _

end Go.Proofs.YtiigdcpjelbdjaaGreatDoor

namespace Go.Proofs.YtiigdcpjelbdjaaGreatDoor
open Go.RowKit
set_option linter.unusedVariables false

/-- A store in a variable b of a draw's, beside the answer's. -/
structure DSu (w W : World) (B c : Nat) (a : Option Addr) (len cap : Nat) (zs : List Int) (b : Nat) (k : Int) (A : Option Addr) (n C : Nat) (X : List ByteArray) (A' : Option Addr) (n' C' : Nat) (Y : List ByteArray) (ep nx : Int) (ua : Option Addr) (un uc : Nat) (l : List UE) : Prop where
  box : BoxN W b 29 [.slice A n C, .slice A' n' C', .int .i64 ep, .int .i64 nx, .slice ua un uc]
  zero : BoxN W w.heap.size 29 [.slice none 0 0, .slice none 0 0, .int .i64 0, .int .i64 0, .slice none 0 0]
  sto : StoAt W (w.heap.size + 1) A n C X A' n' C' Y ua un uc l
  cur : Cur W B c a len cap zs
  grown : w.grownBy W (some c)
  sg : SG k X Y ep nx (l.map UE.u)
  clo : c < w.heap.size
  low : w.heap.size < b

section
variable {w W W' : World} {B c : Nat} {a : Option Addr} {len cap : Nat} {zs : List Int} {b : Nat} {k : Int} {A : Option Addr} {n C : Nat} {X : List ByteArray} {A' : Option Addr} {n' C' : Nat} {Y : List ByteArray} {ep nx : Int} {ua : Option Addr} {un uc : Nat} {l : List UE}

theorem DSu.call (h : DSu w W B c a len cap zs b k A n C X A' n' C' Y ep nx ua un uc l) (hc : Cur W' B c a len cap zs) (hg : W.grownBy W' (some c)) : DSu w W' B c a len cap zs b k A n C X A' n' C' Y ep nx ua un uc l := by
  have h1 := h.clo
  have h2 := h.low
  exact ⟨h.box.grown hg (fun e => by injection e with e; omega), h.zero.grown hg (fun e => by injection e with e; omega), h.sto.moved hg (by omega), hc, gtrans h.grown hg, h.sg, h.clo, h.low⟩

theorem DSu.put (h : DSu w W B c a len cap zs b k A n C X A' n' C' Y ep nx ua un uc l) {A2 : Option Addr} {n2 C2 : Nat} {X2 : List ByteArray} {A2' : Option Addr} {n2' C2' : Nat} {Y2 : List ByteArray} {ep2 nx2 : Int} {ua2 : Option Addr} {un2 uc2 : Nat} {l2 : List UE} {k2 : Int} (hs : StoAt W (w.heap.size + 1) A2 n2 C2 X2 A2' n2' C2' Y2 ua2 un2 uc2 l2) (hsg : SG k2 X2 Y2 ep2 nx2 (l2.map UE.u)) :
    DSu w (((((W.setCell ⟨b, 0, none⟩ (.slice A2 n2 C2)).setCell ⟨b, 1, none⟩ (.slice A2' n2' C2')).setCell ⟨b, 2, none⟩ (.int .i64 ep2)).setCell ⟨b, 3, none⟩ (.int .i64 nx2)).setCell ⟨b, 4, none⟩ (.slice ua2 un2 uc2)) B c a len cap zs b k2 A2 n2 C2 X2 A2' n2' C2' Y2 ep2 nx2 ua2 un2 uc2 l2 := by
  have h1 := h.clo
  have h2 := h.low
  have b0 := h.box
  have b1 := b0.set 0 (.slice A2 n2 C2)
  have b2 := b1.set 1 (.slice A2' n2' C2')
  have b3 := b2.set 2 (.int .i64 ep2)
  have b4 := b3.set 3 (.int .i64 nx2)
  have b5 := b4.set 4 (.slice ua2 un2 uc2)
  refine ⟨b5, ((((h.zero.other (by omega) _).other (by omega) _).other (by omega) _).other (by omega) _).other (by omega) _, ((((hs.setBox b0 _).setBox b1 _).setBox b2 _).setBox b3 _).setBox b4 _, ((((h.cur.put (by omega) _).put (by omega) _).put (by omega) _).put (by omega) _).put (by omega) _, gput (gput (gput (gput (gput h.grown (by omega) _) (by omega) _) (by omega) _) (by omega) _) (by omega) _, hsg, h1, h2⟩

theorem DSu.done (h : DSu w W B c a len cap zs b k A n C X A' n' C' Y ep nx ua un uc l) :
    DrawnS w.heap.size k (.agg #[.slice A n C, .slice A' n' C', .int .i64 ep, .int .i64 nx, .slice ua un uc]) (((((W.setCell ⟨w.heap.size, 0, none⟩ (.slice A n C)).setCell ⟨w.heap.size, 1, none⟩ (.slice A' n' C')).setCell ⟨w.heap.size, 2, none⟩ (.int .i64 ep)).setCell ⟨w.heap.size, 3, none⟩ (.int .i64 nx)).setCell ⟨w.heap.size, 4, none⟩ (.slice ua un uc)) ∧ Cur (((((W.setCell ⟨w.heap.size, 0, none⟩ (.slice A n C)).setCell ⟨w.heap.size, 1, none⟩ (.slice A' n' C')).setCell ⟨w.heap.size, 2, none⟩ (.int .i64 ep)).setCell ⟨w.heap.size, 3, none⟩ (.int .i64 nx)).setCell ⟨w.heap.size, 4, none⟩ (.slice ua un uc)) B c a len cap zs ∧ w.grownBy (((((W.setCell ⟨w.heap.size, 0, none⟩ (.slice A n C)).setCell ⟨w.heap.size, 1, none⟩ (.slice A' n' C')).setCell ⟨w.heap.size, 2, none⟩ (.int .i64 ep)).setCell ⟨w.heap.size, 3, none⟩ (.int .i64 nx)).setCell ⟨w.heap.size, 4, none⟩ (.slice ua un uc)) (some c) := by
  have h1 := h.clo
  have h2 := h.low
  have b0 := h.zero
  have b1 := b0.set 0 (.slice A n C)
  have b2 := b1.set 1 (.slice A' n' C')
  have b3 := b2.set 2 (.int .i64 ep)
  have b4 := b3.set 3 (.int .i64 nx)
  refine ⟨⟨X, Y, ep, nx, l.map UE.u, ⟨A, n, C, A', n', C', ua, un, uc, l, rfl, (((((h.sto.setBox b0 _).setBox b1 _).setBox b2 _).setBox b3 _).setBox b4 _).low (by omega), rfl⟩, h.sg⟩, ((((h.cur.put (by omega) _).put (by omega) _).put (by omega) _).put (by omega) _).put (by omega) _, gput (gput (gput (gput (gput h.grown (by omega) _) (by omega) _) (by omega) _) (by omega) _) (by omega) _⟩
end

set_option maxRecDepth 10000 in
set_option maxHeartbeats 3200000 in
theorem l14Draw_any (B c : Nat) (a : Option Addr) (len cap : Nat) (zs : List Int) (most : Nat) (w : World) (hcur : Cur w B c a len cap zs) (hl : len ≤ 1099511627776) (hm1 : 1 ≤ most) (hm2 : most ≤ 1000) :
    Calls Tryz.prog 18 #[.pointer (some ⟨c, 0, none⟩), .int .i64 (most : Int)] w fun e w' => (∃ v, e = .returned v ∧ DrawnS w.heap.size (most : Int) v w') ∧ Cur w' B c a len cap zs ∧ w.grownBy w' (some c) := by
  have HC : Hid (Cur w B c a len cap zs) := hcur
  clear hcur
  have hcw : c < w.heap.size := HC.out.lt
  obtain ⟨w1, hw1⟩ : ∃ w1, w.alloc (.cells #[.slice none 0 0, .slice none 0 0, .int .i64 0, .int .i64 0, .slice none 0 0] 29) = w1 := ⟨_, rfl⟩
  have HE : Hid (w.alloc (.cells #[.slice none 0 0, .slice none 0 0, .int .i64 0, .int .i64 0, .slice none 0 0] 29) = w1) := hw1
  have HZ1 : Hid (BoxN w1 w.heap.size 29 [.slice none 0 0, .slice none 0 0, .int .i64 0, .int .i64 0, .slice none 0 0]) := by show BoxN _ _ _ _; rw [← hw1]; exact BoxN.new _ _ _
  have HC1 : Hid (Cur w1 B c a len cap zs) := by show Cur _ _ _ _ _ _ _; rw [← hw1]; exact HC.out.new _
  have HG1 : Hid (w.grownBy w1 (some c)) := by show World.grownBy _ _ _; rw [← hw1]; exact World.grownBy_alloc w _ _
  clear hw1 HC
  go_enter Tryz.func18, Tryz.ntmps18
  go_upto_region 1 with fail
  rw [HE.out]
  clear HE
  have hs1 : w.heap.size < w1.heap.size := HZ1.out.lt
  go_wp2_with fail
  refine (l1Int_any B c a len cap zs w1.heap.size 4 4 [30, 30, 8, 0] _ (HC1.out.new _) hl (heap_alloc_new w1 _) (by omega) rfl (by omega) (by omega)).mono ?_
  rintro e w2 ⟨x, rfl, hx, hc2, hg2⟩
  have hN : newN x ≤ 200 := by
    have hx6 : x ≤ 30 := by
      simp only [List.mem_cons, List.not_mem_nil, or_false] at hx
      omega
    rw [newN]
    split <;> omega
  have hg12 : w1.grownBy w2 (some c) := gtrans (World.grownBy_alloc w1 _ _) hg2
  have HSg : Hid (SG 0 (List.replicate (newN x) ⟨#[]⟩) (List.replicate (newN x) ⟨#[]⟩) 0 0 []) := SG.new _ hN
  have HC2 : Hid (Cur w2 B c a len cap zs) := hc2
  have HG2 : Hid (w.grownBy w2 (some c)) := gtrans HG1.out hg12
  have HZ2 : Hid (BoxN w2 w.heap.size 29 [.slice none 0 0, .slice none 0 0, .int .i64 0, .int .i64 0, .slice none 0 0]) := HZ1.out.grown hg12 (fun e => by injection e with e; omega)
  clear hx hN hc2 hg2 hg12 HC1 HG1 HZ1 hs1
  go_wp2_with fail
  refine (specStoreNew_any x w2).mono ?_
  rintro e w3 ⟨⟨v, rfl, hans⟩, hb3⟩
  obtain ⟨A, C, A', C', ua, uc, l, rfl, hs3, hm3⟩ := hans.get
  obtain ⟨X0, hX0⟩ : ∃ X0, List.replicate (newN x) (⟨#[]⟩ : ByteArray) = X0 := ⟨_, rfl⟩
  rw [hX0] at HSg hs3 ⊢
  rw [← hm3] at HSg
  have HD3 : Hid (DSu w (w3.alloc (.cells #[.slice A X0.length C, .slice A' X0.length C', .int .i64 0, .int .i64 0, .slice ua ([] : List U).length uc] 29)) B c a len cap zs w3.heap.size 0 A X0.length C X0 A' X0.length C' X0 0 0 ua ([] : List U).length uc l) := by
    have h2 := HZ2.out.lt
    have hb4 : Below w3.heap.size w3 (w3.alloc (.cells #[.slice A X0.length C, .slice A' X0.length C', .int .i64 0, .int .i64 0, .slice ua ([] : List U).length uc] 29)) := (Below.refl _ _).alloc (Nat.le_refl _) _
    exact ⟨BoxN.new _ _ _, (HZ2.out.stays hb3).stays hb4, (hs3.stays hb4).low h2, (HC2.out.kept (gbelow hb3 none) (by simp)).new _, gnew (gtrans HG2.out (gbelow hb3 _)) _, HSg.out, hcw, Nat.lt_of_lt_of_le h2 hb3.size⟩
  clear hans hs3 hm3 hb3 HC2 HG2 HZ2 HSg hX0
  go_wp2_with fail
  obtain ⟨w4, hw4⟩ : ∃ w4, w3.alloc (.cells #[.slice A X0.length C, .slice A' X0.length C', .int .i64 0, .int .i64 0, .slice ua ([] : List U).length uc] 29) = w4 := ⟨_, rfl⟩
  simp only [List.length_nil] at hw4
  simp only [List.length_nil] at HD3
  rw [hw4] at HD3 ⊢
  clear hw4
  generalize w3.heap.size = b at *
  refine (l1Below_any B c a len cap zs (most : Int) w4 HD3.out.cur hl (by omega) (by omega)).mono ?_
  rintro e w5 ⟨m, rfl, hm0, hmm, hc5, hg5⟩
  obtain ⟨M, rfl⟩ := Int.eq_ofNat_of_zero_le hm0
  have HD5 : Hid (DSu w w5 B c a len cap zs b 0 A X0.length C X0 A' X0.length C' X0 0 0 ua 0 uc l) := HD3.out.call hc5 hg5
  clear hc5 hg5 HD3
  go_wp2_with fail
  go_loopw [6] (fun v wr => ∃ (j : Nat) (K : Int) (A : Option Addr) (n C : Nat) (X : List ByteArray) (A' : Option Addr) (n' C' : Nat) (Y : List ByteArray) (ep nx : Int) (ua : Option Addr) (un uc : Nat) (l : List UE), v = .int .i64 (j : Int) ∧ j ≤ M ∧ Hid (K + (j : Int) ≤ (M : Int)) ∧ Hid (DSu w wr B c a len cap zs b K A n C X A' n' C' Y ep nx ua un uc l)) (fun v _ => (intOf v).toNat)
  case atStart => exact ⟨M, 0, A, X0.length, C, X0, A', X0.length, C', X0, 0, 0, ua, 0, uc, l, rfl, Nat.le_refl _, by show _ ≤ _; omega, HD5⟩
  case round =>
    clear HD5
    obtain ⟨j, K, A, n, C, X, A', n', C', Y, ep, nx, ua, un, uc, l, rfl, hjM, HK, HD⟩ := hrel
    obtain ⟨c0, c1, c2, c3, c4⟩ := (show _ ∧ _ ∧ _ ∧ _ ∧ _ from ⟨HD.out.box.cell 0 rfl, HD.out.box.cell 1 rfl, HD.out.box.cell 2 rfl, HD.out.box.cell 3 rfl, HD.out.box.cell 4 rfl⟩)
    by_cases hj : j = 0
    · subst hj
      obtain ⟨r0, r1, r2, r3, r4⟩ := (show _ ∧ _ ∧ _ ∧ _ ∧ _ from ⟨HD.out.zero.cell 0 rfl, HD.out.zero.cell 1 rfl, HD.out.zero.cell 2 rfl, HD.out.zero.cell 3 rfl, HD.out.zero.cell 4 rfl⟩)
      obtain ⟨f0, f1, f2, f3, f4⟩ := (show _ ∧ _ ∧ _ ∧ _ ∧ _ from ⟨HD.out.zero.frozen 0, HD.out.zero.frozen 1, HD.out.zero.frozen 2, HD.out.zero.frozen 3, HD.out.zero.frozen 4⟩)
      have HR := (show Hid _ from HD.out.done)
      have HKm : Hid (K ≤ (most : Int)) := by show _ ≤ _; have := HK.out; omega
      clear HD
      go_wp2_with fail
      refine bodyPost_ret (v := .agg #[.slice A n C, .slice A' n' C', .int .i64 ep, .int .i64 nx, .slice ua un uc]) (by simp [results, Tryz.f18, go_sem, r0, r1, r2, r3, r4]) rfl ?_
      obtain ⟨X', Y', ep', nx', us', h1, h2⟩ := HR.out.1
      exact ⟨⟨_, rfl, X', Y', ep', nx', us', h1, h2.more HKm.out⟩, HR.out.2⟩
    · have hji : (0 : Int) < (j : Int) := by omega
      have hbl := HD.out.low
      have hbw : b < wr.heap.size := HD.out.box.lt
      go_wp2_with fail
      refine (l14Some_any B c a len cap zs (w.heap.size + 1) K A n C X A' n' C' Y ep nx ua un uc l wr HD.out.cur hl HD.out.sto HD.out.sg (by omega) (by omega)).mono ?_
      rintro e y ⟨⟨v, rfl, X2, Y2, ep2, nx2, us2, hans, hsg⟩, hc2, hg2⟩
      obtain ⟨A2, C2, A2', C2', ua2, uc2, l2, rfl, hs2, hm2⟩ := hans.get
      have hD2 := HD.out.call hc2 hg2
      obtain ⟨m0, m1, m2, m3, m4⟩ := (show _ ∧ _ ∧ _ ∧ _ ∧ _ from ⟨hD2.box.cell 0 rfl, hD2.box.cell 1 rfl, hD2.box.cell 2 rfl, hD2.box.cell 3 rfl, hD2.box.cell 4 rfl⟩)
      obtain ⟨f0, f1, f2, f3, f4⟩ := (show _ ∧ _ ∧ _ ∧ _ ∧ _ from ⟨hD2.box.frozen 0, hD2.box.frozen 1, hD2.box.frozen 2, hD2.box.frozen 3, hD2.box.frozen 4⟩)
      rw [← hm2] at hsg
      have HF : Hid (DSu w (((((y.setCell ⟨b, 0, none⟩ (.slice A2 X2.length C2)).setCell ⟨b, 1, none⟩ (.slice A2' Y2.length C2')).setCell ⟨b, 2, none⟩ (.int .i64 ep2)).setCell ⟨b, 3, none⟩ (.int .i64 nx2)).setCell ⟨b, 4, none⟩ (.slice ua2 us2.length uc2)) B c a len cap zs b (K + 1) A2 X2.length C2 X2 A2' Y2.length C2' Y2 ep2 nx2 ua2 us2.length uc2 l2) := hD2.put hs2 hsg
      have HK2 : Hid (K + 1 + ((j - 1 : Nat) : Int) ≤ (M : Int)) := by show _ ≤ _; have := HK.out; omega
      clear hans hs2 hm2 hsg hc2 hg2 hD2 HD HK c0 c1 c2 c3 c4
      go_wp2_with fail
      go_roundw
      case rel => exact ⟨j - 1, K + 1, _, _, _, _, _, _, _, _, _, _, _, _, _, _, by go_num, by omega, HK2, HF⟩
      case measure => simp [intOf]; omega

set_option maxRecDepth 10000 in
set_option maxHeartbeats 1600000 in
theorem l1Size_any (a : Option Addr) (len cap : Nat) (most : Int) (w : World) (hl : len ≤ 1099511627776) (h0 : 3 ≤ most) (h1 : most ≤ 1000) :
    Calls Tryz.prog 19 #[.slice a len cap, .int .i64 most] w fun e w' => (∃ n : Nat, e = .returned (.int .i64 (n : Int)) ∧ (n : Int) ≤ most) ∧ w' = w := by
  have hq : ((len : Int)).tdiv 12 = ((len / 12 : Nat) : Int) := by rw [Int.tdiv_eq_ediv_of_nonneg (by omega)]; omega
  obtain ⟨Q, hQ⟩ : ∃ Q, len / 12 = Q := ⟨_, rfl⟩
  rw [hQ] at hq
  have hQb : Q ≤ 1099511627776 := by omega
  clear hQ
  go_enter Tryz.func19, Tryz.ntmps19
  by_cases hm : most < 3 + (Q : Int)
  · obtain ⟨m, rfl⟩ := Int.eq_ofNat_of_zero_le (show 0 ≤ most by omega)
    go_wp2_with fail
    go_ret
    exact ⟨⟨m, rfl, Int.le_refl _⟩, rfl⟩
  · go_wp2_with fail
    go_ret
    exact ⟨⟨3 + Q, by congr 1, by omega⟩, rfl⟩

end Go.Proofs.YtiigdcpjelbdjaaGreatDoor

namespace Go.Proofs.YtiigdcpjelbdjaaGreatDoor
open Go.RowKit
set_option linter.unusedVariables false

set_option maxRecDepth 10000 in
set_option maxHeartbeats 1600000 in
theorem drawStore_any (a : Option Addr) (len cap : Nat) (zs : List Int) (w : World) (hs : Seg w a len zs) (hl : len ≤ 1099511627776) :
    Calls Tryz.prog 6 #[.slice a len cap] w fun e w' => (∃ v, e = .returned v ∧ DrawnS w.heap.size 46 v w') ∧ Below w.heap.size w w' := by
  obtain ⟨w1, hw1⟩ : ∃ w1, w.alloc (.cells #[.slice none 0 0, .slice none 0 0, .int .i64 0, .int .i64 0, .slice none 0 0] 29) = w1 := ⟨_, rfl⟩
  have HE : Hid (w.alloc (.cells #[.slice none 0 0, .slice none 0 0, .int .i64 0, .int .i64 0, .slice none 0 0] 29) = w1) := hw1
  have HZ1 : Hid (BoxN w1 w.heap.size 29 [.slice none 0 0, .slice none 0 0, .int .i64 0, .int .i64 0, .slice none 0 0]) := by show BoxN _ _ _ _; rw [← hw1]; exact BoxN.new _ _ _
  have HB1 : Hid (Below w.heap.size w w1) := by show Below _ _ _; rw [← hw1]; exact (Below.refl _ _).alloc (Nat.le_refl _) _
  have HS : Hid (Seg w1 a len zs) := hs.below HB1.out
  clear hs hw1
  go_enter Tryz.func6, Tryz.ntmps6
  go_wp2_with fail
  rw [HE.out]
  clear HE
  refine (l1New_any a len cap zs w1 HS.out hl).mono ?_
  rintro e w2 ⟨rfl, hc2, hb2⟩
  have hlt : w.heap.size < w1.heap.size := HZ1.out.lt
  have HZ2 : Hid (BoxN w2 w.heap.size 29 [.slice none 0 0, .slice none 0 0, .int .i64 0, .int .i64 0, .slice none 0 0]) := HZ1.out.stays hb2
  have HB2 : Hid (Below w.heap.size w w2) := HB1.out.trans (hb2.mono HB1.out.size)
  obtain ⟨cc, hcc⟩ : ∃ cc, w1.heap.size = cc := ⟨_, rfl⟩
  rw [hcc] at hc2 hlt ⊢
  have HC2 : Hid (Cur w2 cc cc a len cap zs) := hc2
  clear hc2 hb2 HZ1 HB1 HS hcc
  go_wp2_with fail
  refine (l1Size_any a len cap 40 w2 hl (by omega) (by omega)).mono ?_
  rintro e w2 ⟨⟨n, rfl, hn⟩, rfl⟩
  have HQn : Hid ((6 : Int) + (n : Int) = ((6 + n : Nat) : Int)) := by show _ = _; omega
  go_wp2_with fail
  rw [HQn.out]
  refine (l14Draw_any cc cc a len cap zs (6 + n) w2 HC2.out hl (by omega) (by omega)).mono ?_
  rintro e w6 ⟨⟨v, rfl, X, Y, ep, nx, us, hans, hsg⟩, hc6, hg6⟩
  obtain ⟨A, C, A', C', ua, uc, l, rfl, hs6, hm6⟩ := hans.get
  have hcl : cc < w2.heap.size := HC2.out.lt
  have hww : w.heap.size < w2.heap.size := HZ2.out.lt
  have hZ6 := HZ2.out.grown hg6 (fun e => by injection e with e; omega)
  have HB6 : Hid (Below w.heap.size w w6) := HB2.out.grown hg6 HB2.out.size (fun k e => by injection e with e; omega)
  have HSt : Hid (StoAt w6 w2.heap.size A X.length C X A' Y.length C' Y ua us.length uc l ∧ l.map UE.u = us) := ⟨hs6, hm6⟩
  have HSg : Hid (SG 46 X Y ep nx us) := hsg.more (by omega)
  obtain ⟨r0, r1, r2, r3, r4⟩ := (show _ ∧ _ ∧ _ ∧ _ ∧ _ from ⟨hZ6.cell 0 rfl, hZ6.cell 1 rfl, hZ6.cell 2 rfl, hZ6.cell 3 rfl, hZ6.cell 4 rfl⟩)
  obtain ⟨f0, f1, f2, f3, f4⟩ := (show _ ∧ _ ∧ _ ∧ _ ∧ _ from ⟨hZ6.frozen 0, hZ6.frozen 1, hZ6.frozen 2, hZ6.frozen 3, hZ6.frozen 4⟩)
  clear hans hs6 hm6 hsg hc6 hg6 HC2 HB2 HZ2 hZ6
  go_wp2_with fail
  refine bodyPost_ret (v := .agg #[.slice A X.length C, .slice A' Y.length C', .int .i64 ep, .int .i64 nx, .slice ua us.length uc]) (by simp [results, Tryz.f6, go_sem, r0, r1, r2, r3, r4]) rfl ?_
  refine ⟨⟨_, rfl, X, Y, ep, nx, us, ⟨A, X.length, C, A', Y.length, C', ua, us.length, uc, l, rfl, (((((HSt.out.1.setLow (by omega) _).setLow (by omega) _).setLow (by omega) _).setLow (by omega) _).setLow (by omega) _).low (by omega), HSt.out.2⟩, HSg.out⟩, ?_⟩
  exact ((((HB6.out.setCell (Nat.le_refl _) _).setCell (Nat.le_refl _) _).setCell (Nat.le_refl _) _).setCell (Nat.le_refl _) _).setCell (Nat.le_refl _) _

end Go.Proofs.YtiigdcpjelbdjaaGreatDoor

namespace Go.Proofs.YtiigdcpjelbdjaaGreatDoor
open Go.RowKit
set_option linter.unusedVariables false

set_option maxRecDepth 10000 in
set_option maxHeartbeats 3200000 in
theorem drawKept_any (a : Option Addr) (len cap : Nat) (zs : List Int) (w : World) (hs : Seg w a len zs) (hl : len ≤ 1099511627776) :
    Calls Tryz.prog 11 #[.slice a len cap] w fun e w' => (∃ A C l, e = .returned (.slice A 30 C) ∧ OwnBo w' w.heap.size (.slice A 30 C) 30 l) ∧ Below w.heap.size w w' := by
  obtain ⟨i0, hi, hz0, hz1, hz2⟩ := info_parts info_bool
  have HS : Hid (Seg w a len zs) := hs
  clear hs
  go_enter Tryz.func11, Tryz.ntmps11
  go_wp2_with fail
  refine (l1New_any a len cap zs w HS.out hl).mono ?_
  rintro e wn ⟨rfl, hcn, hbn⟩
  have HBn : Hid (Below w.heap.size w wn) := hbn
  obtain ⟨cc, hcc⟩ : ∃ cc, w.heap.size = cc := ⟨_, rfl⟩
  have HCC : Hid (w.heap.size = cc) := hcc
  rw [hcc] at hcn ⊢
  have HC : Hid (Cur wn cc cc a len cap zs) := hcn
  clear hcn hbn hcc HS
  have hcw : cc < wn.heap.size := HC.out.lt
  have HD1 : Hid (DK wn (wn.alloc (.cells #[] 4)) cc cc a len cap zs wn.heap.size 0 0 []) := ⟨HC.out.new _, World.grownBy_alloc wn _ _, World.ownsRow_lit wn #[] 0 (Nat.le_refl _) (Nat.zero_le _) rfl⟩
  go_wp2_with fail
  obtain ⟨w1, hw1⟩ : ∃ w1, wn.alloc (.cells #[] 4) = w1 := ⟨_, rfl⟩
  rw [hw1] at HD1 ⊢
  clear hw1 HC
  go_loopw [4, 5] (fun v i wr => ∃ (j g cp : Nat) (l : List Bool), i = .int .i64 (j : Int) ∧ v = .slice (some ⟨g, 0, none⟩) j cp ∧ j ≤ 30 ∧ Hid (DK wn wr cc cc a len cap zs g j cp l)) (fun _ i _ => 30 - (intOf i).toNat)
  case atStart => exact ⟨0, wn.heap.size, 0, [], rfl, rfl, by omega, HD1⟩
  case round =>
    clear HD1
    obtain ⟨j, g, cp, l, rfl, rfl, hj30, HD⟩ := hrel
    by_cases hj : j < 30
    case neg =>
      obtain rfl : j = 30 := by omega
      go_wp2_with fail
      go_ret
      refine ⟨⟨_, cp, l, rfl, ⟨own_low HD.out.2.2 (by have := HBn.out.size; have := HCC.out; omega), trivial⟩⟩, ?_⟩
      exact HBn.out.grown HD.out.2.1 HBn.out.size (fun q e => by injection e with e; have := HCC.out; omega)
    · have hji : (j : Int) < 30 := by omega
      go_wp2_with fail
      refine (l1Once_any cc cc a len cap zs 2 wr HD.out.1 hl (by omega) (by omega)).mono ?_
      rintro e w4 ⟨y, rfl, hc4, hg4⟩
      have HD4 : Hid (DK wn w4 cc cc a len cap zs g j cp l) := HD.out.call hc4 hg4 hcw
      have hsz := HD4.out.2.1.size
      clear hc4 hg4 HD
      have HN2 : Hid (∀ j u, [Value.bool y][j]? = some u → (w4.alloc (.cells #[.bool y] 4)).cell? ((⟨w4.heap.size, 0, none⟩ : Addr).add j) = some u) := oneB w4 y
      go_wp2_with (at_builtin; refine wpList_append_own _ rfl _ _ 38 rfl wn.heap.size 4 i0 (.bool false) 1 1 Tryz.underlying38 hi hz0 hz1 hz2 rfl (by decide) (.slice (some ⟨g, 0, none⟩) j cp) j _ rfl (HD4.out.new _).2.2 ⟨w4.heap.size, 0, none⟩ 1 1 [.bool y] rfl rfl HN2.out (by simp [Value.oneCell']) (by unfold maxLen; omega) (by omega) (by simp; omega) ?_; intro v5 w5 hown5 hgrow5 _; refine Hid.out ?_)
      refine hidden ?_
      obtain ⟨g5, cp5, rfl, hd5⟩ := (HD4.out.new _).app hcw hown5 hgrow5
      have HD5 : Hid (DK wn w5 cc cc a len cap zs g5 (j + 1) cp5 (l ++ [y])) := hd5
      clear hown5 hgrow5 hd5 HN2 HD4
      go_wp2_with fail
      go_roundw
      case rel => exact ⟨j + 1, g5, cp5, l ++ [y], by go_num, rfl, by omega, HD5⟩
      case measure => simp [intOf]; omega

end Go.Proofs.YtiigdcpjelbdjaaGreatDoor

namespace Go.Proofs.YtiigdcpjelbdjaaGreatDoor
open Go.RowKit
set_option linter.unusedVariables false

theorem bl_irrefl : ∀ l : List UInt8, Op.bytesLess l l = false
  | [] => by simp [Op.bytesLess]
  | x :: l => by simp [Op.bytesLess, bl_irrefl l]

theorem bl_trans : ∀ {a b c : List UInt8}, Op.bytesLess a b = true → Op.bytesLess b c = true → Op.bytesLess a c = true
  | [], [], c, h, _ => by simp [Op.bytesLess] at h
  | [], y :: b, [], _, h => by simp [Op.bytesLess] at h
  | [], y :: b, z :: c, _, _ => by simp [Op.bytesLess]
  | x :: a, [], c, h, _ => by simp [Op.bytesLess] at h
  | x :: a, y :: b, [], _, h => by simp [Op.bytesLess] at h
  | x :: a, y :: b, z :: c, h1, h2 => by
    simp only [Op.bytesLess, Bool.or_eq_true, Bool.and_eq_true, decide_eq_true_eq, beq_iff_eq] at h1 h2 ⊢
    rcases h1 with h1 | ⟨rfl, h1⟩
    · rcases h2 with h2 | ⟨rfl, h2⟩
      · exact .inl (UInt8.lt_trans h1 h2)
      · exact .inl h1
    · rcases h2 with h2 | ⟨rfl, h2⟩
      · exact .inl h2
      · exact .inr ⟨rfl, bl_trans h1 h2⟩

theorem bl_tri : ∀ a b : List UInt8, Op.bytesLess a b = true ∨ a = b ∨ Op.bytesLess b a = true
  | [], [] => .inr (.inl rfl)
  | [], y :: b => .inl (by simp [Op.bytesLess])
  | x :: a, [] => .inr (.inr (by simp [Op.bytesLess]))
  | x :: a, y :: b => by
    simp only [Op.bytesLess, Bool.or_eq_true, Bool.and_eq_true, decide_eq_true_eq, beq_iff_eq, List.cons.injEq]
    by_cases h1 : x < y
    · exact .inl (.inl h1)
    · by_cases h2 : y < x
      · exact .inr (.inr (.inl h2))
      · have e : x = y := UInt8.le_antisymm (UInt8.not_lt.1 h2) (UInt8.not_lt.1 h1)
        subst e
        rcases bl_tri a b with h | h | h
        · exact .inl (.inr ⟨rfl, h⟩)
        · exact .inr (.inl ⟨rfl, h⟩)
        · exact .inr (.inr (.inr ⟨rfl, h⟩))

/-- A name ahead of another. -/
def ltS (x y : ByteArray) : Bool := Op.bytesLess x.toList y.toList

theorem toList_inj {s t : ByteArray} (h : s.toList = t.toList) : s = t := by
  rw [Lib.toList_data, Lib.toList_data] at h
  cases s
  cases t
  exact congrArg ByteArray.mk (Array.toList_inj.1 h)

theorem ltS_irrefl (x : ByteArray) : ltS x x = false := bl_irrefl _
theorem ltS_trans {x y z : ByteArray} (h1 : ltS x y = true) (h2 : ltS y z = true) : ltS x z = true := bl_trans h1 h2
theorem ltS_tri (x y : ByteArray) : ltS x y = true ∨ x = y ∨ ltS y x = true := by
  rcases bl_tri x.toList y.toList with h | h | h
  · exact .inl h
  · exact .inr (.inl (toList_inj h))
  · exact .inr (.inr h)
theorem ltS_asym {x y : ByteArray} (h : ltS x y = true) : ltS y x = false := by
  cases h2 : ltS y x with
  | false => rfl
  | true => have := ltS_trans h h2; rw [ltS_irrefl] at this; cases this

theorem gtS_iff {x y : ByteArray} : gtS x y = true ↔ ltS y x = true := by
  constructor
  · intro h
    rcases ltS_tri x y with h1 | rfl | h1
    · simp [gtS, show Op.bytesLess x.toList y.toList = true from h1] at h
    · simp [gtS] at h
    · exact h1
  · intro h
    have h1 : Op.bytesLess x.toList y.toList = false := ltS_asym h
    have h2 : x ≠ y := fun e => by subst e; rw [ltS_irrefl] at h; cases h
    have h3 : (x.toList == y.toList) = false := by
      rw [beq_eq_false_iff_ne]
      exact fun e => h2 (toList_inj e)
    simp [gtS, h1, h3]

/-- Uploads rise by their names. -/
def Asc (l : List U) : Prop := l.Pairwise fun u v => ltS u.id v.id = true

theorem asc_ne {l : List U} (h : Asc l) {i j : Nat} (hi : i < l.length) (hj : j < l.length) (hij : i < j) : (l[i]).id ≠ (l[j]).id := fun e => by
  have := (List.pairwise_iff_getElem.1 h) i j hi hj hij
  rw [e, ltS_irrefl] at this
  cases this

/-- How many of the first ones are ahead of a name. -/
def lessU (l : List U) (id : ByteArray) : Nat := match l with
  | [] => 0
  | u :: l => if ltS u.id id = true then lessU l id + 1 else 0

theorem lessU_le (id : ByteArray) : ∀ l : List U, lessU l id ≤ l.length
  | [] => Nat.le_refl _
  | u :: l => by
    rw [lessU]
    split
    · have := lessU_le id l; simp only [List.length_cons]; omega
    · exact Nat.zero_le _

theorem lessU_at {id : ByteArray} : ∀ {l : List U} {k : Nat}, k ≤ l.length → (∀ j (hj : j < l.length), j < k → ltS (l[j]).id id = true) → (∀ (hk : k < l.length), ltS (l[k]).id id = false) → lessU l id = k
  | [], k, hk, _, _ => by simp at hk; rw [hk]; rfl
  | u :: l, 0, _, _, h => by rw [lessU, if_neg (by rw [show ltS u.id id = false from h (by simp)]; simp)]
  | u :: l, k + 1, hk, h1, h2 => by
    rw [lessU, if_pos (show ltS u.id id = true from h1 0 (by simp) (by omega))]
    rw [lessU_at (k := k) (by simpa using hk) (fun j hj hjk => h1 (j + 1) (by simpa using hj) (by omega)) (fun hk2 => h2 (by simpa using hk2))]

/-- In uploads that rise one is put where the program puts it. -/
theorem ins_less {l : List U} {id : ByteArray} (ha : Asc l) (hn : atU l id = none) : insK l id l.length = lessU l id := by
  have hne : ∀ k (hk : k < l.length), (l[k]).id ≠ id := by
    intro k hk
    rw [atU, List.findIdx?_eq_none_iff] at hn
    simpa using hn (l[k]) (List.getElem_mem hk)
  have key : ∀ k, k ≤ l.length → (∀ j (hj : j < l.length), k ≤ j → ltS id (l[j]).id = true) → lessU l id = insK l id k := by
    intro k
    induction k with
    | zero =>
      intro _ h
      exact lessU_at (Nat.zero_le _) (fun j _ hj => absurd hj (Nat.not_lt_zero _)) (fun hk => ltS_asym (h 0 hk (Nat.le_refl _)))
    | succ k ih =>
      intro hk h
      have hkl : k < l.length := hk
      by_cases hg : gtS (l[k]).id id = true
      · rw [insK_down (List.getElem?_eq_getElem hkl) hg]
        refine ih (by omega) (fun j hj hkj => ?_)
        by_cases e : j = k
        · subst e; exact gtS_iff.1 hg
        · exact h j hj (by omega)
      · rw [insK_stop (List.getElem?_eq_getElem hkl) hg]
        have hlt : ltS (l[k]).id id = true := by
          rcases ltS_tri (l[k]).id id with h1 | h1 | h1
          · exact h1
          · exact absurd h1 (hne k hkl)
          · exact absurd (gtS_iff.2 h1) hg
        refine lessU_at hk (fun j hj hjk => ?_) (fun hk2 => ltS_asym (h (k + 1) hk2 (Nat.le_refl _)))
        by_cases e : j = k
        · subst e; exact hlt
        · exact ltS_trans ((List.pairwise_iff_getElem.1 ha) j k hj hkl (by omega)) hlt
  exact (key l.length (Nat.le_refl _) (fun j hj hlj => by omega)).symm

theorem less_take {l : List U} {id : ByteArray} : ∀ j (hj : j < l.length), j < lessU l id → ltS (l[j]).id id = true := by
  induction l with
  | nil => intro j hj; simp at hj
  | cons u l ih =>
    intro j hj hlt
    rw [lessU] at hlt
    split at hlt
    · rename_i h
      cases j with
      | zero => exact h
      | succ j => exact ih j (by simpa using hj) (by omega)
    · omega

theorem less_drop {l : List U} {id : ByteArray} (ha : Asc l) (hn : atU l id = none) : ∀ j (hj : j < l.length), lessU l id ≤ j → ltS id (l[j]).id = true := by
  have hne : ∀ k (hk : k < l.length), (l[k]).id ≠ id := by
    intro k hk
    rw [atU, List.findIdx?_eq_none_iff] at hn
    simpa using hn (l[k]) (List.getElem_mem hk)
  clear hn
  induction l with
  | nil => intro j hj; simp at hj
  | cons u l ih =>
    intro j hj hlt
    rw [lessU] at hlt
    have hal : Asc l := (List.pairwise_cons.1 ha).2
    split at hlt
    · cases j with
      | zero => omega
      | succ j => exact ih hal (fun k hk => hne (k + 1) (by simpa using hk)) j (by simpa using hj) (by omega)
    · rename_i h
      have h0 : ltS id u.id = true := by
        rcases ltS_tri u.id id with h1 | h1 | h1
        · exact absurd h1 h
        · exact absurd h1 (hne 0 (by simp))
        · exact h1
      cases j with
      | zero => exact h0
      | succ j =>
        have := (List.pairwise_cons.1 ha).1 (l[j]'(by simpa using hj)) (List.getElem_mem _)
        exact ltS_trans h0 this

/-- What is kept where all of a name go. -/
def keptU (l : List U) (id : ByteArray) : List U := l.filter fun u => !decide (u.id = id)

theorem erase_kept {l : List U} {id : ByteArray} {k : Nat} (ha : Asc l) (hk : atU l id = some k) : keptU l id = l.eraseIdx k := by
  obtain ⟨hkl, hid⟩ := atU_is hk
  have h1 : l = l.take k ++ l[k] :: l.drop (k + 1) := by rw [← List.drop_eq_getElem_cons hkl, List.take_append_drop]
  have ht : (l.take k).filter (fun u => !decide (u.id = id)) = l.take k := by
    rw [List.filter_eq_self]
    intro u hu
    obtain ⟨j, hj, rfl⟩ := List.mem_iff_getElem.1 hu
    have hjk : j < k := by simp at hj; omega
    have := asc_ne ha (show j < l.length by omega) hkl hjk
    rw [hid] at this
    simpa using this
  have hd : (l.drop (k + 1)).filter (fun u => !decide (u.id = id)) = l.drop (k + 1) := by
    rw [List.filter_eq_self]
    intro u hu
    obtain ⟨j, hj, rfl⟩ := List.mem_iff_getElem.1 hu
    have hjl : k + 1 + j < l.length := by simp at hj; omega
    have := asc_ne ha hkl hjl (by omega)
    rw [hid] at this
    simpa using Ne.symm this
  rw [List.eraseIdx_eq_take_drop_succ, keptU]
  conv => lhs; rw [h1]
  rw [List.filter_append, List.filter_cons, ht, hd]
  simp [hid]

theorem makeU_less {l : List U} {u : U} (ha : Asc l) (hn : atU l u.id = none) : makeU l u = l.take (lessU l u.id) ++ u :: l.drop (lessU l u.id) := by rw [makeU, ins_less ha hn]

theorem asc_set {l : List U} {k : Nat} {u v : U} (ha : Asc l) (hu : l[k]? = some u) (he : v.id = u.id) : Asc (l.set k v) := by
  obtain ⟨hkl, hke⟩ := List.getElem?_eq_some_iff.1 hu
  rw [Asc, List.pairwise_iff_getElem]
  intro i j hi hj hij
  have hil : i < l.length := by simpa using hi
  have hjl : j < l.length := by simpa using hj
  have hid : ∀ m (hm : m < l.length), ((l.set k v)[m]'(by simpa using hm)).id = (l[m]).id := by
    intro m hm
    rw [List.getElem_set]
    split
    · rename_i e; subst e; rw [he, hke]
    · rfl
  rw [hid i hil, hid j hjl]
  exact (List.pairwise_iff_getElem.1 ha) i j hil hjl hij

theorem oneU_asc {l l' : List U} {r : R} (ha : Asc l) (h : oneU l r = some l') : Asc l' := by
  rw [oneU] at h
  split at h
  · split at h
    · rename_i hc
      injection h with h
      subst h
      have ha2 := ha
      rw [Asc, List.pairwise_iff_getElem] at ha2
      rw [makeU_less ha hc.1, Asc, List.pairwise_append]
      dsimp only
      have hle := lessU_le r.id l
      refine ⟨List.Pairwise.sublist (List.take_sublist _ _) ha, List.pairwise_cons.2 ⟨?_, List.Pairwise.sublist (List.drop_sublist _ _) ha⟩, ?_⟩
      · intro v hv
        obtain ⟨j, hj, rfl⟩ := List.mem_iff_getElem.1 hv
        rw [List.getElem_drop]
        rw [List.length_drop] at hj
        exact less_drop ha hc.1 _ (by omega) (by omega)
      · intro v hv x hx
        obtain ⟨j, hj, rfl⟩ := List.mem_iff_getElem.1 hv
        rw [List.getElem_take]
        rw [List.length_take] at hj
        have hjl : j < lessU l r.id := by omega
        have hjn : j < l.length := by omega
        rcases List.mem_cons.1 hx with rfl | hx
        · exact less_take j hjn hjl
        · obtain ⟨i, hi, rfl⟩ := List.mem_iff_getElem.1 hx
          rw [List.getElem_drop]
          rw [List.length_drop] at hi
          exact ha2 _ _ hjn (by omega) (by omega)
    · cases h
  · split at h
    · cases h
    · split at h
      · cases h
      · rename_i k _ x hx
        split at h
        · split at h
          · cases h
          · injection h with h
            subst h
            exact asc_set ha hx rfl
        · split at h
          · split at h
            · cases h
            · injection h with h
              subst h
              exact asc_set ha hx rfl
          · split at h
            · injection h with h
              subst h
              exact List.Pairwise.sublist (List.eraseIdx_sublist ..) ha
            · cases h

theorem foldU_asc {rs : List R} {l : List U} (h : foldU rs = some l) : Asc l := by
  have key : ∀ (rs : List R) (a b : List U), Asc a → rs.foldlM oneU a = some b → Asc b := by
    intro rs
    induction rs with
    | nil => intro a b ha h; simp at h; subst h; exact ha
    | cons r rs ih =>
      intro a b ha h
      rw [List.foldlM_cons] at h
      cases ho : oneU a r with
      | none => rw [ho] at h; cases h
      | some c => rw [ho] at h; exact ih c b (oneU_asc ha ho) h
  exact key rs [] l List.Pairwise.nil h

end Go.Proofs.YtiigdcpjelbdjaaGreatDoor

namespace Go.Proofs.YtiigdcpjelbdjaaGreatDoor
open Go.RowKit
set_option linter.unusedVariables false

/-- A scan looks no farther than the first sector that does not follow. -/
theorem scan_prefix : ∀ (Z F : List ByteArray) (i : Nat) (last : Int), F.length = Z.length → (∀ k, k ≤ (scanFrom i last Z).length → F[k]? = Z[k]?) → scanFrom i last F = scanFrom i last Z
  | [], F, i, last, hl, _ => by
    have : F = [] := List.length_eq_zero_iff.1 hl
    rw [this]
  | z :: Z, [], i, last, hl, _ => by simp at hl
  | z :: Z, f :: F, i, last, hl, h => by
    have h0 : f = z := by have := h 0 (Nat.zero_le _); simpa using this
    subst h0
    rw [scanFrom, scanFrom]
    cases hn : nextR i last f with
    | none => rfl
    | some r =>
      dsimp only
      congr 1
      refine scan_prefix Z F (i + 1) r.e (by simpa using hl) (fun k hk => ?_)
      have := h (k + 1) (by rw [scanFrom, hn]; simpa using hk)
      simpa using this

theorem wroteX_low {ep : Int} : ∀ (rs : List R) (X : List ByteArray) (nx i : Nat), i < nx → (wroteX X ep nx rs)[i]? = X[i]?
  | [], X, nx, i, _ => rfl
  | r :: rs, X, nx, i, h => by rw [wroteX, wroteX_low rs _ (nx + 1) i (by omega), List.getElem?_set_ne (by omega)]

theorem wroteX_high {ep : Int} : ∀ (rs : List R) (X : List ByteArray) (nx i : Nat), nx + rs.length ≤ i → (wroteX X ep nx rs)[i]? = X[i]?
  | [], X, nx, i, _ => rfl
  | r :: rs, X, nx, i, h => by rw [List.length_cons] at h; rw [wroteX, wroteX_high rs _ (nx + 1) i (by omega), List.getElem?_set_ne (by omega)]

theorem wroteX_mid {ep : Int} : ∀ (rs : List R) (X : List ByteArray) (nx j : Nat) (r : R), rs[j]? = some r → nx + j < X.length → (wroteX X ep nx rs)[nx + j]? = some (txU (r.at ep (nx + j)).put)
  | [], X, nx, j, r, h, _ => by simp at h
  | x :: rs, X, nx, 0, r, h, hl => by
    obtain rfl : x = r := by simpa using h
    rw [wroteX, wroteX_low rs _ (nx + 1) (nx + 0) (by omega)]
    rw [Nat.add_zero] at hl ⊢
    rw [List.getElem?_set_self hl]
  | x :: rs, X, nx, j + 1, r, h, hl => by
    have := wroteX_mid (ep := ep) rs (X.set nx (txU (x.at ep nx).put)) (nx + 1) j r (by simpa using h) (by rw [List.length_set]; omega)
    rw [show nx + 1 + j = nx + (j + 1) by omega] at this
    rw [wroteX]
    exact this

theorem first_diff (P : Nat → Prop) : ∀ m, ∃ j, j ≤ m ∧ (∀ i, i < j → P i) ∧ (j = m ∨ ¬ P j)
  | 0 => ⟨0, Nat.le_refl _, fun i h => by omega, .inl rfl⟩
  | m + 1 => by
    obtain ⟨j, h1, h2, h3⟩ := first_diff P m
    rcases h3 with rfl | h3
    · by_cases h : P j
      · exact ⟨j + 1, Nat.le_refl _, fun i hi => (Nat.lt_succ_iff_lt_or_eq.1 hi).elim (h2 i) (fun e => e ▸ h), .inl rfl⟩
      · exact ⟨j, by omega, h2, .inr h⟩
    · exact ⟨j, by omega, h2, .inr h3⟩

theorem fall_or {xs ys : List ByteArray} (ks : List Bool) (hl : xs.length = ys.length) (k : Nat) : (fallL xs ys ks)[k]? = xs[k]? ∨ (fallL xs ys ks)[k]? = ys[k]? := by
  by_cases hk : k < xs.length
  · have h := fallL_at (ks := ks) (List.getElem?_eq_getElem hk) (List.getElem?_eq_getElem (show k < ys.length by omega))
    rw [h]
    split
    · left; rw [List.getElem?_eq_getElem hk]
    · right; rw [List.getElem?_eq_getElem (show k < ys.length by omega)]
  · left
    rw [List.getElem?_eq_none (by rw [fallL_len]; omega), List.getElem?_eq_none (by omega)]

theorem foldlM_take {rs : List R} {us us' : List U} (h : rs.foldlM oneU us = some us') (j : Nat) : ∃ u1, (rs.take j).foldlM oneU us = some u1 := by
  have e : rs = rs.take j ++ rs.drop j := (List.take_append_drop j rs).symm
  rw [e, List.foldlM_append] at h
  cases h1 : (rs.take j).foldlM oneU us with
  | none => rw [h1] at h; cases h
  | some u1 => exact ⟨u1, rfl⟩

/-- Behind a crash there is what was sure, and a beginning of what was written since. -/
theorem dur {k : Int} {X : List ByteArray} {ep nx : Int} {us us2 : List U} {rs : List R} (h : SG k X X ep nx us) (hk : k < 10000) (hr : ∀ r ∈ rs, idB r.id.data.toList = true ∧ kindB r.k r.n r.zs.length = true ∧ ∀ x ∈ r.zs, 0 ≤ x ∧ x ≤ 255) (hl : nx + (rs.length : Int) ≤ (X.length : Int)) (hf : rs.foldlM oneU us = some us2) (ks : List Bool) :
    ∃ j, j ≤ rs.length ∧ ∃ usj, (rs.take j).foldlM oneU us = some usj ∧ ∃ e n, openO (fallX (wroteX X ep nx.toNat rs) X ks) (fallY (wroteX X ep nx.toNat rs) X ks) = some (e, n, usj) := by
  obtain ⟨he, h0, hnX, h200⟩ := h.ok.nums
  obtain ⟨X2, hX2⟩ : ∃ X2, wroteX X ep nx.toNat rs = X2 := ⟨_, rfl⟩
  have hlen : X2.length = X.length := by rw [← hX2, wroteX_len]
  have hok2 : SOk X2 X ep (nx + (rs.length : Int)) us2 := by rw [← hX2]; exact wrote_ok h.ok hr hl hf
  rw [hX2]
  obtain ⟨e1, e2⟩ := fall_same ks hok2.1
  rw [e1, e2]
  obtain ⟨F, hF⟩ : ∃ F, fallL X2 X ks = F := ⟨_, rfl⟩
  have hFl : F.length = X.length := by rw [← hF, fallL_len, hlen]
  have hor : ∀ i, F[i]? = X2[i]? ∨ F[i]? = X[i]? := fun i => by rw [← hF]; exact fall_or ks hlen i
  obtain ⟨N, hN⟩ : ∃ N, nx.toNat = N := ⟨_, rfl⟩
  rw [hN] at hX2
  obtain ⟨j, hj, hsame, hstop⟩ := first_diff (fun i => F[N + i]? = X2[N + i]?) rs.length
  obtain ⟨usj, huj⟩ := foldlM_take hf j
  refine ⟨j, hj, usj, huj, ?_⟩
  have htl : (rs.take j).length = j := by rw [List.length_take]; omega
  have hokZ : SOk (wroteX X ep nx.toNat (rs.take j)) X ep (nx + ((rs.take j).length : Int)) usj := wrote_ok h.ok (fun r hr' => hr r (List.mem_of_mem_take hr')) (by omega) huj
  rw [hN, htl] at hokZ
  obtain ⟨Z, hZ⟩ : ∃ Z, wroteX X ep N (rs.take j) = Z := ⟨_, rfl⟩
  rw [hZ] at hokZ
  have hZl : Z.length = X.length := by rw [← hZ, wroteX_len]
  have hsc : (scanR Z).length = N + j := by have := hokZ.2.2.2.1; omega
  have hscan : scanR F = scanR Z := by
    refine scan_prefix Z F 0 0 (by omega) (fun i hi => ?_)
    have hi2 : i ≤ N + j := by rw [← hsc]; exact hi
    by_cases h1 : i < N
    · have a1 : Z[i]? = X[i]? := by rw [← hZ]; exact wroteX_low _ _ _ _ h1
      have a2 : X2[i]? = X[i]? := by rw [← hX2]; exact wroteX_low _ _ _ _ h1
      rcases hor i with h2 | h2
      · rw [h2, a1, a2]
      · rw [h2, a1]
    · obtain ⟨p, rfl⟩ : ∃ p, i = N + p := ⟨i - N, by omega⟩
      by_cases h2 : p < j
      · rw [hsame p h2]
        have hp : p < rs.length := by omega
        have a1 : X2[N + p]? = some (txU (rs[p].at ep (N + p)).put) := by rw [← hX2]; exact wroteX_mid rs X N p _ (List.getElem?_eq_getElem hp) (by omega)
        have a2 : Z[N + p]? = some (txU (rs[p].at ep (N + p)).put) := by rw [← hZ]; exact wroteX_mid (rs.take j) X N p _ (by rw [List.getElem?_take, if_pos h2, List.getElem?_eq_getElem hp]) (by omega)
        rw [a1, a2]
      · obtain rfl : p = j := by omega
        have a1 : Z[N + p]? = X[N + p]? := by rw [← hZ]; exact wroteX_high _ _ _ _ (by rw [htl]; omega)
        rw [a1]
        rcases hstop with h3 | h3
        · have a2 : X2[N + p]? = X[N + p]? := by rw [← hX2]; exact wroteX_high _ _ _ _ (by omega)
          rcases hor (N + p) with h4 | h4
          · rw [h4, a2]
          · exact h4
        · rcases hor (N + p) with h4 | h4
          · exact absurd h4 h3
          · exact h4
  have hmem : ∀ x ∈ F, x ∈ X2 ∨ x ∈ X := fun x hx => by rw [← hF] at hx; exact fallL_mem hlen hx
  have hd2 := okD_iff.1 hok2.1
  have hokF : okD F F = true := okD_iff.2 ⟨rfl, by omega, fun x hx => (hmem x hx).elim (hd2.2.2.1 x) (hd2.2.2.2 x), fun x hx => (hmem x hx).elim (hd2.2.2.1 x) (hd2.2.2.2 x)⟩
  have hfo : foldU (scanR F) = some usj := by rw [hscan]; exact hokZ.2.2.1
  have hX2e : ∀ x ∈ X2, ∀ r, recOf x = some r → r.e ≤ ep := fun x hx r hrx => by
    rw [← hX2] at hx
    rcases wroteX_memq hx with hx | ⟨r', hr', q, hq, rfl⟩
    · exact (h.recs x (.inl hx) r hrx).1
    · have h3 := hr r' hr'
      rw [recOf_put hrx h3.2.2 (at_ok h3.1 h3.2.1 he (by omega))]
      exact Int.le_refl _
  have htop : topE F ≤ ep := topE_le (by omega) (fun x hx r hrx => (hmem x hx).elim (fun h5 => hX2e x h5 r hrx) (fun h5 => (h.recs x (.inl h5) r hrx).1))
  have hfew := h.few
  exact ⟨_, _, by rw [hF, openO, hokF, hfo]; dsimp only; rw [if_neg (by omega)]⟩

/-- In rising order each is found by its name. -/
theorem asc_at {l : List U} (h : Asc l) {p : Nat} {u : U} (hu : l[p]? = some u) : atU l u.id = some p := by
  obtain ⟨hp, rfl⟩ := List.getElem?_eq_some_iff.1 hu
  exact atU_some hp rfl (fun j hj hlt => asc_ne h hj hp hlt)

/-- Names of what records made are names of records. -/
theorem fold_ids {P : ByteArray → Prop} {rs : List R} : ∀ {us us' : List U}, (∀ u ∈ us, P u.id) → (∀ r ∈ rs, P r.id) → rs.foldlM oneU us = some us' → ∀ u ∈ us', P u.id := by
  induction rs with
  | nil => intro us us' h1 _ h; obtain rfl : us = us' := by simpa using h
           exact h1
  | cons r rs ih =>
    intro us us' h1 hr h
    rw [List.foldlM_cons] at h
    cases ho : oneU us r with
    | none => rw [ho] at h; cases h
    | some u1 =>
      rw [ho] at h
      exact ih (oneU_each (P := fun u => P u.id) ho h1 (fun _ => hr r (List.mem_cons_self ..)) (fun u hu _ _ _ => hu) (fun u hu _ _ => hu)) (fun x hx => hr x (List.mem_cons_of_mem _ hx)) h

theorem SG.ids {k : Int} {X Y : List ByteArray} {ep nx : Int} {us : List U} (h : SG k X Y ep nx us) : ∀ u ∈ us, u.id ≠ newId := by
  refine fold_ids (P := fun i => i ≠ newId) (us := []) (by simp) (fun r hr => ?_) h.ok.2.2.1
  obtain ⟨i, hi, rfl⟩ := List.getElem_of_mem hr
  obtain ⟨⟨x, hx, hrx⟩, _⟩ := scan_one (X := X) (k := i) (List.getElem?_eq_getElem hi)
  exact (h.recs x (.inl (List.mem_of_getElem? hx)) _ hrx).2

/-- What stands in a row of uploads stands there when one is put in. -/
theorem makeU_mem {l : List U} {v u : U} (h : u ∈ l) : u ∈ makeU l v := by
  rw [makeU]
  rw [← List.take_append_drop (insK l v.id l.length) l] at h
  rcases List.mem_append.1 h with h | h
  · exact List.mem_append.2 (.inl h)
  · exact List.mem_append.2 (.inr (List.mem_cons_of_mem _ h))

theorem makeU_new {l : List U} {v : U} : v ∈ makeU l v := List.mem_append.2 (.inr (List.mem_cons_self ..))

/-- The upload that is made. -/
def newU : U := ⟨newId, 30, [], false⟩

theorem SOk.asc {X Y : List ByteArray} {ep nx : Int} {us : List U} (h : SOk X Y ep nx us) : Asc us := foldU_asc h.2.2.1

/-- What lasts of the uploads. -/
structure Lasts (us usj us2 : List U) : Prop where
  least : us.length ≤ usj.length
  most : usj.length ≤ us2.length
  same : ∀ u ∈ us, ∃ p, atU usj u.id = some p ∧ usj[p]? = some u
  news : ∀ p v, atU usj newId = some p → usj[p]? = some v → v.zs.length = 0 ∨ v.zs.length = 24 ∨ v.zs.length = 30

theorem lasts_nothing {us us2 : List U} (ha : Asc us) (hi : ∀ u ∈ us, u.id ≠ newId) (hl : us.length ≤ us2.length) : Lasts us us us2 := by
  refine ⟨Nat.le_refl _, hl, fun u hu => ?_, fun p v hp hv => ?_⟩
  · obtain ⟨p, hp, rfl⟩ := List.getElem_of_mem hu
    exact ⟨p, asc_at ha (List.getElem?_eq_getElem hp), List.getElem?_eq_getElem hp⟩
  · obtain ⟨hpl, h⟩ := atU_is hp
    exact absurd h (hi _ (List.getElem_mem hpl))

theorem lasts_some {us us2 : List U} {zs : List Int} (hz : zs.length = 30) (ha : Asc us) (ha1 : Asc (makeU us newU)) (hi : ∀ u ∈ us, u.id ≠ newId) {kk : Nat} (hk : (makeU us newU)[kk]? = some newU) (i : Nat) (hi2 : i ≤ 2) (hl : us2.length = us.length + 1) : Lasts us (putU (makeU us newU) kk newU zs i) us2 := by
  have hkk : atU (makeU us newU) newId = some kk := asc_at (u := newU) ha1 hk
  have hv : ({ newU with zs := newU.zs ++ zs.take (24 * i) } : U).id = newU.id := rfl
  have hlen : (putU (makeU us newU) kk newU zs i).length = us.length + 1 := by rw [putU, List.length_set, makeU_len]
  have ha2 : Asc (putU (makeU us newU) kk newU zs i) := asc_set ha1 hk hv
  refine ⟨by omega, by omega, fun u hu => ?_, fun p v hp hv2 => ?_⟩
  · obtain ⟨p, hp, he⟩ := List.getElem_of_mem (makeU_mem (v := newU) hu)
    have hp' : (makeU us newU)[p]? = some u := by rw [List.getElem?_eq_getElem hp, he]
    have hne : kk ≠ p := fun e => by
      subst e
      rw [hk] at hp'
      injection hp' with hp'
      exact hi u hu (by rw [← hp']; rfl)
    have h3 : (putU (makeU us newU) kk newU zs i)[p]? = some u := by rw [putU, List.getElem?_set_ne hne, hp']
    exact ⟨p, asc_at ha2 h3, h3⟩
  · have h4 : atU (putU (makeU us newU) kk newU zs i) newId = some kk := atU_set hkk hk hv
    rw [h4] at hp
    injection hp with hp
    subst hp
    have hkl : kk < (makeU us newU).length := (List.getElem?_eq_some_iff.1 hk).1
    rw [putU, List.getElem?_set_self hkl] at hv2
    injection hv2 with hv2
    subst hv2
    have hl9 : ({ newU with zs := newU.zs ++ zs.take (24 * i) } : U).zs.length = min (24 * i) 30 := by
      show (([] : List Int) ++ zs.take (24 * i)).length = _
      rw [List.nil_append, List.length_take, hz]
    rw [hl9]
    have : i = 0 ∨ i = 1 ∨ i = 2 := by omega
    rcases this with rfl | rfl | rfl
    · left; rfl
    · right; left; rfl
    · right; right; rfl

/-- Of a store made sure, with an upload made since and something put into it: what is there behind any crash. -/
theorem durable {k : Int} {X : List ByteArray} {ep nx : Int} {us : List U} (h : SG k X X ep nx us) (hk : k < 10000) (ks : List Bool) {zs : List Int} (hz : zs.length = 30) (hb : ∀ x ∈ zs, 0 ≤ x ∧ x ≤ 255) {A1 A2 : WA} (h1 : makeA X X ep nx us newId 30 = A1) (h2 : putA A1.X X ep A1.nx A1.us newId 0 zs = A2) :
    okD A2.X X = true ∧ ∃ e n usj, openO (fallX A2.X X ks) (fallY A2.X X ks) = some (e, n, usj) ∧ Lasts us usj A2.us := by
  have ha := h.ok.asc
  have hids := h.ids
  by_cases hc : A1.c = 0
  · have hc' : (makeA X X ep nx us newId 30).c = 0 := by rw [h1]; exact hc
    obtain ⟨_, hkd, hl, us', hf, he⟩ := makeA_yes hc'
    have hat : atU us newId = none := atU_none (fun p hp => hids _ (List.getElem_mem hp))
    have hone : oneU us (makeR newId 30) = some us' := by
      rw [List.foldlM_cons] at hf
      cases ho : oneU us (makeR newId 30) with
      | none => rw [ho] at hf; cases hf
      | some u1 => rw [ho] at hf; simpa using hf
    have hus' : us' = makeU us newU := by
      rw [oneU, if_pos (show (makeR newId 30).k = 1 from rfl)] at hone
      split at hone
      · injection hone with hone; exact hone.symm
      · cases hone
    have ha1 : Asc us' := oneU_asc ha hone
    subst hus'
    obtain ⟨kk, hkl, hke⟩ := List.getElem_of_mem (makeU_new (l := us) (v := newU))
    have hkk : (makeU us newU)[kk]? = some newU := by rw [List.getElem?_eq_getElem hkl, hke]
    have hA1 : A1 = ⟨wroteX X ep nx.toNat [makeR newId 30], nx + 1, makeU us newU, 0⟩ := by rw [← h1, he]
    have hgm : idB newId.data.toList = true ∧ kindB 1 30 0 = true ∧ ∀ x ∈ ([] : List Int), 0 ≤ x ∧ x ≤ 255 := ⟨hkd.1, hkd.2, by simp⟩
    by_cases hc2 : A2.c = 0
    · have hc2' : (putA A1.X X ep A1.nx A1.us newId 0 zs).c = 0 := by rw [h2]; exact hc2
      obtain ⟨hso1, hid, hzl, k2, u2, h4, h5, h6, h7, h8, h9, hf2, he2⟩ := putA_yes hc2'
      rw [hA1] at hso1 h4 h5 h9 hf2 he2
      dsimp only at hso1 h4 h5 h9 hf2 he2
      have e1 : atU (makeU us newU) newId = some kk := asc_at (u := newU) ha1 hkk
      rw [e1] at h4
      injection h4 with h4
      subst h4
      rw [hkk] at h5
      injection h5 with h5
      subst h5
      have hA2 : A2 = ⟨wroteX X ep nx.toNat (makeR newId 30 :: dataRs newId 0 zs), nx + 1 + (pcs zs.length : Int), putU (makeU us newU) kk newU zs (pcs zs.length), 0⟩ := by
        rw [← h2, hA1]
        dsimp only
        rw [he2]
        have e9 : (nx + 1).toNat = nx.toNat + 1 := by have := h.ok.nums; omega
        rw [e9]
        rfl
      have hgood : ∀ r ∈ makeR newId 30 :: dataRs newId 0 zs, idB r.id.data.toList = true ∧ kindB r.k r.n r.zs.length = true ∧ ∀ x ∈ r.zs, 0 ≤ x ∧ x ≤ 255 := by
        intro r hr
        rcases List.mem_cons.1 hr with rfl | hr
        · exact hgm
        · exact dataRs_ok hid (by omega) (by omega) hb r hr
      have hfold : (makeR newId 30 :: dataRs newId 0 zs).foldlM oneU us = some (putU (makeU us newU) kk newU zs (pcs zs.length)) := by rw [List.foldlM_cons, hone]; exact hf2
      have hll : nx + ((makeR newId 30 :: dataRs newId 0 zs).length : Int) ≤ (X.length : Int) := by
        rw [List.length_cons, dataRs_len]
        rw [wroteX_len] at h9
        omega
      rw [hA2]
      refine ⟨(wrote_ok h.ok hgood hll hfold).1, ?_⟩
      obtain ⟨j, hj, usj, huj, e, n, ho⟩ := dur h hk hgood hll hfold ks
      refine ⟨e, n, usj, ho, ?_⟩
      have hfin : (putU (makeU us newU) kk newU zs (pcs zs.length)).length = us.length + 1 := by rw [putU, List.length_set, makeU_len]
      cases j with
      | zero =>
        obtain rfl : us = usj := by simpa using huj
        exact lasts_nothing ha hids (by dsimp only; omega)
      | succ i =>
        rw [List.take_succ_cons, List.foldlM_cons, hone] at huj
        have hi2 : i ≤ pcs zs.length := by rw [List.length_cons, dataRs_len] at hj; omega
        have huj2 : ((dataRs newId 0 zs).take i).foldlM oneU (makeU us newU) = some usj := huj
        rw [dataRs_take _ _ _ hi2, put_fold (off := 0) e1 hkk rfl rfl h8 i hi2] at huj2
        injection huj2 with huj2
        rw [← huj2]
        refine lasts_some hz ha ha1 hids hkk i ?_ (by dsimp only; omega)
        rw [hz] at hi2
        exact hi2
    · have hA2 : A2 = ⟨A1.X, A1.nx, A1.us, A2.c⟩ := by
        have := putA_no (X := A1.X) (Y := X) (ep := ep) (nx := A1.nx) (us := A1.us) (id := newId) (off := 0) (zs := zs) (by rw [h2]; exact hc2)
        rw [h2] at this
        exact this
      have hgood : ∀ r ∈ [makeR newId 30], idB r.id.data.toList = true ∧ kindB r.k r.n r.zs.length = true ∧ ∀ x ∈ r.zs, 0 ≤ x ∧ x ≤ 255 := fun r hr => by rw [List.mem_singleton.1 hr]; exact hgm
      have eX : A2.X = wroteX X ep nx.toNat [makeR newId 30] := by rw [hA2, hA1]
      have eU : A2.us = makeU us newU := by rw [hA2, hA1]
      rw [eX, eU]
      refine ⟨(wrote_ok h.ok hgood hl hf).1, ?_⟩
      obtain ⟨j, hj, usj, huj, e, n, ho⟩ := dur h hk hgood hl hf ks
      refine ⟨e, n, usj, ho, ?_⟩
      have hfin : (makeU us newU).length = us.length + 1 := makeU_len _ _
      cases j with
      | zero =>
        obtain rfl : us = usj := by simpa using huj
        exact lasts_nothing ha hids (by omega)
      | succ i =>
        have hi0 : i = 0 := by simp at hj; omega
        subst hi0
        rw [List.take_succ_cons, List.foldlM_cons, hone] at huj
        obtain rfl : makeU us newU = usj := by simpa using huj
        have := lasts_some (us2 := makeU us newU) hz ha ha1 hids hkk 0 (by omega) hfin
        rw [putU_zero hkk] at this
        exact this
  · have hA1 : A1 = ⟨X, nx, us, A1.c⟩ := by
      have := makeA_no (X := X) (Y := X) (ep := ep) (nx := nx) (us := us) (id := newId) (want := 30) (by rw [h1]; exact hc)
      rw [h1] at this
      exact this
    have hat : atU us newId = none := atU_none (fun p hp => hids _ (List.getElem_mem hp))
    have hc2 : A2.c ≠ 0 := fun hc2 => by
      have hc2' : (putA A1.X X ep A1.nx A1.us newId 0 zs).c = 0 := by rw [h2]; exact hc2
      obtain ⟨_, _, _, k2, u2, h4, _⟩ := putA_yes hc2'
      rw [hA1] at h4
      dsimp only at h4
      rw [hat] at h4
      cases h4
    have hA2 : A2 = ⟨A1.X, A1.nx, A1.us, A2.c⟩ := by
      have := putA_no (X := A1.X) (Y := X) (ep := ep) (nx := A1.nx) (us := A1.us) (id := newId) (off := 0) (zs := zs) (by rw [h2]; exact hc2)
      rw [h2] at this
      exact this
    have eX : A2.X = wroteX X ep nx.toNat [] := by rw [hA2, hA1]; rfl
    have eU : A2.us = us := by rw [hA2, hA1]
    rw [eX, eU]
    refine ⟨h.ok.1, ?_⟩
    obtain ⟨j, hj, usj, huj, e, n, ho⟩ := dur (rs := []) h hk (by simp) (by have := h.ok.nums; simp; omega) rfl ks
    refine ⟨e, n, usj, ho, ?_⟩
    obtain rfl : us = usj := by simpa using huj
    exact lasts_nothing ha hids (Nat.le_refl _)

end Go.Proofs.YtiigdcpjelbdjaaGreatDoor

namespace Go.Proofs.YtiigdcpjelbdjaaGreatDoor
open Go.RowKit
set_option linter.unusedVariables false

theorem run_append_src {P : Program} (w : World) (base : Nat) (t ty e : TypeId) (i : TypeInfo) (z : Value) (size bytes : Nat) (ht : P.underlying t = some (.slice e)) (hi : P.info? e = some i) (hz : i.zero = some z)
    (hsize : i.size = size) (hby : i.bytes = bytes) (hzs : z.cells.size = size) (hsz : 0 < size)
    (g n cap : Nat) (xs : List Value) (hown : w.ownsRow base e size (.slice (some ⟨g, 0, none⟩) n cap) n xs)
    (src : Option Addr) (m c : Nat) (news : List Value) (hnone : src = none → m = 0) (hl : news.length = m * size) (hnews : ∀ ad, src = some ad → ∀ j u, news[j]? = some u → w.cell? (ad.add j) = some u) (h1 : ∀ u ∈ news, u.oneCell' = true)
    (h63 : n + m ≤ maxLen) (hbytes : (n + m) * bytes ≤ 140737488355328) (hbase : base ≤ w.heap.size) :
    ∃ v' w', (Builtin.append_ #[t, t] ty #[.slice (some ⟨g, 0, none⟩) n cap, .slice src m c]).run P w = .ok v' w' ∧ w'.ownsRow base e size v' (n + m) (xs ++ news) ∧ w.grownBy w' (some g) := by
  cases src with
  | some ad =>
    obtain ⟨v', w', hr, r1, r2, _⟩ := run_append_own (P := P) w base t ty e i z size bytes ht hi hz hsize hby hzs hsz (.slice (some ⟨g, 0, none⟩) n cap) n xs hown ad m c news hl (hnews ad rfl) h1 h63 hbytes hbase
    exact ⟨v', w', hr, r1, r2⟩
  | none =>
    obtain rfl := hnone rfl
    obtain rfl : news = [] := List.eq_nil_of_length_eq_zero (by simpa using hl)
    have hcap : n ≤ cap := by
      rcases hown.2 with ⟨h, _⟩ | ⟨g', cap', cur, h, _, _, hc, _⟩
      · cases h
      · injection h with _ _ h3
        omega
    have hr := run_append_room_src (P := P) w t t ty e i ht hi g 0 n cap (.slice none 0 c) 0 [] (Src.ofNil w ht c) (by omega) (by intro j hj; simp at hj) (by intro j hj; simp at hj)
    refine ⟨_, _, hr, ?_, ?_⟩
    · rw [List.append_nil]
      exact hown
    · exact ⟨rfl, rfl, rfl, Nat.le_refl _, fun _ _ _ => rfl⟩

theorem wp_append_src {P : Program} {o : Oper} {a : Act} {w : World} {K : Act → World → Prop} {Q : Exit → Act → World → Prop} (s x : Operand) (t : TypeId)
    (ho : o.op = .call { callee := .builtin .append, args := #[s, x], argTypes := #[t, t] })
    (base : Nat) (e : TypeId) (i : TypeInfo) (z : Value) (size bytes : Nat) (ht : P.underlying t = some (.slice e)) (hi : P.info? e = some i) (hz : i.zero = some z)
    (hsize : i.size = size) (hby : i.bytes = bytes) (hzs : z.cells.size = size) (hsz : 0 < size)
    (g n cap : Nat) (xs : List Value) (hs : a.eval s = .slice (some ⟨g, 0, none⟩) n cap) (hown : w.ownsRow base e size (.slice (some ⟨g, 0, none⟩) n cap) n xs)
    (src : Option Addr) (m c : Nat) (news : List Value) (hx : a.eval x = .slice src m c) (hnone : src = none → m = 0) (hl : news.length = m * size) (hnews : ∀ ad, src = some ad → ∀ j u, news[j]? = some u → w.cell? (ad.add j) = some u) (h1 : ∀ u ∈ news, u.oneCell' = true)
    (h63 : n + m ≤ maxLen) (hbytes : (n + m) * bytes ≤ 140737488355328) (hbase : base ≤ w.heap.size)
    (h : ∀ v' w', w'.ownsRow base e size v' (n + m) (xs ++ news) → w.grownBy w' (some g) → K (a.put o.dst v') w') : o.wp P a w K Q := by
  obtain ⟨v', w', hr, h2, h3⟩ := run_append_src (P := P) w base t o.type e i z size bytes ht hi hz hsize hby hzs hsz g n cap xs hown src m c news hnone hl hnews h1 h63 hbytes hbase
  unfold Oper.wp execOp
  simp only [ho, resolve, invoke, builtin, Sem.run_bind, Sem.run_pure, Result.andThen_ok, List.map_toArray, List.map_cons, List.map_nil, hs, hx, hr]
  exact h v' w' h2 h3

theorem step_append_src {P : Program} {ops : Array Oper} {o : Oper} {a : Act} {w : World} {K : Act → World → Prop} {Q : Exit → Act → World → Prop} {E : Prop} (hg : o.guard = none) (s x : Operand) (t : TypeId)
    (ho : o.op = .call { callee := .builtin .append, args := #[s, x], argTypes := #[t, t] })
    (base : Nat) (e : TypeId) (i : TypeInfo) (z : Value) (size bytes : Nat) (ht : P.underlying t = some (.slice e)) (hi : P.info? e = some i) (hz : i.zero = some z)
    (hsize : i.size = size) (hby : i.bytes = bytes) (hzs : z.cells.size = size) (hsz : 0 < size)
    (g n cap : Nat) (xs : List Value) (hs : a.eval s = .slice (some ⟨g, 0, none⟩) n cap) (hown : w.ownsRow base e size (.slice (some ⟨g, 0, none⟩) n cap) n xs)
    (src : Option Addr) (m c : Nat) (news : List Value) (hx : a.eval x = .slice src m c) (hnone : src = none → m = 0) (hl : news.length = m * size) (hnews : ∀ ad, src = some ad → ∀ j u, news[j]? = some u → w.cell? (ad.add j) = some u) (h1 : ∀ u ∈ news, u.oneCell' = true)
    (h63 : n + m ≤ maxLen) (hbytes : (n + m) * bytes ≤ 140737488355328) (hbase : base ≤ w.heap.size)
    (h : ∀ v' w', w'.ownsRow base e size v' (n + m) (xs ++ news) → w.grownBy w' (some g) → K (a.put o.dst v') w') :
    if Region.wanted o (yielded ops a.tmps) = true then Oper.wp P o a w K Q else E := by
  have hw : Region.wanted o (yielded ops a.tmps) = true := by simp [Region.wanted, hg]
  rw [if_pos hw]
  exact wp_append_src s x t ho base e i z size bytes ht hi hz hsize hby hzs hsz g n cap xs hs hown src m c news hx hnone hl hnews h1 h63 hbytes hbase h

theorem step_call_any {P : Program} {ops : Array Oper} {o : Oper} {a : Act} {w : World} {K : Act → World → Prop} {Q : Exit → Act → World → Prop} {E : Prop}
    (hg : o.guard = none) (f : FuncId) (x : Operand) (t : TypeId) (ho : o.op = .call { callee := .value (.func f), args := #[x], argTypes := #[t] })
    (hent : ∀ args w, (callFunc f args).run P w = .ok (.enter f args) w) (u : Value) (hx : a.eval x = u) (R : Ending → World → Prop)
    (hc : Calls P f #[u] w R) (h : ∀ e w', R e w' → ∃ v, e = .returned v ∧ K (a.put o.dst v) w') :
    if Region.wanted o (yielded ops a.tmps) = true then Oper.wp P o a w K Q else E := by
  have hw : Region.wanted o (yielded ops a.tmps) = true := by simp [Region.wanted, hg]
  rw [if_pos hw]
  have hf : a.eval (.func f) = .func (.func f) #[] #[] := rfl
  unfold Oper.wp
  simp [execOp, ho, resolve, invoke, Deferred.ofValue, hent, hf, hx, Oper.upon_enter]
  refine hc.mono ?_
  intro e w' hr
  obtain ⟨v, rfl, hk⟩ := h e w' hr
  exact hk

end Go.Proofs.YtiigdcpjelbdjaaGreatDoor

namespace Go.Proofs.YtiigdcpjelbdjaaGreatDoor
open Go.RowKit
set_option linter.unusedVariables false

theorem cloneRow_shape {w : World} {base n : Nat} {v : Value} {xs : List Value} (h : w.ownsRow base 9 1 v n xs) : ∃ a cap, v = .slice a n cap := by
  rcases h.2 with ⟨rfl, rfl⟩ | ⟨g, cap, cur, rfl, _⟩
  · exact ⟨_, _, rfl⟩
  · exact ⟨_, _, rfl⟩

set_option maxRecDepth 10000 in
set_option maxHeartbeats 400000 in
theorem cloneS_any (a : Option Addr) (len cap : Nat) (l : List ByteArray) (w : World) (hs : Strs w a len l) (hl : len ≤ 2097152) :
    Calls Tryz.prog 51 #[.slice a len cap] w fun e w' => (∃ a' cap', e = .returned (.slice a' len cap') ∧ OwnSt w' w.heap.size (.slice a' len cap') len l) ∧ Below w.heap.size w w' := by
  obtain ⟨i0, hi, hz0, hz1, hz2⟩ := info_parts info_string
  have qT : ∀ (w : World) (a : Option Addr) (n c n' c' : Nat), (binOp .eql 24 (.slice a n c) (.slice none n' c')).run Tryz.prog w = .ok (.bool a.isNone) w := fun w a n c n' c' => Lib.run_eql_slice_nil w _ _ a n c n' c' Tryz.underlying24
  cases a with
  | none =>
    have h0 := hs.none_nil rfl
    subst h0
    obtain rfl : l = [] := List.eq_nil_of_length_eq_zero hs.1
    go_enter Tryz.func51, Tryz.ntmps51
    go_wp2
    go_ret
    exact ⟨⟨none, 0, rfl, ⟨World.ownsRow_nil _ _ _ _, by simp⟩⟩, Below.refl _ _⟩
  | some ad =>
    have hzl : l.length = len := hs.1
    have HR : Hid (∀ x ∈ l, x.size ≤ maxLen) := hs.2.1
    have HS1 : Hid (Strs (w.alloc (.cells #[] 9)) (some ad) len l) := hs.below ((Below.refl _ _).alloc (Nat.le_refl _) _)
    have HO1 : Hid ((w.alloc (.cells #[] 9)).ownsRow w.heap.size 9 1 (.slice (some ⟨w.heap.size, 0, none⟩) 0 0) 0 []) := World.ownsRow_lit w #[] 0 (Nat.le_refl _) (Nat.zero_le _) rfl
    clear hs
    go_enter Tryz.func51, Tryz.ntmps51
    go_wp2_with (at_builtin; refine wpList_append_own _ rfl _ _ 24 rfl w.heap.size 9 i0 (.string ⟨#[]⟩) 1 16 Tryz.underlying24 hi hz0 hz1 hz2 rfl (by decide) (.slice (some ⟨w.heap.size, 0, none⟩) 0 0) 0 [] rfl HO1.out ad len cap (scells l) rfl (by rw [scells_len, hzl, Nat.mul_one]) (HS1.out.cells ad rfl) (scells_one l) (by unfold maxLen; omega) (by omega) (by simp) ?_; intro v1 w1 hown1 hgrow1 _; refine Hid.out ?_)
    refine hidden ?_
    have HB1 : Hid (Below w.heap.size w w1) := ((Below.refl _ _).alloc (Nat.le_refl _) _).grown hgrow1 (by simp) (by simp [Value.ownBlock])
    obtain ⟨a1, c1, rfl⟩ := cloneRow_shape hown1
    have HO2 : Hid (w1.ownsRow w.heap.size 9 1 (.slice a1 len c1) len (scells l)) := by
      show World.ownsRow _ _ _ _ _ _ _
      have h := hown1
      rw [Nat.zero_add] at h
      simpa using h
    have hll : 0 + len = len := Nat.zero_add _
    rw [hll]
    clear hown1 hgrow1
    go_wp2_with fail
    go_ret
    exact ⟨⟨_, _, rfl, ⟨HO2.out, HR.out⟩⟩, HB1.out⟩

end Go.Proofs.YtiigdcpjelbdjaaGreatDoor
