/- What the specification's StoreNew answers. A drawn store. For codes of at most 2^40 bytes. A drawn store that may be bent. For codes of at most 2^40 bytes. A store that may be bent, in a variable of a draw that has its own cursor. No statement of the program in it but how great what is drawn may become. A drawn name. For codes of at most 2^40 bytes. What the specification's l1Text answers: the digits of a number. The draw of a store, a name and a length. For codes of at most 2^40 bytes. -/
import Derived.Test.YtjaihnmhojabfaaGreatDoorM05
import Derived.Test.YtjaihnmhojabfaaGreatDoorM24
import Derived.Test.YtjaihnmhojabfaaGreatDoorM09
import Derived.Test.YtjaihnmhojabfaaGreatDoorM01
import Derived.WalkKit
import Derived.WalkSpells
import Derived.WalkLawsBesides
import Derived.Deep.QuietTactic
import Derived.Deep.RegionWith
import Derived.Deep.DrawnRows
import Derived.Lib.ItoaMem
namespace Go.Proofs.YtjaihnmhojabfaaGreatDoor
open Go.RowKit
set_option linter.unusedVariables false

set_option maxRecDepth 10000 in
set_option maxHeartbeats 1600000 in
theorem specStoreNew_any (n : Int) (w : World) :
    Calls Tryz.prog 31 #[.int .i64 n] w fun e w' => (∃ v, e = .returned v ∧ AnsS w.heap.size (List.replicate (newN n) ⟨#[]⟩) (List.replicate (newN n) ⟨#[]⟩) 0 0 [] v w') ∧ Below w.heap.size w w' := by
  obtain ⟨w0, hw0⟩ : ∃ w0, w.alloc (.cells #[.slice none 0 0, .slice none 0 0, .int .i64 0, .int .i64 0, .slice none 0 0] 29) = w0 := ⟨_, rfl⟩
  have HE : Hid (w.alloc (.cells #[.slice none 0 0, .slice none 0 0, .int .i64 0, .int .i64 0, .slice none 0 0] 29) = w0) := hw0
  have HB : Hid (Below w.heap.size w w0) := by show Below _ _ _; rw [← hw0]; exact (Below.refl _ _).alloc (Nat.le_refl _) _
  have HR : Hid (BoxN w0 w.heap.size 29 [.slice none 0 0, .slice none 0 0, .int .i64 0, .int .i64 0, .slice none 0 0]) := by show BoxN _ _ _ _; rw [← hw0]; exact BoxN.new _ _ _
  have hlt : w.heap.size < w0.heap.size := HR.out.lt
  clear hw0
  have HC : Hid (Calls Tryz.prog 72 #[.int .i64 n] w0 fun e w' => (∃ v, e = .returned v ∧ AnsD w0.heap.size (List.replicate (newN n) ⟨#[]⟩) (List.replicate (newN n) ⟨#[]⟩) v w') ∧ Below w0.heap.size w0 w') := specDnew_any n w0
  obtain ⟨RX, hRX⟩ : ∃ RX : List ByteArray, List.replicate (newN n) ⟨#[]⟩ = RX := ⟨_, rfl⟩
  rw [hRX] at HC ⊢
  obtain ⟨M, hM⟩ : ∃ M, RX.length = M := ⟨_, rfl⟩
  unfold AnsD at HC
  rw [hM] at HC
  clear hRX hM
  go_enter Tryz.func31, Tryz.ntmps31
  go_upto_region 1 with fail
  rw [HE.out]
  clear HE
  go_wp2_with fail
  refine HC.out.mono ?_
  rintro e x ⟨⟨v, rfl, A, C, A', C', rfl, o1, o2, hap⟩, hb⟩
  have HB1 : Hid (Below w.heap.size w x) := HB.out.trans (hb.mono HB.out.size)
  have HS : Hid (StoAt x w0.heap.size A M C RX A' M C' RX none 0 0 []) := ⟨o1, o2, hap, ⟨⟨rfl, .inl ⟨rfl, rfl⟩⟩, by simp, by simp⟩, rfl⟩
  have hR := HR.out.stays hb
  clear o1 o2 hap hb HC HB HR
  have a0 := hR.cell 0 rfl
  have a1 := hR.cell 1 rfl
  have a2 := hR.cell 2 rfl
  have a3 := hR.cell 3 rfl
  have a4 := hR.cell 4 rfl
  have e0 := hR.frozen 0
  have e1 := hR.frozen 1
  have e2 := hR.frozen 2
  have e3 := hR.frozen 3
  have e4 := hR.frozen 4
  go_wp2_with fail
  refine bodyPost_ret (v := .agg #[.slice A M C, .slice A' M C', .int .i64 0, .int .i64 0, .slice none 0 0]) (by simp [results, Tryz.f31, go_sem, a0, a1, a2, a3, a4]) rfl ?_
  refine ⟨⟨_, rfl, A, M, C, A', M, C', none, 0, 0, [], rfl, ?_, rfl⟩, ?_⟩
  · exact (((((HS.out.setLow (by omega) _).setLow (by omega) _).setLow (by omega) _).setLow (by omega) _).setLow (by omega) _).low (by omega)
  · exact ((((HB1.out.setCell (by dsimp only; omega) _).setCell (by dsimp only; omega) _).setCell (by dsimp only; omega) _).setCell (by dsimp only; omega) _).setCell (by dsimp only; omega) _

end Go.Proofs.YtjaihnmhojabfaaGreatDoor

namespace Go.Proofs.YtjaihnmhojabfaaGreatDoor
open Go.RowKit
set_option linter.unusedVariables false

/-- A store in a variable b of a draw's, beside the answer's. -/
structure DSu (w W : World) (B c : Nat) (a : Option Addr) (len cap : Nat) (zs : List Int) (b : Nat) (k : Int) (A : Option Addr) (n C : Nat) (X : List ByteArray) (A' : Option Addr) (n' C' : Nat) (Y : List ByteArray) (ep nx : Int) (ua : Option Addr) (un uc : Nat) (l : List UE) : Prop where
  box : BoxN W b 29 [.slice A n C, .slice A' n' C', .int .i64 ep, .int .i64 nx, .slice ua un uc]
  zero : BoxN W w.heap.size 29 [.slice none 0 0, .slice none 0 0, .int .i64 0, .int .i64 0, .slice none 0 0]
  sto : StoAt W (w.heap.size + 1) A n C X A' n' C' Y ua un uc l
  cur : Cur W B c a len cap zs
  grown : w.grownBy W (some c)
  sg : SG k X Y ep nx (l.map UE.u)
  clo : c < w.heap.size
  low : w.heap.size < b

section
variable {w W W' : World} {B c : Nat} {a : Option Addr} {len cap : Nat} {zs : List Int} {b : Nat} {k : Int} {A : Option Addr} {n C : Nat} {X : List ByteArray} {A' : Option Addr} {n' C' : Nat} {Y : List ByteArray} {ep nx : Int} {ua : Option Addr} {un uc : Nat} {l : List UE}

theorem DSu.call (h : DSu w W B c a len cap zs b k A n C X A' n' C' Y ep nx ua un uc l) (hc : Cur W' B c a len cap zs) (hg : W.grownBy W' (some c)) : DSu w W' B c a len cap zs b k A n C X A' n' C' Y ep nx ua un uc l := by
  have h1 := h.clo
  have h2 := h.low
  exact ⟨h.box.grown hg (fun e => by injection e with e; omega), h.zero.grown hg (fun e => by injection e with e; omega), h.sto.moved hg (by omega), hc, gtrans h.grown hg, h.sg, h.clo, h.low⟩

theorem DSu.put (h : DSu w W B c a len cap zs b k A n C X A' n' C' Y ep nx ua un uc l) {A2 : Option Addr} {n2 C2 : Nat} {X2 : List ByteArray} {A2' : Option Addr} {n2' C2' : Nat} {Y2 : List ByteArray} {ep2 nx2 : Int} {ua2 : Option Addr} {un2 uc2 : Nat} {l2 : List UE} {k2 : Int} (hs : StoAt W (w.heap.size + 1) A2 n2 C2 X2 A2' n2' C2' Y2 ua2 un2 uc2 l2) (hsg : SG k2 X2 Y2 ep2 nx2 (l2.map UE.u)) :
    DSu w (((((W.setCell ⟨b, 0, none⟩ (.slice A2 n2 C2)).setCell ⟨b, 1, none⟩ (.slice A2' n2' C2')).setCell ⟨b, 2, none⟩ (.int .i64 ep2)).setCell ⟨b, 3, none⟩ (.int .i64 nx2)).setCell ⟨b, 4, none⟩ (.slice ua2 un2 uc2)) B c a len cap zs b k2 A2 n2 C2 X2 A2' n2' C2' Y2 ep2 nx2 ua2 un2 uc2 l2 := by
  have h1 := h.clo
  have h2 := h.low
  have b0 := h.box
  have b1 := b0.set 0 (.slice A2 n2 C2)
  have b2 := b1.set 1 (.slice A2' n2' C2')
  have b3 := b2.set 2 (.int .i64 ep2)
  have b4 := b3.set 3 (.int .i64 nx2)
  have b5 := b4.set 4 (.slice ua2 un2 uc2)
  refine ⟨b5, ((((h.zero.other (by omega) _).other (by omega) _).other (by omega) _).other (by omega) _).other (by omega) _, ((((hs.setBox b0 _).setBox b1 _).setBox b2 _).setBox b3 _).setBox b4 _, ((((h.cur.put (by omega) _).put (by omega) _).put (by omega) _).put (by omega) _).put (by omega) _, gput (gput (gput (gput (gput h.grown (by omega) _) (by omega) _) (by omega) _) (by omega) _) (by omega) _, hsg, h1, h2⟩

theorem DSu.done (h : DSu w W B c a len cap zs b k A n C X A' n' C' Y ep nx ua un uc l) :
    DrawnS w.heap.size k (.agg #[.slice A n C, .slice A' n' C', .int .i64 ep, .int .i64 nx, .slice ua un uc]) (((((W.setCell ⟨w.heap.size, 0, none⟩ (.slice A n C)).setCell ⟨w.heap.size, 1, none⟩ (.slice A' n' C')).setCell ⟨w.heap.size, 2, none⟩ (.int .i64 ep)).setCell ⟨w.heap.size, 3, none⟩ (.int .i64 nx)).setCell ⟨w.heap.size, 4, none⟩ (.slice ua un uc)) ∧ Cur (((((W.setCell ⟨w.heap.size, 0, none⟩ (.slice A n C)).setCell ⟨w.heap.size, 1, none⟩ (.slice A' n' C')).setCell ⟨w.heap.size, 2, none⟩ (.int .i64 ep)).setCell ⟨w.heap.size, 3, none⟩ (.int .i64 nx)).setCell ⟨w.heap.size, 4, none⟩ (.slice ua un uc)) B c a len cap zs ∧ w.grownBy (((((W.setCell ⟨w.heap.size, 0, none⟩ (.slice A n C)).setCell ⟨w.heap.size, 1, none⟩ (.slice A' n' C')).setCell ⟨w.heap.size, 2, none⟩ (.int .i64 ep)).setCell ⟨w.heap.size, 3, none⟩ (.int .i64 nx)).setCell ⟨w.heap.size, 4, none⟩ (.slice ua un uc)) (some c) := by
  have h1 := h.clo
  have h2 := h.low
  have b0 := h.zero
  have b1 := b0.set 0 (.slice A n C)
  have b2 := b1.set 1 (.slice A' n' C')
  have b3 := b2.set 2 (.int .i64 ep)
  have b4 := b3.set 3 (.int .i64 nx)
  refine ⟨⟨X, Y, ep, nx, l.map UE.u, ⟨A, n, C, A', n', C', ua, un, uc, l, rfl, (((((h.sto.setBox b0 _).setBox b1 _).setBox b2 _).setBox b3 _).setBox b4 _).low (by omega), rfl⟩, h.sg⟩, ((((h.cur.put (by omega) _).put (by omega) _).put (by omega) _).put (by omega) _).put (by omega) _, gput (gput (gput (gput (gput h.grown (by omega) _) (by omega) _) (by omega) _) (by omega) _) (by omega) _⟩
end

set_option maxRecDepth 10000 in
set_option maxHeartbeats 3200000 in
theorem l14Draw_any (B c : Nat) (a : Option Addr) (len cap : Nat) (zs : List Int) (most : Nat) (w : World) (hcur : Cur w B c a len cap zs) (hl : len ≤ 1099511627776) (hm1 : 1 ≤ most) (hm2 : most ≤ 1000) :
    Calls Tryz.prog 61 #[.pointer (some ⟨c, 0, none⟩), .int .i64 (most : Int)] w fun e w' => (∃ v, e = .returned v ∧ DrawnS w.heap.size (most : Int) v w') ∧ Cur w' B c a len cap zs ∧ w.grownBy w' (some c) := by
  have HC : Hid (Cur w B c a len cap zs) := hcur
  clear hcur
  have hcw : c < w.heap.size := HC.out.lt
  obtain ⟨w1, hw1⟩ : ∃ w1, w.alloc (.cells #[.slice none 0 0, .slice none 0 0, .int .i64 0, .int .i64 0, .slice none 0 0] 29) = w1 := ⟨_, rfl⟩
  have HE : Hid (w.alloc (.cells #[.slice none 0 0, .slice none 0 0, .int .i64 0, .int .i64 0, .slice none 0 0] 29) = w1) := hw1
  have HZ1 : Hid (BoxN w1 w.heap.size 29 [.slice none 0 0, .slice none 0 0, .int .i64 0, .int .i64 0, .slice none 0 0]) := by show BoxN _ _ _ _; rw [← hw1]; exact BoxN.new _ _ _
  have HC1 : Hid (Cur w1 B c a len cap zs) := by show Cur _ _ _ _ _ _ _; rw [← hw1]; exact HC.out.new _
  have HG1 : Hid (w.grownBy w1 (some c)) := by show World.grownBy _ _ _; rw [← hw1]; exact World.grownBy_alloc w _ _
  clear hw1 HC
  go_enter Tryz.func61, Tryz.ntmps61
  go_upto_region 1 with fail
  rw [HE.out]
  clear HE
  have hs1 : w.heap.size < w1.heap.size := HZ1.out.lt
  go_wp2_with fail
  refine (l1Int_any B c a len cap zs w1.heap.size 4 4 [30, 30, 8, 0] _ (HC1.out.new _) hl (heap_alloc_new w1 _) (by omega) rfl (by omega) (by omega)).mono ?_
  rintro e w2 ⟨x, rfl, hx, hc2, hg2⟩
  have hN : newN x ≤ 200 := by
    have hx6 : x ≤ 30 := by
      simp only [List.mem_cons, List.not_mem_nil, or_false] at hx
      omega
    rw [newN]
    split <;> omega
  have hg12 : w1.grownBy w2 (some c) := gtrans (World.grownBy_alloc w1 _ _) hg2
  have HSg : Hid (SG 0 (List.replicate (newN x) ⟨#[]⟩) (List.replicate (newN x) ⟨#[]⟩) 0 0 []) := SG.new _ hN
  have HC2 : Hid (Cur w2 B c a len cap zs) := hc2
  have HG2 : Hid (w.grownBy w2 (some c)) := gtrans HG1.out hg12
  have HZ2 : Hid (BoxN w2 w.heap.size 29 [.slice none 0 0, .slice none 0 0, .int .i64 0, .int .i64 0, .slice none 0 0]) := HZ1.out.grown hg12 (fun e => by injection e with e; omega)
  clear hx hN hc2 hg2 hg12 HC1 HG1 HZ1 hs1
  go_wp2_with fail
  refine (specStoreNew_any x w2).mono ?_
  rintro e w3 ⟨⟨v, rfl, hans⟩, hb3⟩
  obtain ⟨A, C, A', C', ua, uc, l, rfl, hs3, hm3⟩ := hans.get
  obtain ⟨X0, hX0⟩ : ∃ X0, List.replicate (newN x) (⟨#[]⟩ : ByteArray) = X0 := ⟨_, rfl⟩
  rw [hX0] at HSg hs3 ⊢
  rw [← hm3] at HSg
  have HD3 : Hid (DSu w (w3.alloc (.cells #[.slice A X0.length C, .slice A' X0.length C', .int .i64 0, .int .i64 0, .slice ua ([] : List U).length uc] 29)) B c a len cap zs w3.heap.size 0 A X0.length C X0 A' X0.length C' X0 0 0 ua ([] : List U).length uc l) := by
    have h2 := HZ2.out.lt
    have hb4 : Below w3.heap.size w3 (w3.alloc (.cells #[.slice A X0.length C, .slice A' X0.length C', .int .i64 0, .int .i64 0, .slice ua ([] : List U).length uc] 29)) := (Below.refl _ _).alloc (Nat.le_refl _) _
    exact ⟨BoxN.new _ _ _, (HZ2.out.stays hb3).stays hb4, (hs3.stays hb4).low h2, (HC2.out.kept (gbelow hb3 none) (by simp)).new _, gnew (gtrans HG2.out (gbelow hb3 _)) _, HSg.out, hcw, Nat.lt_of_lt_of_le h2 hb3.size⟩
  clear hans hs3 hm3 hb3 HC2 HG2 HZ2 HSg hX0
  go_wp2_with fail
  obtain ⟨w4, hw4⟩ : ∃ w4, w3.alloc (.cells #[.slice A X0.length C, .slice A' X0.length C', .int .i64 0, .int .i64 0, .slice ua ([] : List U).length uc] 29) = w4 := ⟨_, rfl⟩
  simp only [List.length_nil] at hw4
  simp only [List.length_nil] at HD3
  rw [hw4] at HD3 ⊢
  clear hw4
  generalize w3.heap.size = b at *
  refine (l1Below_any B c a len cap zs (most : Int) w4 HD3.out.cur hl (by omega) (by omega)).mono ?_
  rintro e w5 ⟨m, rfl, hm0, hmm, hc5, hg5⟩
  obtain ⟨M, rfl⟩ := Int.eq_ofNat_of_zero_le hm0
  have HD5 : Hid (DSu w w5 B c a len cap zs b 0 A X0.length C X0 A' X0.length C' X0 0 0 ua 0 uc l) := HD3.out.call hc5 hg5
  clear hc5 hg5 HD3
  go_wp2_with fail
  go_loopw [6] (fun v wr => ∃ (j : Nat) (K : Int) (A : Option Addr) (n C : Nat) (X : List ByteArray) (A' : Option Addr) (n' C' : Nat) (Y : List ByteArray) (ep nx : Int) (ua : Option Addr) (un uc : Nat) (l : List UE), v = .int .i64 (j : Int) ∧ j ≤ M ∧ Hid (K + (j : Int) ≤ (M : Int)) ∧ Hid (DSu w wr B c a len cap zs b K A n C X A' n' C' Y ep nx ua un uc l)) (fun v _ => (intOf v).toNat)
  case atStart => exact ⟨M, 0, A, X0.length, C, X0, A', X0.length, C', X0, 0, 0, ua, 0, uc, l, rfl, Nat.le_refl _, by show _ ≤ _; omega, HD5⟩
  case round =>
    clear HD5
    obtain ⟨j, K, A, n, C, X, A', n', C', Y, ep, nx, ua, un, uc, l, rfl, hjM, HK, HD⟩ := hrel
    obtain ⟨c0, c1, c2, c3, c4⟩ := (show _ ∧ _ ∧ _ ∧ _ ∧ _ from ⟨HD.out.box.cell 0 rfl, HD.out.box.cell 1 rfl, HD.out.box.cell 2 rfl, HD.out.box.cell 3 rfl, HD.out.box.cell 4 rfl⟩)
    by_cases hj : j = 0
    · subst hj
      obtain ⟨r0, r1, r2, r3, r4⟩ := (show _ ∧ _ ∧ _ ∧ _ ∧ _ from ⟨HD.out.zero.cell 0 rfl, HD.out.zero.cell 1 rfl, HD.out.zero.cell 2 rfl, HD.out.zero.cell 3 rfl, HD.out.zero.cell 4 rfl⟩)
      obtain ⟨f0, f1, f2, f3, f4⟩ := (show _ ∧ _ ∧ _ ∧ _ ∧ _ from ⟨HD.out.zero.frozen 0, HD.out.zero.frozen 1, HD.out.zero.frozen 2, HD.out.zero.frozen 3, HD.out.zero.frozen 4⟩)
      have HR := (show Hid _ from HD.out.done)
      have HKm : Hid (K ≤ (most : Int)) := by show _ ≤ _; have := HK.out; omega
      clear HD
      go_wp2_with fail
      refine bodyPost_ret (v := .agg #[.slice A n C, .slice A' n' C', .int .i64 ep, .int .i64 nx, .slice ua un uc]) (by simp [results, Tryz.f61, go_sem, r0, r1, r2, r3, r4]) rfl ?_
      obtain ⟨X', Y', ep', nx', us', h1, h2⟩ := HR.out.1
      exact ⟨⟨_, rfl, X', Y', ep', nx', us', h1, h2.more HKm.out⟩, HR.out.2⟩
    · have hji : (0 : Int) < (j : Int) := by omega
      have hbl := HD.out.low
      have hbw : b < wr.heap.size := HD.out.box.lt
      go_wp2_with fail
      refine (l14Some_any B c a len cap zs (w.heap.size + 1) K A n C X A' n' C' Y ep nx ua un uc l wr HD.out.cur hl HD.out.sto HD.out.sg (by omega) (by omega)).mono ?_
      rintro e y ⟨⟨v, rfl, X2, Y2, ep2, nx2, us2, hans, hsg⟩, hc2, hg2⟩
      obtain ⟨A2, C2, A2', C2', ua2, uc2, l2, rfl, hs2, hm2⟩ := hans.get
      have hD2 := HD.out.call hc2 hg2
      obtain ⟨m0, m1, m2, m3, m4⟩ := (show _ ∧ _ ∧ _ ∧ _ ∧ _ from ⟨hD2.box.cell 0 rfl, hD2.box.cell 1 rfl, hD2.box.cell 2 rfl, hD2.box.cell 3 rfl, hD2.box.cell 4 rfl⟩)
      obtain ⟨f0, f1, f2, f3, f4⟩ := (show _ ∧ _ ∧ _ ∧ _ ∧ _ from ⟨hD2.box.frozen 0, hD2.box.frozen 1, hD2.box.frozen 2, hD2.box.frozen 3, hD2.box.frozen 4⟩)
      rw [← hm2] at hsg
      have HF : Hid (DSu w (((((y.setCell ⟨b, 0, none⟩ (.slice A2 X2.length C2)).setCell ⟨b, 1, none⟩ (.slice A2' Y2.length C2')).setCell ⟨b, 2, none⟩ (.int .i64 ep2)).setCell ⟨b, 3, none⟩ (.int .i64 nx2)).setCell ⟨b, 4, none⟩ (.slice ua2 us2.length uc2)) B c a len cap zs b (K + 1) A2 X2.length C2 X2 A2' Y2.length C2' Y2 ep2 nx2 ua2 us2.length uc2 l2) := hD2.put hs2 hsg
      have HK2 : Hid (K + 1 + ((j - 1 : Nat) : Int) ≤ (M : Int)) := by show _ ≤ _; have := HK.out; omega
      clear hans hs2 hm2 hsg hc2 hg2 hD2 HD HK c0 c1 c2 c3 c4
      go_wp2_with fail
      go_roundw
      case rel => exact ⟨j - 1, K + 1, _, _, _, _, _, _, _, _, _, _, _, _, _, _, by go_num, by omega, HK2, HF⟩
      case measure => simp [intOf]; omega

set_option maxRecDepth 10000 in
set_option maxHeartbeats 1600000 in
theorem l1Size_any (a : Option Addr) (len cap : Nat) (most : Int) (w : World) (hl : len ≤ 1099511627776) (h0 : 3 ≤ most) (h1 : most ≤ 1000) :
    Calls Tryz.prog 29 #[.slice a len cap, .int .i64 most] w fun e w' => (∃ n : Nat, e = .returned (.int .i64 (n : Int)) ∧ (n : Int) ≤ most) ∧ w' = w := by
  have hq : ((len : Int)).tdiv 12 = ((len / 12 : Nat) : Int) := by rw [Int.tdiv_eq_ediv_of_nonneg (by omega)]; omega
  obtain ⟨Q, hQ⟩ : ∃ Q, len / 12 = Q := ⟨_, rfl⟩
  rw [hQ] at hq
  have hQb : Q ≤ 1099511627776 := by omega
  clear hQ
  go_enter Tryz.func29, Tryz.ntmps29
  by_cases hm : most < 3 + (Q : Int)
  · obtain ⟨m, rfl⟩ := Int.eq_ofNat_of_zero_le (show 0 ≤ most by omega)
    go_wp2_with fail
    go_ret
    exact ⟨⟨m, rfl, Int.le_refl _⟩, rfl⟩
  · go_wp2_with fail
    go_ret
    exact ⟨⟨3 + Q, by congr 1, by omega⟩, rfl⟩

end Go.Proofs.YtjaihnmhojabfaaGreatDoor

namespace Go.Proofs.YtjaihnmhojabfaaGreatDoor
open Go.RowKit
set_option linter.unusedVariables false

theorem shape_ofA {w : World} {base n : Nat} {v : Value} {xs : List Value} (h : w.ownsRow base 36 4 v n xs) : ∃ a cap, v = .slice a n cap := by
  rcases h.2 with ⟨rfl, rfl⟩ | ⟨g, cap, cur, rfl, _⟩
  · exact ⟨_, _, rfl⟩
  · exact ⟨_, _, rfl⟩

/-- How great a store is that is drawn, bent or not. -/
def Bnd (X Y : List ByteArray) (ep nx : Int) (us : List U) : Prop := X.length ≤ 200 ∧ Y.length ≤ 200 ∧ (∀ x ∈ X, x.size ≤ 1048576) ∧ us.length ≤ 11 ∧ (∀ u ∈ us, u.zs.length ≤ 4800 ∧ 0 ≤ u.want ∧ u.want ≤ 1000000000) ∧ (-1 ≤ ep ∧ ep ≤ 10001) ∧ 0 ≤ nx ∧ nx ≤ 201

theorem SG.bnd {k : Int} {X Y : List ByteArray} {ep nx : Int} {us : List U} (h : SG k X Y ep nx us) : Bnd X Y ep nx us ∧ us.length ≤ 10 ∧ nx ≤ 200 := by
  obtain ⟨h1, h2, h3, h4⟩ := h.ok.nums
  have hd := okD_iff.1 h.ok.1
  have hf := (fold_small h.ok.1 h.ok.2.2.1)
  refine ⟨⟨h4, by omega, fun x hx => ?_, by omega, fun u hu => ⟨hf.2 u hu, h.ok.wants u hu⟩, by omega, h2, by omega⟩, hf.1, by omega⟩
  have := hd.2.2.1 x hx
  omega

structure DSb (w W : World) (B c : Nat) (a : Option Addr) (len cap : Nat) (zs : List Int) (b : Nat) (A : Option Addr) (n C : Nat) (X : List ByteArray) (A' : Option Addr) (n' C' : Nat) (Y : List ByteArray) (ep nx : Int) (ua : Option Addr) (un uc : Nat) (l : List UE) : Prop where
  box : BoxN W b 29 [.slice A n C, .slice A' n' C', .int .i64 ep, .int .i64 nx, .slice ua un uc]
  zero : BoxN W w.heap.size 29 [.slice none 0 0, .slice none 0 0, .int .i64 0, .int .i64 0, .slice none 0 0]
  sto : StoAt W (w.heap.size + 1) A n C X A' n' C' Y ua un uc l
  cur : Cur W B c a len cap zs
  grown : w.grownBy W (some c)
  bnd : Bnd X Y ep nx (l.map UE.u)
  clo : c < w.heap.size
  low : w.heap.size < b

/-- Some store that is drawn, bent or not. -/
def DrawnB (lo : Nat) (v : Value) (w' : World) : Prop := ∃ X Y ep nx us, AnsS lo X Y ep nx us v w' ∧ Bnd X Y ep nx us

section
variable {w W W' : World} {B c : Nat} {a : Option Addr} {len cap : Nat} {zs : List Int} {b : Nat} {A : Option Addr} {n C : Nat} {X : List ByteArray} {A' : Option Addr} {n' C' : Nat} {Y : List ByteArray} {ep nx : Int} {ua : Option Addr} {un uc : Nat} {l : List UE}

theorem DSb.call (h : DSb w W B c a len cap zs b A n C X A' n' C' Y ep nx ua un uc l) (hc : Cur W' B c a len cap zs) (hg : W.grownBy W' (some c)) : DSb w W' B c a len cap zs b A n C X A' n' C' Y ep nx ua un uc l := by
  have h1 := h.clo
  have h2 := h.low
  exact ⟨h.box.grown hg (fun e => by injection e with e; omega), h.zero.grown hg (fun e => by injection e with e; omega), h.sto.moved hg (by omega), hc, gtrans h.grown hg, h.bnd, h.clo, h.low⟩

theorem DSb.stays (h : DSb w W B c a len cap zs b A n C X A' n' C' Y ep nx ua un uc l) (hb : Below W.heap.size W W') : DSb w W' B c a len cap zs b A n C X A' n' C' Y ep nx ua un uc l :=
  ⟨h.box.stays hb, h.zero.stays hb, h.sto.stays hb, h.cur.kept (gbelow hb none) (by simp), gtrans h.grown (gbelow hb _), h.bnd, h.clo, h.low⟩

theorem DSb.new (h : DSb w W B c a len cap zs b A n C X A' n' C' Y ep nx ua un uc l) (o : Obj) : DSb w (W.alloc o) B c a len cap zs b A n C X A' n' C' Y ep nx ua un uc l := h.stays ((Below.refl _ _).alloc (Nat.le_refl _) _)

theorem DSb.epoch (h : DSb w W B c a len cap zs b A n C X A' n' C' Y ep nx ua un uc l) (e : Int) (he : -1 ≤ e ∧ e ≤ 10001) : DSb w (W.setCell ⟨b, 2, none⟩ (.int .i64 e)) B c a len cap zs b A n C X A' n' C' Y e nx ua un uc l := by
  have h1 := h.clo
  have h2 := h.low
  obtain ⟨g1, g2, g3, g4, g5, g6, g7, g8⟩ := h.bnd
  exact ⟨h.box.set 2 _, h.zero.other (by omega) _, h.sto.setBox h.box _, h.cur.put (by omega) _, gput h.grown (by omega) _, ⟨g1, g2, g3, g4, g5, he, g7, g8⟩, h1, h2⟩

theorem DSb.next (h : DSb w W B c a len cap zs b A n C X A' n' C' Y ep nx ua un uc l) (e : Int) (he : 0 ≤ e ∧ e ≤ 201) : DSb w (W.setCell ⟨b, 3, none⟩ (.int .i64 e)) B c a len cap zs b A n C X A' n' C' Y ep e ua un uc l := by
  have h1 := h.clo
  have h2 := h.low
  obtain ⟨g1, g2, g3, g4, g5, g6, g7, g8⟩ := h.bnd
  exact ⟨h.box.set 3 _, h.zero.other (by omega) _, h.sto.setBox h.box _, h.cur.put (by omega) _, gput h.grown (by omega) _, ⟨g1, g2, g3, g4, g5, g6, he.1, he.2⟩, h1, h2⟩

theorem DSb.now {g : Nat} (h : DSb w W B c a len cap zs b (some ⟨g, 0, none⟩) n C X A' n' C' Y ep nx ua un uc l) (k : Nat) (x : ByteArray) (hx : x.size ≤ 1000) : DSb w (W.setCell ⟨g, k, none⟩ (.string x)) B c a len cap zs b (some ⟨g, 0, none⟩) n C (X.set k x) A' n' C' Y ep nx ua un uc l := by
  have h1 := h.clo
  have h2 := h.low
  have hgl := (h.sto.now.lt g (by rw [blk_own]; rfl)).1
  have hm : 1000 ≤ maxLen := by decide
  obtain ⟨g1, g2, g3, g4, g5, g6, g7, g8⟩ := h.bnd
  have nb := h.box.noRow h.sto.now.1 (by decide)
  refine ⟨h.box.other (fun e => nb (by rw [ownBlock_sU, e]; rfl)) _, h.zero.other (by omega) _, h.sto.putNow k x (by omega), h.cur.put (by omega) _, gput h.grown (by omega) _, ⟨by rw [List.length_set]; exact g1, g2, fun y hy => ?_, g4, g5, g6, g7, g8⟩, h1, h2⟩
  rcases List.mem_or_eq_of_mem_set hy with hy | rfl
  · exact g3 y hy
  · omega

theorem DSb.done (h : DSb w W B c a len cap zs b A n C X A' n' C' Y ep nx ua un uc l) :
    DrawnB w.heap.size (.agg #[.slice A n C, .slice A' n' C', .int .i64 ep, .int .i64 nx, .slice ua un uc]) (((((W.setCell ⟨w.heap.size, 0, none⟩ (.slice A n C)).setCell ⟨w.heap.size, 1, none⟩ (.slice A' n' C')).setCell ⟨w.heap.size, 2, none⟩ (.int .i64 ep)).setCell ⟨w.heap.size, 3, none⟩ (.int .i64 nx)).setCell ⟨w.heap.size, 4, none⟩ (.slice ua un uc)) ∧ Cur (((((W.setCell ⟨w.heap.size, 0, none⟩ (.slice A n C)).setCell ⟨w.heap.size, 1, none⟩ (.slice A' n' C')).setCell ⟨w.heap.size, 2, none⟩ (.int .i64 ep)).setCell ⟨w.heap.size, 3, none⟩ (.int .i64 nx)).setCell ⟨w.heap.size, 4, none⟩ (.slice ua un uc)) B c a len cap zs ∧ w.grownBy (((((W.setCell ⟨w.heap.size, 0, none⟩ (.slice A n C)).setCell ⟨w.heap.size, 1, none⟩ (.slice A' n' C')).setCell ⟨w.heap.size, 2, none⟩ (.int .i64 ep)).setCell ⟨w.heap.size, 3, none⟩ (.int .i64 nx)).setCell ⟨w.heap.size, 4, none⟩ (.slice ua un uc)) (some c) := by
  have h1 := h.clo
  have h2 := h.low
  have b0 := h.zero
  have b1 := b0.set 0 (.slice A n C)
  have b2 := b1.set 1 (.slice A' n' C')
  have b3 := b2.set 2 (.int .i64 ep)
  have b4 := b3.set 3 (.int .i64 nx)
  refine ⟨⟨X, Y, ep, nx, l.map UE.u, ⟨A, n, C, A', n', C', ua, un, uc, l, rfl, (((((h.sto.setBox b0 _).setBox b1 _).setBox b2 _).setBox b3 _).setBox b4 _).low (by omega), rfl⟩, h.bnd⟩, ((((h.cur.put (by omega) _).put (by omega) _).put (by omega) _).put (by omega) _).put (by omega) _, gput (gput (gput (gput (gput h.grown (by omega) _) (by omega) _) (by omega) _) (by omega) _) (by omega) _⟩

/-- One more upload, without bytes. -/
theorem DSb.snoc (h : DSb w W B c a len cap zs b A n C X A' n' C' Y ep nx ua un uc l) (hu : un ≤ 10) {o : Obj} {v : Option Addr} {vc : Nat} {e : UE} (he : Owns W W.heap.size e.a e.n e.c e.u.zs) (hz : e.u.zs.length ≤ 4800 ∧ 0 ≤ e.u.want ∧ e.u.want ≤ 1000000000) (ho : W'.ownsRow (w.heap.size + 1) 36 4 (.slice v (un + 1) vc) (un + 1) (ueCells l ++ UE.cells e)) (hg : (W.alloc o).grownBy W' (Value.slice ua un uc).ownBlock) :
    DSb w (W'.setCell ⟨b, 4, none⟩ (.slice v (un + 1) vc)) B c a len cap zs b A n C X A' n' C' Y ep nx v (un + 1) vc (l ++ [e]) := by
  have h1 := h.clo
  have h2 := h.low
  have hn := h.new o
  have hlen := h.sto.len
  have hs := h.sto.ups.snoc he (by have := h.box.lt; omega) (fun x hx q hq => (h.sto.ups.lts.2 x hx q hq).2) (by rw [← hlen]; exact ho) hg
  have hst := hn.sto.upsTo hg hs (by rw [List.length_append, ← hlen]; rfl)
  have hbx := hn.box.grown hg (fun e => hn.box.noRow hn.sto.ups.1 (by decide) e)
  have hzr := hn.zero.grown hg (fun e => hn.zero.noRow hn.sto.ups.1 (by decide) e)
  have hlt : ∀ q, (Value.slice ua un uc).ownBlock = some q → w.heap.size + 1 ≤ q := fun q e => (hn.sto.ups.lts.1 q e).1
  have hcu := hn.cur.kept hg (fun q e => by have := hlt q e; have := hn.cur.1; omega)
  obtain ⟨g1, g2, g3, g4, g5, g6, g7, g8⟩ := h.bnd
  refine ⟨hbx.set 4 _, hzr.other (by omega) _, hst.setBox hbx _, hcu.put (by omega) _, gput (gown hn.grown hg (fun q e => by have := hlt q e; omega)) (by omega) _, ⟨g1, g2, g3, ?_, fun u hu' => ?_, g6, g7, g8⟩, h1, h2⟩
  · rw [List.length_map, List.length_append, ← hlen]
    simp
    omega
  · rw [List.map_append] at hu'
    rcases List.mem_append.1 hu' with hu' | hu'
    · exact g5 u hu'
    · obtain rfl : u = e.u := by simpa using hu'
      exact hz
end

set_option maxRecDepth 10000 in
set_option maxHeartbeats 3200000 in
theorem l14Any_any (B c : Nat) (a : Option Addr) (len cap : Nat) (zs : List Int) (most : Nat) (w : World) (hcur : Cur w B c a len cap zs) (hl : len ≤ 1099511627776) (hm1 : 1 ≤ most) (hm2 : most ≤ 1000) :
    Calls Tryz.prog 28 #[.pointer (some ⟨c, 0, none⟩), .int .i64 (most : Int)] w fun e w' => (∃ v, e = .returned v ∧ DrawnB w.heap.size v w') ∧ Cur w' B c a len cap zs ∧ w.grownBy w' (some c) := by
  obtain ⟨i0, hi, hz0, hz1, hz2⟩ := info_parts info_up
  have HC : Hid (Cur w B c a len cap zs) := hcur
  clear hcur
  have hcw : c < w.heap.size := HC.out.lt
  obtain ⟨w1, hw1⟩ : ∃ w1, w.alloc (.cells #[.slice none 0 0, .slice none 0 0, .int .i64 0, .int .i64 0, .slice none 0 0] 29) = w1 := ⟨_, rfl⟩
  have HE : Hid (w.alloc (.cells #[.slice none 0 0, .slice none 0 0, .int .i64 0, .int .i64 0, .slice none 0 0] 29) = w1) := hw1
  have HZ1 : Hid (BoxN w1 w.heap.size 29 [.slice none 0 0, .slice none 0 0, .int .i64 0, .int .i64 0, .slice none 0 0]) := by show BoxN _ _ _ _; rw [← hw1]; exact BoxN.new _ _ _
  have HC1 : Hid (Cur w1 B c a len cap zs) := by show Cur _ _ _ _ _ _ _; rw [← hw1]; exact HC.out.new _
  have HG1 : Hid (w.grownBy w1 (some c)) := by show World.grownBy _ _ _; rw [← hw1]; exact World.grownBy_alloc w _ _
  clear hw1 HC
  go_enter Tryz.func28, Tryz.ntmps28
  go_upto_region 1 with fail
  rw [HE.out]
  clear HE
  have hs1 : w.heap.size < w1.heap.size := HZ1.out.lt
  go_wp2_with fail
  refine (l14Draw_any B c a len cap zs most w1 HC1.out hl hm1 hm2).mono ?_
  rintro e w3 ⟨⟨v, rfl, X, Y, ep, nx, us, hans, hsg⟩, hc3, hg3⟩
  obtain ⟨A, C, A', C', ua, uc, l, rfl, hs3, hm3⟩ := hans.get
  subst hm3
  obtain ⟨M, hM⟩ : ∃ M, (l.map UE.u).length = M := ⟨_, rfl⟩
  rw [hM] at hs3 ⊢
  have hM10 : M ≤ 10 := by have := hsg.bnd.2.1; omega
  have hnx : 0 ≤ nx ∧ nx ≤ 200 := ⟨hsg.ok.nums.2.1, hsg.bnd.2.2⟩
  obtain ⟨hnx0, hnx1⟩ := hnx
  have HD3 : Hid (DSb w (w3.alloc (.cells #[.slice A X.length C, .slice A' Y.length C', .int .i64 ep, .int .i64 nx, .slice ua M uc] 29)) B c a len cap zs w3.heap.size A X.length C X A' Y.length C' Y ep nx ua M uc l) := by
    have hz := HZ1.out.grown hg3 (fun e => by injection e with e; omega)
    have hb4 : Below w3.heap.size w3 (w3.alloc (.cells #[.slice A X.length C, .slice A' Y.length C', .int .i64 ep, .int .i64 nx, .slice ua M uc] 29)) := (Below.refl _ _).alloc (Nat.le_refl _) _
    exact ⟨BoxN.new _ _ _, hz.stays hb4, (hs3.stays hb4).low hs1, hc3.new _, gnew (gtrans HG1.out hg3) _, hsg.bnd.1, hcw, hz.lt⟩
  clear hans hs3 hc3 hg3 HC1 HG1 HZ1 hM hsg
  go_wp2_with fail
  obtain ⟨w4, hw4⟩ : ∃ w4, w3.alloc (.cells #[.slice A X.length C, .slice A' Y.length C', .int .i64 ep, .int .i64 nx, .slice ua M uc] 29) = w4 := ⟨_, rfl⟩
  rw [hw4] at HD3 ⊢
  clear hw4
  generalize w3.heap.size = b at *
  refine (l1Below_any B c a len cap zs 12 w4 HD3.out.cur hl (by omega) (by omega)).mono ?_
  rintro e w5 ⟨m, rfl, hm0, hmm, hc5, hg5⟩
  have HD : Hid (DSb w w5 B c a len cap zs b A X.length C X A' Y.length C' Y ep nx ua M uc l) := HD3.out.call hc5 hg5
  clear hc5 hg5 HD3
  go_upto_block 0 with fail
  go_cut [] from 11 (fun W => ∃ (A : Option Addr) (n C : Nat) (X : List ByteArray) (A' : Option Addr) (n' C' : Nat) (Y : List ByteArray) (ep nx : Int) (ua : Option Addr) (un uc : Nat) (l : List UE), Hid (DSb w W B c a len cap zs b A n C X A' n' C' Y ep nx ua un uc l))
  case first =>
    obtain ⟨c0, c1, c2, c3, c4⟩ := (show _ ∧ _ ∧ _ ∧ _ ∧ _ from ⟨BoxN.cell HD.out.box 0 rfl, BoxN.cell HD.out.box 1 rfl, BoxN.cell HD.out.box 2 rfl, BoxN.cell HD.out.box 3 rfl, BoxN.cell HD.out.box 4 rfl⟩)
    obtain ⟨f0, f1, f2, f3, f4⟩ := (show _ ∧ _ ∧ _ ∧ _ ∧ _ from ⟨BoxN.frozen HD.out.box 0, BoxN.frozen HD.out.box 1, BoxN.frozen HD.out.box 2, BoxN.frozen HD.out.box 3, BoxN.frozen HD.out.box 4⟩)
    have hbw : b < w5.heap.size := HD.out.box.lt
    by_cases h0 : m = 0
    · subst h0
      go_wp2_with (go_at_call 35; refine (l1Int_any B c a len cap zs w5.heap.size 4 4 [-1, 10000, 10001, 0] _ (HD.out.new _).cur hl (heap_alloc_new w5 _) (by have := HD.out.low; omega) rfl (by omega) (by omega)).mono ?_; rintro e w6 ⟨x, rfl, hx, hc6, hg6⟩; refine Hid.out ?_)
      refine hidden ?_
      have hx2 : -1 ≤ x ∧ x ≤ 10001 := by simp only [List.mem_cons, List.not_mem_nil, or_false] at hx; omega
      have hD6 := (HD.out.new _).call hc6 hg6
      have HF := (show Hid _ from hD6.epoch x hx2)
      have p2 := BoxN.cell hD6.box 2 rfl
      have p3 := BoxN.frozen hD6.box 2
      clear hx hx2 hc6 hg6 hD6 HD
      go_wp2_with fail
      go_meet
      exact ⟨_, _, _, _, _, _, _, _, _, _, _, _, _, _, HF⟩
    by_cases h1 : m = 1
    · subst h1
      have HF := (show Hid _ from HD.out.next (nx + 1) (by omega))
      go_wp2_with fail
      go_meet
      exact ⟨_, _, _, _, _, _, _, _, _, _, _, _, _, _, HF⟩
    by_cases h2 : m = 2
    · subst h2
      have HR5 : Hid ((w5.alloc (.cells #[.string ⟨#[122]⟩, .int .i64 0, .slice none 0 0, .bool false] 36)).ownsRow (w.heap.size + 1) 36 4 (.slice ua M uc) M (ueCells l)) := by
        have h := (HD.out.new (.cells #[.string ⟨#[122]⟩, .int .i64 0, .slice none 0 0, .bool false] 36)).sto
        have h2 := h.ups.1
        rw [← h.len] at h2
        exact h2
      have hlw := HD.out.low
      go_wp2_with (at_builtin; refine wpList_append_own _ rfl _ _ 27 rfl (w.heap.size + 1) 36 i0 (.agg #[.string ⟨#[]⟩, .int .i64 0, .slice none 0 0, .bool false]) 4 56 Tryz.underlying27 hi hz0 hz1 hz2 rfl (by decide) (.slice ua M uc) M (ueCells l) rfl HR5.out ⟨w5.heap.size, 0, none⟩ 1 1 (UE.cells (⟨⟨⟨#[122]⟩, 0, [], false⟩, none, 0, 0⟩ : UE)) rfl rfl (four_new w5 ⟨⟨#[122]⟩, 0, [], false⟩ none 0 0) (four_one ⟨⟨#[122]⟩, 0, [], false⟩ none 0 0) (by unfold maxLen; omega) (by omega) (by simp; omega) ?_; intro v6 w6 hown6 hg6 _; refine Hid.out ?_)
      refine hidden ?_
      obtain ⟨v6a, v6c, hv6⟩ := shape_ofA hown6
      subst hv6
      have hF := HD.out.snoc hM10 (e := ⟨⟨⟨#[122]⟩, 0, [], false⟩, none, 0, 0⟩) (owns_nil _ _) (by decide) hown6 hg6
      have HF := (show Hid _ from hF)
      have hb6 := (HD.out.new (.cells #[.string ⟨#[122]⟩, .int .i64 0, .slice none 0 0, .bool false] 36)).box.grown hg6 (fun e => HD.out.box.noRow HD.out.sto.ups.1 (by decide) e)
      have p4 := BoxN.cell hb6 4 rfl
      have p5 := BoxN.frozen hb6 4
      clear hown6 hg6 hF hb6 HR5 HD
      go_wp2_with fail
      go_meet
      exact ⟨_, _, _, _, _, _, _, _, _, _, _, _, _, _, HF⟩
    by_cases h3 : m = 3
    · subst h3
      by_cases hX : 0 < X.length
      · obtain ⟨g, hg⟩ := texts_at HD.out.sto.now hX
        subst hg
        obtain ⟨x, _, t0, t1⟩ := texts_cell HD.out.sto.now (k := 0) hX
        have hXi : (0 : Int) < (X.length : Int) := by omega
        have HF := (show Hid _ from HD.out.now 0 ⟨#[120]⟩ (by decide))
        go_wp2_with fail
        go_meet
        exact ⟨_, _, _, _, _, _, _, _, _, _, _, _, _, _, HF⟩
      · have hX0 : X.length = 0 := by omega
        have hXi : ¬ (0 : Int) < (X.length : Int) := by omega
        clear hX0 hX
        go_wp2_with fail
        go_meet
        exact ⟨_, _, _, _, _, _, _, _, _, _, _, _, _, _, HD⟩
    have hb0 : (m == 0) = false := by simp; omega
    have hb1 : (m == 1) = false := by simp; omega
    have hb2 : (m == 2) = false := by simp; omega
    have hb3 : (m == 3) = false := by simp; omega
    go_wp2_with fail
    go_meet
    exact ⟨_, _, _, _, _, _, _, _, _, _, _, _, _, _, HD⟩
  case rest =>
  obtain ⟨wr, hwr⟩ : ∃ wr, wc = wr := ⟨_, rfl⟩
  rw [hwr] at hcut ⊢
  clear hwr HD
  obtain ⟨A, n, C, X, A', n', C', Y, ep, nx, ua, un, uc, l, HD⟩ := hcut
  obtain ⟨c0, c1, c2, c3, c4⟩ := (show _ ∧ _ ∧ _ ∧ _ ∧ _ from ⟨BoxN.cell HD.out.box 0 rfl, BoxN.cell HD.out.box 1 rfl, BoxN.cell HD.out.box 2 rfl, BoxN.cell HD.out.box 3 rfl, BoxN.cell HD.out.box 4 rfl⟩)
  obtain ⟨r0, r1, r2, r3, r4⟩ := (show _ ∧ _ ∧ _ ∧ _ ∧ _ from ⟨BoxN.cell HD.out.zero 0 rfl, BoxN.cell HD.out.zero 1 rfl, BoxN.cell HD.out.zero 2 rfl, BoxN.cell HD.out.zero 3 rfl, BoxN.cell HD.out.zero 4 rfl⟩)
  obtain ⟨f0, f1, f2, f3, f4⟩ := (show _ ∧ _ ∧ _ ∧ _ ∧ _ from ⟨BoxN.frozen HD.out.zero 0, BoxN.frozen HD.out.zero 1, BoxN.frozen HD.out.zero 2, BoxN.frozen HD.out.zero 3, BoxN.frozen HD.out.zero 4⟩)
  have HR := (show Hid _ from HD.out.done)
  clear HD
  go_wp2_with fail
  refine bodyPost_ret (v := .agg #[.slice A n C, .slice A' n' C', .int .i64 ep, .int .i64 nx, .slice ua un uc]) (by simp [results, Tryz.f28, go_sem, r0, r1, r2, r3, r4]) rfl ?_
  exact ⟨⟨_, rfl, HR.out.1⟩, HR.out.2⟩

end Go.Proofs.YtjaihnmhojabfaaGreatDoor

namespace Go.Proofs.YtjaihnmhojabfaaGreatDoor
open Go.RowKit
set_option linter.unusedVariables false

theorem SOk.bnd {X Y : List ByteArray} {ep nx : Int} {us : List U} (h : SOk X Y ep nx us) : Bnd X Y ep nx us := by
  obtain ⟨h1, h2, h3, h4⟩ := h.nums
  have hd := okD_iff.1 h.1
  have hf := (fold_small h.1 h.2.2.1)
  refine ⟨h4, by omega, fun x hx => ?_, by omega, fun u hu => ⟨hf.2 u hu, h.wants u hu⟩, by omega, h2, by omega⟩
  have := hd.2.2.1 x hx
  omega

theorem makeA_sokW {X Y : List ByteArray} {ep nx : Int} {us : List U} {id : ByteArray} {want : Int} (h : SOk X Y ep nx us) : SOk (makeA X Y ep nx us id want).X Y ep (makeA X Y ep nx us id want).nx (makeA X Y ep nx us id want).us := by
  by_cases hc : (makeA X Y ep nx us id want).c = 0
  · obtain ⟨_, hk, hl, us', hf, he⟩ := makeA_yes hc
    rw [he]
    exact wrote_ok (rs := [makeR id want]) h (fun r hr => by rw [List.mem_singleton.1 hr]; exact ⟨hk.1, hk.2, by simp [makeR]⟩) hl hf
  · rw [makeA_no hc]
    exact h

/-- What the functions of a store ask of one that is drawn. -/
theorem StoAt.preB {W : World} {lo : Nat} {A : Option Addr} {n C : Nat} {X : List ByteArray} {A' : Option Addr} {n' C' : Nat} {Y : List ByteArray} {ua : Option Addr} {un uc : Nat} {l : List UE} {ep nx : Int} (h : StoAt W lo A n C X A' n' C' Y ua un uc l) (hs : Bnd X Y ep nx (l.map UE.u)) :
    Strs W A n X ∧ Strs W A' n' Y ∧ n ≤ 200 ∧ n' ≤ 200 ∧ (∀ x ∈ X, x.size ≤ 1048576) ∧ UpRow W lo (.slice ua un uc) l ∧ un = l.length ∧ un ≤ 11 ∧ (∀ e ∈ l, e.n ≤ 4800) ∧ X.length = n ∧ Y.length = n' := by
  obtain ⟨g1, g2, g3, g4, g5, g6, g7, g8⟩ := hs
  have h2 := h.now.len
  have h3 := h.sure.len
  rw [List.length_map] at g4
  have h5 := h.len
  refine ⟨h.now.strs, h.sure.strs, by omega, by omega, g3, h.ups, h5, by omega, fun e he => ?_, h2, h3⟩
  have h6 := (h.ups.2.1 e he).seg.1
  have h7 := (g5 e.u (List.mem_map_of_mem he)).1
  omega

structure DSw (w W : World) (cc : Nat) (a : Option Addr) (len cap : Nat) (zs : List Int) (b : Nat) (A : Option Addr) (n C : Nat) (X : List ByteArray) (A' : Option Addr) (n' C' : Nat) (Y : List ByteArray) (ep nx : Int) (ua : Option Addr) (un uc : Nat) (l : List UE) : Prop where
  box : BoxN W b 29 [.slice A n C, .slice A' n' C', .int .i64 ep, .int .i64 nx, .slice ua un uc]
  zero : BoxN W w.heap.size 29 [.slice none 0 0, .slice none 0 0, .int .i64 0, .int .i64 0, .slice none 0 0]
  sto : StoAt W (cc + 1) A n C X A' n' C' Y ua un uc l
  cur : Cur W cc cc a len cap zs
  bel : Below w.heap.size w W
  bnd : Bnd X Y ep nx (l.map UE.u)
  lc : w.heap.size < cc
  low : cc < b

section
variable {w W W' : World} {cc : Nat} {a : Option Addr} {len cap : Nat} {zs : List Int} {b : Nat} {A : Option Addr} {n C : Nat} {X : List ByteArray} {A' : Option Addr} {n' C' : Nat} {Y : List ByteArray} {ep nx : Int} {ua : Option Addr} {un uc : Nat} {l : List UE}

theorem DSw.call (h : DSw w W cc a len cap zs b A n C X A' n' C' Y ep nx ua un uc l) (hc : Cur W' cc cc a len cap zs) (hg : W.grownBy W' (some cc)) : DSw w W' cc a len cap zs b A n C X A' n' C' Y ep nx ua un uc l := by
  have h1 := h.lc
  have h2 := h.low
  exact ⟨h.box.grown hg (fun e => by injection e with e; omega), h.zero.grown hg (fun e => by injection e with e; omega), h.sto.moved hg (by omega), hc, h.bel.grown hg h.bel.size (fun k e => by injection e with e; omega), h.bnd, h.lc, h.low⟩

theorem DSw.stays (h : DSw w W cc a len cap zs b A n C X A' n' C' Y ep nx ua un uc l) (hb : Below W.heap.size W W') : DSw w W' cc a len cap zs b A n C X A' n' C' Y ep nx ua un uc l :=
  ⟨h.box.stays hb, h.zero.stays hb, h.sto.stays hb, h.cur.kept (gbelow hb none) (by simp), h.bel.trans (hb.mono h.bel.size), h.bnd, h.lc, h.low⟩

theorem DSw.new (h : DSw w W cc a len cap zs b A n C X A' n' C' Y ep nx ua un uc l) (o : Obj) : DSw w (W.alloc o) cc a len cap zs b A n C X A' n' C' Y ep nx ua un uc l := h.stays ((Below.refl _ _).alloc (Nat.le_refl _) _)

theorem DSw.drew (h : DSw w W cc a len cap zs b A n C X A' n' C' Y ep nx ua un uc l) : DSw w W.drew cc a len cap zs b A n C X A' n' C' Y ep nx ua un uc l := h.stays (Below.refl _ _).drew

theorem DSw.put (h : DSw w W cc a len cap zs b A n C X A' n' C' Y ep nx ua un uc l) {A2 : Option Addr} {n2 C2 : Nat} {X2 : List ByteArray} {A2' : Option Addr} {n2' C2' : Nat} {Y2 : List ByteArray} {ep2 nx2 : Int} {ua2 : Option Addr} {un2 uc2 : Nat} {l2 : List UE} (hs : StoAt W (cc + 1) A2 n2 C2 X2 A2' n2' C2' Y2 ua2 un2 uc2 l2) (hsg : Bnd X2 Y2 ep2 nx2 (l2.map UE.u)) :
    DSw w (((((W.setCell ⟨b, 0, none⟩ (.slice A2 n2 C2)).setCell ⟨b, 1, none⟩ (.slice A2' n2' C2')).setCell ⟨b, 2, none⟩ (.int .i64 ep2)).setCell ⟨b, 3, none⟩ (.int .i64 nx2)).setCell ⟨b, 4, none⟩ (.slice ua2 un2 uc2)) cc a len cap zs b A2 n2 C2 X2 A2' n2' C2' Y2 ep2 nx2 ua2 un2 uc2 l2 := by
  have h1 := h.lc
  have h2 := h.low
  have b0 := h.box
  have b1 := b0.set 0 (.slice A2 n2 C2)
  have b2 := b1.set 1 (.slice A2' n2' C2')
  have b3 := b2.set 2 (.int .i64 ep2)
  have b4 := b3.set 3 (.int .i64 nx2)
  have b5 := b4.set 4 (.slice ua2 un2 uc2)
  refine ⟨b5, ((((h.zero.other (by omega) _).other (by omega) _).other (by omega) _).other (by omega) _).other (by omega) _, ((((hs.setBox b0 _).setBox b1 _).setBox b2 _).setBox b3 _).setBox b4 _, ((((h.cur.put (by omega) _).put (by omega) _).put (by omega) _).put (by omega) _).put (by omega) _, ((((h.bel.setCell (by dsimp only; omega) _).setCell (by dsimp only; omega) _).setCell (by dsimp only; omega) _).setCell (by dsimp only; omega) _).setCell (by dsimp only; omega) _, hsg, h1, h2⟩

theorem DSw.done (h : DSw w W cc a len cap zs b A n C X A' n' C' Y ep nx ua un uc l) :
    DrawnB w.heap.size (.agg #[.slice A n C, .slice A' n' C', .int .i64 ep, .int .i64 nx, .slice ua un uc]) (((((W.setCell ⟨w.heap.size, 0, none⟩ (.slice A n C)).setCell ⟨w.heap.size, 1, none⟩ (.slice A' n' C')).setCell ⟨w.heap.size, 2, none⟩ (.int .i64 ep)).setCell ⟨w.heap.size, 3, none⟩ (.int .i64 nx)).setCell ⟨w.heap.size, 4, none⟩ (.slice ua un uc)) ∧ Below w.heap.size w (((((W.setCell ⟨w.heap.size, 0, none⟩ (.slice A n C)).setCell ⟨w.heap.size, 1, none⟩ (.slice A' n' C')).setCell ⟨w.heap.size, 2, none⟩ (.int .i64 ep)).setCell ⟨w.heap.size, 3, none⟩ (.int .i64 nx)).setCell ⟨w.heap.size, 4, none⟩ (.slice ua un uc)) := by
  have h1 := h.lc
  have h2 := h.low
  have b0 := h.zero
  have b1 := b0.set 0 (.slice A n C)
  have b2 := b1.set 1 (.slice A' n' C')
  have b3 := b2.set 2 (.int .i64 ep)
  have b4 := b3.set 3 (.int .i64 nx)
  exact ⟨⟨X, Y, ep, nx, l.map UE.u, ⟨A, n, C, A', n', C', ua, un, uc, l, rfl, (((((h.sto.setBox b0 _).setBox b1 _).setBox b2 _).setBox b3 _).setBox b4 _).low (by omega), rfl⟩, h.bnd⟩, ((((h.bel.setCell (Nat.le_refl _) _).setCell (Nat.le_refl _) _).setCell (Nat.le_refl _) _).setCell (Nat.le_refl _) _).setCell (Nat.le_refl _) _⟩
end

set_option maxRecDepth 10000 in
set_option maxHeartbeats 1600000 in
theorem l1Size_pos (a : Option Addr) (len cap : Nat) (most : Int) (w : World) (hl : len ≤ 1099511627776) (h0 : 3 ≤ most) (h1 : most ≤ 1000) :
    Calls Tryz.prog 29 #[.slice a len cap, .int .i64 most] w fun e w' => (∃ n : Nat, e = .returned (.int .i64 (n : Int)) ∧ 1 ≤ n ∧ (n : Int) ≤ most) ∧ w' = w := by
  have hq : ((len : Int)).tdiv 12 = ((len / 12 : Nat) : Int) := by rw [Int.tdiv_eq_ediv_of_nonneg (by omega)]; omega
  obtain ⟨Q, hQ⟩ : ∃ Q, len / 12 = Q := ⟨_, rfl⟩
  rw [hQ] at hq
  have hQb : Q ≤ 1099511627776 := by omega
  clear hQ
  go_enter Tryz.func29, Tryz.ntmps29
  by_cases hm : most < 3 + (Q : Int)
  · obtain ⟨m, rfl⟩ := Int.eq_ofNat_of_zero_le (show 0 ≤ most by omega)
    go_wp2_with fail
    go_ret
    exact ⟨⟨m, rfl, by omega, Int.le_refl _⟩, rfl⟩
  · go_wp2_with fail
    go_ret
    exact ⟨⟨3 + Q, by congr 1, by omega, by omega⟩, rfl⟩

end Go.Proofs.YtjaihnmhojabfaaGreatDoor

namespace Go.Proofs.YtjaihnmhojabfaaGreatDoor
open Go.RowKit
set_option linter.unusedVariables false

def ids8 : List ByteArray := [⟨#[97]⟩, ⟨#[98]⟩, ⟨#[99]⟩, ⟨#[97]⟩, ⟨#[98]⟩, ⟨#[110, 101, 119]⟩, ⟨#[]⟩, ⟨#[65]⟩]
theorem ids8_short : ∀ s ∈ ids8, s.size ≤ 3 := by decide

set_option maxRecDepth 10000 in
set_option maxHeartbeats 1600000 in
theorem l14Id_any (B c : Nat) (a : Option Addr) (len cap : Nat) (zs : List Int) (w : World) (hcur : Cur w B c a len cap zs) (hl : len ≤ 1099511627776) :
    Calls Tryz.prog 34 #[.pointer (some ⟨c, 0, none⟩)] w fun e w' => ∃ v : ByteArray, e = .returned (.string v) ∧ v.size ≤ 3 ∧ Cur w' B c a len cap zs ∧ w.grownBy w' (some c) := by
  have HC : Hid (Cur w B c a len cap zs) := hcur
  clear hcur
  have hcw : c < w.heap.size := HC.out.lt
  go_enter Tryz.func34, Tryz.ntmps34
  go_wp2_with fail
  refine (l1Str_any B c a len cap zs w.heap.size 8 8 ids8 _ (HC.out.new _) hl (heap_alloc_new w _) (by omega) rfl (by omega) (by omega)).mono ?_
  rintro e w2 ⟨v, rfl, hv, hc, hg⟩
  have HF : Hid (v.size ≤ 3 ∧ Cur w2 B c a len cap zs ∧ w.grownBy w2 (some c)) := ⟨ids8_short v hv, hc, gtrans (World.grownBy_alloc w _ _) hg⟩
  clear hv hc hg HC
  go_wp2_with fail
  go_ret
  exact ⟨v, rfl, HF.out⟩

end Go.Proofs.YtjaihnmhojabfaaGreatDoor

namespace Go.Proofs.YtjaihnmhojabfaaGreatDoor
open Go.RowKit
set_option linter.unusedVariables false
attribute [local go_sem ↓] Go.wp_at_zero Go.wp_at_succ

/-- 'string([]byte{c})'. -/
theorem conv_one (c : Nat) (hc : c < 256) (W : World) (g : Nat) (h : W.cell? ⟨g, 0, none⟩ = some (.int .u8 (c : Int))) :
    (convert 22 9 (.slice (some ⟨g, 0, none⟩) 1 1)).run Tryz.prog W = .ok (.string ⟨#[UInt8.ofNat c]⟩) W := by
  refine run_convert_bytes_back W 22 9 5 ⟨g, 0, none⟩ 1 [UInt8.ofNat c] Tryz.underlying22 Tryz.underlying5 Tryz.underlying9 (fun j hj => ?_)
  obtain rfl : j = 0 := by simpa using hj
  have e : (UInt8.ofNat c).toNat = c := by simp; omega
  simpa [Addr.add, Nat.mod_eq_of_lt hc] using h

theorem bcell {W w1 : World} (hb : Below W.heap.size W w1) : ∀ b o, b < W.heap.size → w1.cell? ⟨b, o, none⟩ = W.cell? ⟨b, o, none⟩ := fun b o h => hb.cell (p := ⟨b, o, none⟩) h

theorem way_one {w w' : World} (hb : Below w.drew.heap.size w.drew w') (o : Obj) : Below w.heap.size w (w'.alloc o) :=
  (Below.trans ((Below.refl _ _).drew) hb).alloc hb.size o

theorem way_two {w w' : World} {o : Obj} (hb : Below (w.alloc o).drew.heap.size (w.alloc o).drew w') : Below w.heap.size w w' :=
  (((Below.refl _ _).alloc (Nat.le_refl _) o).drew).trans (hb.mono (by simp))

set_option maxHeartbeats 400000 in
theorem l1Text_small (u : Nat) (w : World) (h : u < 10) :
    Calls Tryz.prog 33 #[.int .i64 u] w fun e w' => e = .returned (.string ⟨(Lib.decDigits u).toArray⟩) ∧ Below w.heap.size w w' := by
  have hu : (u : Int) < 10 := by omega
  rw [Lib.decDigits_one h]
  have hcv0 : ∀ (W : World) (g : Nat), W.cell? ⟨g, 0, none⟩ = some (.int .u8 (48 + (u : Int))) → (convert 22 9 (.slice (some ⟨g, 0, none⟩) 1 1)).run Tryz.prog W = .ok (.string ⟨#[UInt8.ofNat (48 + u)]⟩) W := fun W g hW => conv_one (48 + u) (by omega) W g (by simpa using hW)
  show Calls Tryz.prog 33 #[.int .i64 u] w fun e w' => e = .returned (.string ⟨#[UInt8.ofNat (48 + u)]⟩) ∧ Below w.heap.size w w'
  generalize (⟨#[UInt8.ofNat (48 + u)]⟩ : ByteArray) = T at *
  go_enter Tryz.func33, Tryz.ntmps33
  go_wp2_with fail
  go_ret
  exact ⟨rfl, (Below.refl _ _).alloc (Nat.le_refl _) _⟩

set_option maxHeartbeats 400000 in
theorem l1Text_big (u : Nat) (w : World) (h : ¬ u < 10) (hm : u ≤ 4294967295) (S T : ByteArray) (hS : S.size ≤ 100) (hT : T.size ≤ 1)
    (hcv : ∀ (W : World) (g : Nat), W.cell? ⟨g, 0, none⟩ = some (.int .u8 (48 + (u : Int) % 10)) → (convert 22 9 (.slice (some ⟨g, 0, none⟩) 1 1)).run Tryz.prog W = .ok (.string T) W)
    (ih : ∀ w, Calls Tryz.prog 33 #[.int .i64 ((u : Int) / 10)] w fun e w' => e = .returned (.string S) ∧ Below w.heap.size w w') :
    Calls Tryz.prog 33 #[.int .i64 u] w fun e w' => e = .returned (.string (S ++ T)) ∧ Below w.heap.size w w' := by
  have hu : ¬ (u : Int) < 10 := by omega
  have hu2 : (u : Int) ≤ 4294967295 := by omega
  have IH : Hid _ := ih
  clear ih
  have hw1 : IntKind.i64.wrap ((u : Int) / 10) = (u : Int) / 10 := by rw [IntKind.wrap_i64]; omega
  have hw2 : (u : Int).tmod 10 = (u : Int) % 10 := Int.tmod_eq_emod_of_nonneg (by omega)
  have hw3 : IntKind.i64.wrap (48 + (u : Int) % 10) = 48 + (u : Int) % 10 := by rw [IntKind.wrap_i64]; omega
  have hw4 : IntKind.u8.wrap (48 + (u : Int) % 10) = 48 + (u : Int) % 10 := by rw [IntKind.wrap_u8']; omega
  go_enter Tryz.func33, Tryz.ntmps33
  go_wp2_with fail
  go_region_with (go_at_call 33; refine (IH.out _).mono ?_; rintro e w' ⟨rfl, hb⟩; have hbc := bcell hb)
  all_goals
    go_wp2_with fail
    go_ret
    first
      | exact ⟨rfl, way_one hb _⟩
      | exact ⟨rfl, way_two hb⟩

theorem decDigits_len (u : Nat) : (Lib.decDigits u).length ≤ u + 1 := by
  induction u using Nat.strongRecOn with
  | ind u ih =>
    by_cases h : u < 10
    · rw [Lib.decDigits_one h]; simp
    · rw [Lib.decDigits, dif_neg h]
      have := ih (u / 10) (by omega)
      simp only [List.length_append, List.length_cons, List.length_nil]
      omega

theorem decDigits_small (n : Nat) : ∀ u, u < 10 ^ (n + 1) → (Lib.decDigits u).length ≤ n + 1 := by
  induction n with
  | zero => intro u hu; rw [Lib.decDigits_one (by simpa using hu)]; simp
  | succ n ih =>
    intro u hu
    by_cases h : u < 10
    · rw [Lib.decDigits_one h]; simp
    · rw [Lib.decDigits, dif_neg h]
      have h2 : u / 10 < 10 ^ (n + 1) := by
        rw [Nat.pow_succ] at hu
        omega
      have := ih (u / 10) h2
      simp only [List.length_append, List.length_cons, List.length_nil]
      omega

theorem l1Text_any (u : Nat) : ∀ (w : World), u ≤ 4294967295 →
    Calls Tryz.prog 33 #[.int .i64 u] w fun e w' => e = .returned (.string ⟨(Lib.decDigits u).toArray⟩) ∧ Below w.heap.size w w' := by
  induction u using Nat.strongRecOn with
  | ind u ih =>
    intro w hm
    by_cases h : u < 10
    · exact l1Text_small u w h
    · have hl := decDigits_small 9 (u / 10) (by omega)
      have e : (⟨(Lib.decDigits u).toArray⟩ : ByteArray) = ⟨(Lib.decDigits (u / 10)).toArray⟩ ++ ⟨#[UInt8.ofNat (48 + u % 10)]⟩ := by
        rw [Lib.decDigits, dif_neg h]
        apply ByteArray.ext
        simp
      rw [e]
      refine l1Text_big u w h hm _ _ ?_ ?_ (fun W g hW => conv_one (48 + u % 10) (by omega) W g (by simpa using hW)) (fun w => ?_)
      · show (Lib.decDigits (u / 10)).toArray.size ≤ 100
        simp
        omega
      · show (#[UInt8.ofNat (48 + u % 10)] : Array UInt8).size ≤ 1
        simp
      · exact ih (u / 10) (by omega) w (by omega)

end Go.Proofs.YtjaihnmhojabfaaGreatDoor

namespace Go.Proofs.YtjaihnmhojabfaaGreatDoor
open Go.RowKit
set_option linter.unusedVariables false

theorem SG.bound0 {X Y : List ByteArray} {nx : Int} {us : List U} (h : SG 0 X Y 0 nx us) : Bnd X Y 0 nx us := h.ok.bnd

theorem u_short {S : ByteArray} (h : S.size ≤ 2) : ((⟨#[117]⟩ : ByteArray) ++ S).size ≤ 3 := by
  rw [ByteArray.size_append]
  have : (⟨#[117]⟩ : ByteArray).size = 1 := rfl
  omega

set_option maxRecDepth 10000 in
set_option maxHeartbeats 12800000 in
theorem drawMake_any (a : Option Addr) (len cap : Nat) (zs : List Int) (w : World) (hs : Seg w a len zs) (hl : len ≤ 1099511627776) :
    Calls Tryz.prog 7 #[.slice a len cap] w fun e w' => (∃ v id want, e = .returned (.tuple #[v, .string id, .int .i64 want]) ∧ DrawnB w.heap.size v w' ∧ id.size ≤ 3 ∧ (-1 ≤ want ∧ want ≤ 1000001)) ∧ Below w.heap.size w w' := by
  obtain ⟨w1, hw1⟩ : ∃ w1, w.alloc (.cells #[.slice none 0 0, .slice none 0 0, .int .i64 0, .int .i64 0, .slice none 0 0] 29) = w1 := ⟨_, rfl⟩
  have HE : Hid (w.alloc (.cells #[.slice none 0 0, .slice none 0 0, .int .i64 0, .int .i64 0, .slice none 0 0] 29) = w1) := hw1
  have HZ1 : Hid (BoxN w1 w.heap.size 29 [.slice none 0 0, .slice none 0 0, .int .i64 0, .int .i64 0, .slice none 0 0]) := by show BoxN _ _ _ _; rw [← hw1]; exact BoxN.new _ _ _
  have HB1 : Hid (Below w.heap.size w w1) := by show Below _ _ _; rw [← hw1]; exact (Below.refl _ _).alloc (Nat.le_refl _) _
  have HS : Hid (Seg w1 a len zs) := hs.below HB1.out
  clear hs hw1
  go_enter Tryz.func7, Tryz.ntmps7
  go_wp2_with fail
  rw [HE.out]
  clear HE
  refine (l1New_any a len cap zs w1 HS.out hl).mono ?_
  rintro e w2 ⟨rfl, hc2, hb2⟩
  have hlt : w.heap.size < w1.heap.size := HZ1.out.lt
  have HZ2 : Hid (BoxN w2 w.heap.size 29 [.slice none 0 0, .slice none 0 0, .int .i64 0, .int .i64 0, .slice none 0 0]) := HZ1.out.stays hb2
  have HB2 : Hid (Below w.heap.size w w2) := HB1.out.trans (hb2.mono HB1.out.size)
  obtain ⟨cc, hcc⟩ : ∃ cc, w1.heap.size = cc := ⟨_, rfl⟩
  rw [hcc] at hc2 hlt ⊢
  have HC2 : Hid (Cur w2 cc cc a len cap zs) := hc2
  clear hc2 hb2 HZ1 HB1 HS hcc
  go_wp2_with fail
  refine (l1Size_pos a len cap 20 w2 hl (by omega) (by omega)).mono ?_
  rintro e w2 ⟨⟨n, rfl, hn1, hn⟩, rfl⟩
  go_wp2_with fail
  refine (l14Any_any cc cc a len cap zs n w2 HC2.out hl hn1 (by omega)).mono ?_
  rintro e w6 ⟨⟨v, rfl, X, Y, ep, nx, us, hans, hbn⟩, hc6, hg6⟩
  obtain ⟨A, C, A', C', ua, uc, l, rfl, hs6, hm6⟩ := hans.get
  subst hm6
  obtain ⟨M, hM⟩ : ∃ M, (l.map UE.u).length = M := ⟨_, rfl⟩
  rw [hM] at hs6 ⊢
  have HD6 : Hid (DSw w (w6.alloc (.cells #[.slice A X.length C, .slice A' Y.length C', .int .i64 ep, .int .i64 nx, .slice ua M uc] 29)) cc a len cap zs w6.heap.size A X.length C X A' Y.length C' Y ep nx ua M uc l) := by
    have hcl : cc < w2.heap.size := HC2.out.lt
    have hsz := hg6.size
    have hb4 : Below w6.heap.size w6 (w6.alloc (.cells #[.slice A X.length C, .slice A' Y.length C', .int .i64 ep, .int .i64 nx, .slice ua M uc] 29)) := (Below.refl _ _).alloc (Nat.le_refl _) _
    have hb6 : Below w.heap.size w w6 := HB2.out.grown hg6 HB2.out.size (fun k e => by injection e with e; omega)
    exact ⟨BoxN.new _ _ _, (HZ2.out.grown hg6 (fun e => by injection e with e; omega)).stays hb4, (hs6.stays hb4).low (by omega), hc6.new _, hb6.trans (hb4.mono hb6.size), hbn, hlt, by omega⟩
  clear hans hs6 hbn hc6 hg6 HC2 HB2 HZ2 hM hn hn1
  go_upto_region 3 with fail
  obtain ⟨w4, hw4⟩ : ∃ w4, w6.alloc (.cells #[.slice A X.length C, .slice A' Y.length C', .int .i64 ep, .int .i64 nx, .slice ua M uc] 29) = w4 := ⟨_, rfl⟩
  rw [hw4] at HD6 ⊢
  clear hw4
  obtain ⟨b, hb⟩ : ∃ b, w6.heap.size = b := ⟨_, rfl⟩
  rw [hb] at HD6 ⊢
  clear hb
  have hbl := HD6.out.low
  have hbw : b < w4.heap.size := HD6.out.box.lt
  go_wp2_with fail
  refine (l1Once_any cc cc a len cap zs 20 w4 HD6.out.cur hl (by omega) (by omega)).mono ?_
  rintro e w5 ⟨bb, rfl, hc5, hg5⟩
  have HD := (show Hid _ from HD6.out.call hc5 hg5)
  clear hc5 hg5 HD6 hbw
  go_upto_if 15 with fail
  go_cut [] from 16 (fun W => ∃ (A : Option Addr) (n C : Nat) (X : List ByteArray) (A' : Option Addr) (n' C' : Nat) (Y : List ByteArray) (ep nx : Int) (ua : Option Addr) (un uc : Nat) (l : List UE), Hid (DSw w W cc a len cap zs b A n C X A' n' C' Y ep nx ua un uc l))
  case first =>
    have hbw : b < w5.heap.size := HD.out.box.lt
    cases bb with
    | false =>
      go_wp2_with fail
      go_meet
      exact ⟨_, _, _, _, _, _, _, _, _, _, _, _, _, _, HD⟩
    | true =>
    go_wp2_with fail
    refine (specStoreNew_any 30 w5).mono ?_
    rintro e w7 ⟨⟨v, rfl, hans⟩, hb7⟩
    obtain ⟨A7, C7, A7', C7', ua7, uc7, l7, rfl, hs7, hm7⟩ := hans.get
    have hN : newN 30 = 30 := by decide
    rw [hN] at hs7 hans ⊢
    obtain ⟨X0, hX0⟩ : ∃ X0, List.replicate 30 (⟨#[]⟩ : ByteArray) = X0 := ⟨_, rfl⟩
    have hsg : SOk X0 X0 0 0 [] := by rw [← hX0]; exact (SG.new 30 (by omega)).ok
    rw [hX0] at hs7 ⊢
    rw [← hm7] at hsg
    obtain ⟨L0, hL0⟩ : ∃ L0, X0.length = L0 := ⟨_, rfl⟩
    rw [hL0] at hs7 ⊢
    rw [List.length_nil] at hs7 ⊢
    have hD7 := HD.out.stays hb7
    have hsz7 := hb7.size
    have HF7 := (show Hid _ from hD7.put (hs7.low (by have := HD.out.cur.lt; omega)) hsg.bnd)
    have HO7 : Hid (SOk X0 X0 0 0 (l7.map UE.u)) := hsg
    obtain ⟨m0, m1, m2, m3, m4⟩ := (show _ ∧ _ ∧ _ ∧ _ ∧ _ from ⟨BoxN.cell hD7.box 0 rfl, BoxN.cell hD7.box 1 rfl, BoxN.cell hD7.box 2 rfl, BoxN.cell hD7.box 3 rfl, BoxN.cell hD7.box 4 rfl⟩)
    obtain ⟨f0, f1, f2, f3, f4⟩ := (show _ ∧ _ ∧ _ ∧ _ ∧ _ from ⟨BoxN.frozen hD7.box 0, BoxN.frozen hD7.box 1, BoxN.frozen hD7.box 2, BoxN.frozen hD7.box 3, BoxN.frozen hD7.box 4⟩)
    clear hans hs7 hm7 hb7 hD7 HD hX0 hL0 hsg hN hsz7
    go_wp2_with fail
    go_loopw [7] (fun v wr => ∃ (i : Nat) (A : Option Addr) (n C : Nat) (X : List ByteArray) (A' : Option Addr) (n' C' : Nat) (Y : List ByteArray) (ep nx : Int) (ua : Option Addr) (un uc : Nat) (l : List UE), v = .int .i64 (i : Int) ∧ i ≤ 10 ∧ Hid (DSw w wr cc a len cap zs b A n C X A' n' C' Y ep nx ua un uc l) ∧ Hid (SOk X Y ep nx (l.map UE.u))) (fun v _ => 10 - (intOf v).toNat)
    case atStart => exact ⟨0, _, _, _, _, _, _, _, _, _, _, _, _, _, _, rfl, by omega, HF7, HO7⟩
    case round =>
      clear HF7 HO7
      obtain ⟨i, A, n, C, X, A', n', C', Y, ep, nx, ua, un, uc, l, rfl, hi10, HD, HO⟩ := hrel
      go_wp2_with fail
      refine (l1Below_any cc cc a len cap zs 2 wr HD.out.cur hl (by omega) (by omega)).mono ?_
      rintro e w8 ⟨m, rfl, hm0, hm1, hc8, hg8⟩
      have HD8 := (show Hid _ from HD.out.call hc8 hg8)
      clear hc8 hg8 HD
      have hbw8 : b < w8.heap.size := HD8.out.box.lt
      have hmw : IntKind.i64.wrap (10 - m) = 10 - m := by rw [IntKind.wrap_i64]; omega
      by_cases hlt8 : (i : Int) < 10 - m
      case neg =>
        have hd8 : decide ((i : Int) < 10 - m) = false := by simpa using hlt8
        clear hlt8
        go_wp2_with fail
        go_meet
        exact ⟨_, _, _, _, _, _, _, _, _, _, _, _, _, _, HD8⟩
      have hd8 : decide ((i : Int) < 10 - m) = true := by simpa using hlt8
      have hi9 : i ≤ 9 := by omega
      clear hlt8
      have HP := (show Hid _ from HD8.out.sto.preB HD8.out.bnd)
      have hn2 := HP.out.2.2.1
      have hn3 := HP.out.2.2.2.1
      have hn4 := HP.out.2.2.2.2.2.2.2.1
      have HDd := (show Hid _ from HD8.out.drew)
      have hTx : ∀ W, Calls Tryz.prog 33 #[.int .i64 (i : Int)] W fun e w' => e = .returned (.string ⟨(Lib.decDigits i).toArray⟩) ∧ Below W.heap.size W w' := fun W => l1Text_any i W (by omega)
      have hSz : (⟨(Lib.decDigits i).toArray⟩ : ByteArray).size ≤ 2 := by
        rw [Lib.decDigits_one (by omega)]
        have h1 : (⟨#[UInt8.ofNat (48 + i)]⟩ : ByteArray).size = 1 := rfl
        show (⟨#[UInt8.ofNat (48 + i)]⟩ : ByteArray).size ≤ 2
        omega
      obtain ⟨S, hS⟩ : ∃ S : ByteArray, (⟨(Lib.decDigits i).toArray⟩ : ByteArray) = S := ⟨_, rfl⟩
      rw [hS] at hSz
      simp only [hS] at hTx
      have HTx := (show Hid _ from hTx)
      have HIs : Hid (((⟨#[117]⟩ : ByteArray) ++ S).size ≤ maxLen) := by
        show _ ≤ _
        have h1 := u_short hSz
        have h2 : 3 ≤ maxLen := by decide
        omega
      clear hTx hS
      obtain ⟨c0, c1, c2, c3, c4⟩ := (show _ ∧ _ ∧ _ ∧ _ ∧ _ from ⟨BoxN.cell HDd.out.box 0 rfl, BoxN.cell HDd.out.box 1 rfl, BoxN.cell HDd.out.box 2 rfl, BoxN.cell HDd.out.box 3 rfl, BoxN.cell HDd.out.box 4 rfl⟩)
      go_upto_region 8 with fail
      go_region_with (first
        | (go_at_call 9; refine (specMake_any A n C X A' n' C' Y ep nx ua un uc (cc + 1) l _ 1 y1 HP1.out.1 HP1.out.2.1 (by omega) (by omega) HP1.out.2.2.2.2.1 HP1.out.2.2.2.2.2.1 HP1.out.2.2.2.2.2.2.1 (by omega) (fun e he => by have := HP1.out.2.2.2.2.2.2.2.2.1 e he; omega) HIs.out (by omega)).mono ?_; rintro e y2 ⟨⟨v, rfl, hans⟩, hb2⟩
           obtain ⟨p, cp, p', cp', va, vc, l', rfl, hs2, hm2⟩ := hans.get
           have hD2 := hD1.stays hb2
           obtain ⟨m0, m1, m2, m3, m4⟩ := (show _ ∧ _ ∧ _ ∧ _ ∧ _ from ⟨BoxN.cell hD2.box 0 rfl, BoxN.cell hD2.box 1 rfl, BoxN.cell hD2.box 2 rfl, BoxN.cell hD2.box 3 rfl, BoxN.cell hD2.box 4 rfl⟩)
           obtain ⟨f0, f1, f2, f3, f4⟩ := (show _ ∧ _ ∧ _ ∧ _ ∧ _ from ⟨BoxN.frozen hD2.box 0, BoxN.frozen hD2.box 1, BoxN.frozen hD2.box 2, BoxN.frozen hD2.box 3, BoxN.frozen hD2.box 4⟩))
        | (go_at_call 33; refine (HTx.out _).mono ?_; rintro e y1 ⟨rfl, hb1⟩
           have hD1 := HDd.out.stays hb1
           have HP1 := (show Hid _ from hD1.sto.preB hD1.bnd)
           obtain ⟨e0, e1, e2, e3, e4⟩ := (show _ ∧ _ ∧ _ ∧ _ ∧ _ from ⟨BoxN.cell hD1.box 0 rfl, BoxN.cell hD1.box 1 rfl, BoxN.cell hD1.box 2 rfl, BoxN.cell hD1.box 3 rfl, BoxN.cell hD1.box 4 rfl⟩))
        | fail)
      all_goals
        have hokA : SOk _ _ _ _ _ := makeA_sokW (id := (⟨#[117]⟩ : ByteArray) ++ S) (want := 1) HO.out
        have hcl := hD1.cur.lt
        rw [← hm2] at hokA
        have HF := (show Hid _ from hD2.put (hs2.low (by omega)) hokA.bnd)
        have HO2 := (show Hid _ from hokA)
        clear hans hs2 hm2 hb2 hD1 hD2 HP HP1 hb1 hokA c0 c1 c2 c3 c4 e0 e1 e2 e3 e4 HDd HD8 HO HTx HIs hcl
        go_wp2_with fail
        go_roundw
        case rel => exact ⟨i + 1, _, _, _, _, _, _, _, _, _, _, _, _, _, _, by go_num, by omega, HF, HO2⟩
        case measure => simp [intOf]; omega
  case rest =>
  obtain ⟨wr, hwr⟩ : ∃ wr, wc = wr := ⟨_, rfl⟩
  rw [hwr] at hcut ⊢
  clear hwr HD hbl
  obtain ⟨A, n, C, X, A', n', C', Y, ep, nx, ua, un, uc, l, HD⟩ := hcut
  have hbl := HD.out.low
  have hlc := HD.out.lc
  have hcw : cc < wr.heap.size := HD.out.cur.lt
  have hbw : b < wr.heap.size := HD.out.box.lt
  have HDd := (show Hid _ from HD.out.drew)
  have HDa : Hid (∀ o, DSw w ((wr.alloc o).drew) cc a len cap zs b A n C X A' n' C' Y ep nx ua un uc l) := fun o => (HD.out.new o).drew
  obtain ⟨c0, c1, c2, c3, c4⟩ := (show _ ∧ _ ∧ _ ∧ _ ∧ _ from ⟨BoxN.cell HDd.out.box 0 rfl, BoxN.cell HDd.out.box 1 rfl, BoxN.cell HDd.out.box 2 rfl, BoxN.cell HDd.out.box 3 rfl, BoxN.cell HDd.out.box 4 rfl⟩)
  have q0 : ∀ o, (wr.alloc o).drew.cell? ⟨b, 0, none⟩ = _ := fun o => BoxN.cell (HDa.out o).box 0 rfl
  have q1 : ∀ o, (wr.alloc o).drew.cell? ⟨b, 1, none⟩ = _ := fun o => BoxN.cell (HDa.out o).box 1 rfl
  have q2 : ∀ o, (wr.alloc o).drew.cell? ⟨b, 2, none⟩ = _ := fun o => BoxN.cell (HDa.out o).box 2 rfl
  have q3 : ∀ o, (wr.alloc o).drew.cell? ⟨b, 3, none⟩ = _ := fun o => BoxN.cell (HDa.out o).box 3 rfl
  have q4 : ∀ o, (wr.alloc o).drew.cell? ⟨b, 4, none⟩ = _ := fun o => BoxN.cell (HDa.out o).box 4 rfl
  go_upto_region 9 with fail
  go_region_held3 (fun W => W.cell? ⟨b, 0, none⟩ = some (.slice A n C) ∧ W.cell? ⟨b, 1, none⟩ = some (.slice A' n' C') ∧ W.cell? ⟨b, 2, none⟩ = some (.int .i64 ep) ∧ W.cell? ⟨b, 3, none⟩ = some (.int .i64 nx) ∧ W.cell? ⟨b, 4, none⟩ = some (.slice ua un uc)) (first | with_reducible exact ⟨c0, c1, c2, c3, c4⟩ | with_reducible exact ⟨q0 _, q1 _, q2 _, q3 _, q4 _⟩ | with_reducible exact ⟨e0, e1, e2, e3, e4⟩ | with_reducible exact ⟨r0 _, r1 _, r2 _, r3 _, r4 _⟩ | with_reducible exact ⟨m0, m1, m2, m3, m4⟩ | with_reducible exact ⟨t0 _ _ _ _ _, t1 _ _ _ _ _, t2 _ _ _ _ _, t3 _ _ _ _ _, t4 _ _ _ _ _⟩ | fail) (first
    | (go_at_call 34
       first
         | ((with_reducible show Calls _ _ _ wr.drew _); refine (l14Id_any cc cc a len cap zs wr.drew HDd.out.cur hl).mono ?_; rintro e y1 ⟨id, rfl, hid, hc1, hg1⟩
            have hD1 := HDd.out.call hc1 hg1)
         | (refine (l14Id_any cc cc a len cap zs _ (HDa.out _).cur hl).mono ?_; rintro e y1 ⟨id, rfl, hid, hc1, hg1⟩
            have hD1 := (HDa.out _).call hc1 hg1
            have HL1 : Hid (BoxN y1 wr.heap.size 3 ([0, 5, 1000000, 1000001, -1].map (Value.int .i64))) := BoxN.grown (W := ((wr.alloc (.cells #[.int .i64 0, .int .i64 5, .int .i64 1000000, .int .i64 1000001, .int .i64 (-1)] 3)).drew)) (BoxN.stays (BoxN.new wr 3 ([0, 5, 1000000, 1000001, -1].map (Value.int .i64))) (Below.refl _ _).drew) hg1 (fun e => by injection e with e; omega))
       have hy1 : cc < y1.heap.size := hD1.cur.lt
       have HIi : Hid (id.size ≤ 3) := hid
       clear hid hc1 hg1
       obtain ⟨e0, e1, e2, e3, e4⟩ := (show _ ∧ _ ∧ _ ∧ _ ∧ _ from ⟨BoxN.cell hD1.box 0 rfl, BoxN.cell hD1.box 1 rfl, BoxN.cell hD1.box 2 rfl, BoxN.cell hD1.box 3 rfl, BoxN.cell hD1.box 4 rfl⟩)
       have r0 : ∀ o, (y1.alloc o).cell? ⟨b, 0, none⟩ = _ := fun o => BoxN.cell (hD1.new o).box 0 rfl
       have r1 : ∀ o, (y1.alloc o).cell? ⟨b, 1, none⟩ = _ := fun o => BoxN.cell (hD1.new o).box 1 rfl
       have r2 : ∀ o, (y1.alloc o).cell? ⟨b, 2, none⟩ = _ := fun o => BoxN.cell (hD1.new o).box 2 rfl
       have r3 : ∀ o, (y1.alloc o).cell? ⟨b, 3, none⟩ = _ := fun o => BoxN.cell (hD1.new o).box 3 rfl
       have r4 : ∀ o, (y1.alloc o).cell? ⟨b, 4, none⟩ = _ := fun o => BoxN.cell (hD1.new o).box 4 rfl
       )
    | (go_at_call 35
       first
         | ((with_reducible show Calls _ _ _ y1 _); refine (l1Int_any cc cc a len cap zs wr.heap.size 5 5 [0, 5, 1000000, 1000001, -1] y1 hD1.cur hl HL1.out (by omega) rfl (by omega) (by omega)).mono ?_; rintro e y2 ⟨x, rfl, hx, hc2, hg2⟩
            have hD2 := hD1.call hc2 hg2)
         | (refine (l1Int_any cc cc a len cap zs y1.heap.size 5 5 [0, 5, 1000000, 1000001, -1] _ (hD1.new _).cur hl (heap_alloc_new y1 _) (by omega) rfl (by omega) (by omega)).mono ?_; rintro e y2 ⟨x, rfl, hx, hc2, hg2⟩
            have hD2 := (hD1.new _).call hc2 hg2)
       have HXx : Hid (-1 ≤ x ∧ x ≤ 1000001) := by show _ ∧ _; simp only [List.mem_cons, List.not_mem_nil, or_false] at hx; omega
       clear hx hc2 hg2
       obtain ⟨m0, m1, m2, m3, m4⟩ := (show _ ∧ _ ∧ _ ∧ _ ∧ _ from ⟨BoxN.cell hD2.box 0 rfl, BoxN.cell hD2.box 1 rfl, BoxN.cell hD2.box 2 rfl, BoxN.cell hD2.box 3 rfl, BoxN.cell hD2.box 4 rfl⟩)
       obtain ⟨z0, z1, z2, z3, z4⟩ := (show _ ∧ _ ∧ _ ∧ _ ∧ _ from ⟨BoxN.cell hD2.zero 0 rfl, BoxN.cell hD2.zero 1 rfl, BoxN.cell hD2.zero 2 rfl, BoxN.cell hD2.zero 3 rfl, BoxN.cell hD2.zero 4 rfl⟩)
       obtain ⟨g0, g1, g2, g3, g4⟩ := (show _ ∧ _ ∧ _ ∧ _ ∧ _ from ⟨BoxN.frozen hD2.zero 0, BoxN.frozen hD2.zero 1, BoxN.frozen hD2.zero 2, BoxN.frozen hD2.zero 3, BoxN.frozen hD2.zero 4⟩)
       have hnbw : b ≠ w.heap.size := by omega
       have t0 := fun (v0 v1 v2 v3 v4 : Value) => BoxN.cell (BoxN.other (BoxN.other (BoxN.other (BoxN.other (BoxN.other hD2.box hnbw v0 (k := 0)) hnbw v1 (k := 1)) hnbw v2 (k := 2)) hnbw v3 (k := 3)) hnbw v4 (k := 4)) 0 rfl
       have t1 := fun (v0 v1 v2 v3 v4 : Value) => BoxN.cell (BoxN.other (BoxN.other (BoxN.other (BoxN.other (BoxN.other hD2.box hnbw v0 (k := 0)) hnbw v1 (k := 1)) hnbw v2 (k := 2)) hnbw v3 (k := 3)) hnbw v4 (k := 4)) 1 rfl
       have t2 := fun (v0 v1 v2 v3 v4 : Value) => BoxN.cell (BoxN.other (BoxN.other (BoxN.other (BoxN.other (BoxN.other hD2.box hnbw v0 (k := 0)) hnbw v1 (k := 1)) hnbw v2 (k := 2)) hnbw v3 (k := 3)) hnbw v4 (k := 4)) 2 rfl
       have t3 := fun (v0 v1 v2 v3 v4 : Value) => BoxN.cell (BoxN.other (BoxN.other (BoxN.other (BoxN.other (BoxN.other hD2.box hnbw v0 (k := 0)) hnbw v1 (k := 1)) hnbw v2 (k := 2)) hnbw v3 (k := 3)) hnbw v4 (k := 4)) 3 rfl
       have t4 := fun (v0 v1 v2 v3 v4 : Value) => BoxN.cell (BoxN.other (BoxN.other (BoxN.other (BoxN.other (BoxN.other hD2.box hnbw v0 (k := 0)) hnbw v1 (k := 1)) hnbw v2 (k := 2)) hnbw v3 (k := 3)) hnbw v4 (k := 4)) 4 rfl
       )
    | fail)
  all_goals
    have HR := (show Hid _ from hD2.done)
    have HI : Hid (id.size ≤ 3 ∧ (-1 ≤ x ∧ x ≤ 1000001)) := ⟨HIi.out, HXx.out⟩
    clear hD1 hD2 HDd HDa HD c0 c1 c2 c3 c4 q0 q1 q2 q3 q4 e0 e1 e2 e3 e4 r0 r1 r2 r3 r4 m0 m1 m2 m3 m4 t0 t1 t2 t3 t4
    go_wp2_with fail
    refine bodyPost_ret (v := .tuple #[.agg #[.slice A n C, .slice A' n' C', .int .i64 ep, .int .i64 nx, .slice ua un uc], .string id, .int .i64 x]) (by simp [results, Tryz.f7, go_sem, z0, z1, z2, z3, z4]) rfl ?_
    exact ⟨⟨_, id, x, rfl, HR.out.1, HI.out⟩, HR.out.2⟩

end Go.Proofs.YtjaihnmhojabfaaGreatDoor
