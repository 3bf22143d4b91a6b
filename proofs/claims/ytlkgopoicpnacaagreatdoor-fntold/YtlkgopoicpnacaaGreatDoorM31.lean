/- What the draw of a server gives: a right server. For codes of at most 2^40 bytes. -/
import Derived.Test.YtlkgopoicpnacaaGreatDoorM19
import Derived.Test.YtlkgopoicpnacaaGreatDoorM26
import Derived.Test.YtlkgopoicpnacaaGreatDoorM27
import Derived.Test.YtlkgopoicpnacaaGreatDoorM28
import Derived.Test.YtlkgopoicpnacaaGreatDoorM29
import Derived.Test.YtlkgopoicpnacaaGreatDoorM30
import Derived.Test.YtlkgopoicpnacaaGreatDoorM30
import Derived.Test.YtlkgopoicpnacaaGreatDoorM26
import Derived.Deep.CutBlock
import Derived.Deep.CutRange
import Derived.Deep.RegionHeld3
import Derived.Deep.RegionWith
namespace Go.Proofs.YtlkgopoicpnacaaGreatDoor
open Go.RowKit
set_option linter.unusedVariables false

set_option maxRecDepth 10000 in
set_option maxHeartbeats 12800000 in
theorem l15Draw_any (B c : Nat) (a : Option Addr) (len cap : Nat) (zs : List Int) (most : Nat) (w : World) (hcur : Cur w B c a len cap zs) (hl : len ≤ 1099511627776) (hm1 : 1 ≤ most) (hm2 : most ≤ 1000) :
    Calls Tryz.prog 13 #[.pointer (some ⟨c, 0, none⟩), .int .i64 (most : Int)] w fun e w' => (∃ v, e = .returned v ∧ DrawnV w.heap.size (most : Int) v w') ∧ Cur w' B c a len cap zs ∧ w.grownBy w' (some c) := by
  have hmm : 1000000000 < maxLen := by decide
  have HC : Hid (Cur w B c a len cap zs) := hcur
  clear hcur
  have hcw : c < w.heap.size := HC.out.lt
  obtain ⟨w1, hw1⟩ : ∃ w1, w.alloc (.cells #[.slice none 0 0, .slice none 0 0, .int .i64 0, .int .i64 0, .slice none 0 0, .slice none 0 0] 32) = w1 := ⟨_, rfl⟩
  have HE : Hid (w.alloc (.cells #[.slice none 0 0, .slice none 0 0, .int .i64 0, .int .i64 0, .slice none 0 0, .slice none 0 0] 32) = w1) := hw1
  have HZ1 : Hid (BoxN w1 w.heap.size 32 [.slice none 0 0, .slice none 0 0, .int .i64 0, .int .i64 0, .slice none 0 0, .slice none 0 0]) := by show BoxN _ _ _ _; rw [← hw1]; exact BoxN.new _ _ _
  have HC1 : Hid (Cur w1 B c a len cap zs) := by show Cur _ _ _ _ _ _ _; rw [← hw1]; exact HC.out.new _
  have HG1 : Hid (w.grownBy w1 (some c)) := by show World.grownBy _ _ _; rw [← hw1]; exact World.grownBy_alloc w _ _
  clear hw1 HC
  go_enter Tryz.func13, Tryz.ntmps13
  go_upto_region 1 with fail
  rw [HE.out]
  clear HE
  have hs1 : w.heap.size < w1.heap.size := HZ1.out.lt
  go_wp2_with fail
  refine (l1Int_any B c a len cap zs w1.heap.size 3 3 [30, 30, 6] _ (HC1.out.new _) hl (heap_alloc_new w1 _) (by omega) rfl (by omega) (by omega)).mono ?_
  rintro e w2 ⟨x, rfl, hx, hc2, hg2⟩
  have hN : newN x ≤ 200 := by
    have hx6 : x ≤ 30 := by
      simp only [List.mem_cons, List.not_mem_nil, or_false] at hx
      omega
    rw [newN]
    split <;> omega
  have hg12 : w1.grownBy w2 (some c) := gtrans (World.grownBy_alloc w1 _ _) hg2
  have HSg : Hid (SGV 0 (List.replicate (newN x) ⟨#[]⟩) (List.replicate (newN x) ⟨#[]⟩) 0 0 [] []) := ⟨SG.new _ hN, by simp, by simp⟩
  have HC2 : Hid (Cur w2 B c a len cap zs) := hc2
  have HG2 : Hid (w.grownBy w2 (some c)) := gtrans HG1.out hg12
  have HZ2 : Hid (BoxN w2 w.heap.size 32 [.slice none 0 0, .slice none 0 0, .int .i64 0, .int .i64 0, .slice none 0 0, .slice none 0 0]) := HZ1.out.grown hg12 (fun e => by injection e with e; omega)
  clear hx hg2 hg12 HC1 HG1 HZ1 hs1
  go_wp2_with fail
  refine (specServerNew_any x w2).mono ?_
  rintro e w3 ⟨⟨Ai, Ci, Aj, Cj, ui, uci, rfl, hs3⟩, hb3⟩
  obtain ⟨Ni, hNN⟩ : ∃ Ni, newN x = Ni := ⟨_, rfl⟩
  obtain ⟨X0, hX0⟩ : ∃ X0, List.replicate (newN x) (⟨#[]⟩ : ByteArray) = X0 := ⟨_, rfl⟩
  rw [hX0] at HSg hs3
  rw [hNN] at hs3 hN ⊢
  have HD3 : Hid (DSv w (w3.alloc (.cells #[.slice Ai Ni Ci, .slice Aj Ni Cj, .int .i64 0, .int .i64 0, .slice ui 0 uci, .slice none 0 0] 32)) B c a len cap zs w3.heap.size 0 Ai Ni Ci X0 Aj Ni Cj X0 0 0 ui 0 uci [] none 0 0 []) := by
    have h2 := HZ2.out.lt
    have hb4 : Below w3.heap.size w3 (w3.alloc (.cells #[.slice Ai Ni Ci, .slice Aj Ni Cj, .int .i64 0, .int .i64 0, .slice ui 0 uci, .slice none 0 0] 32)) := (Below.refl _ _).alloc (Nat.le_refl _) _
    exact ⟨BoxN.new _ _ _, (HZ2.out.stays hb3).stays hb4, ⟨(hs3.stays hb4).low h2, ⟨⟨rfl, .inl ⟨rfl, rfl⟩⟩, by simp⟩⟩, (HC2.out.kept (gbelow hb3 none) (by simp)).new _, gnew (gtrans HG2.out (gbelow hb3 _)) _, HSg.out, hcw, Nat.lt_of_lt_of_le h2 hb3.size⟩
  clear hs3 hb3 HC2 HG2 HZ2 HSg hX0 hNN hN
  go_wp2_with fail
  obtain ⟨w4, hw4⟩ : ∃ w4, w3.alloc (.cells #[.slice Ai Ni Ci, .slice Aj Ni Cj, .int .i64 0, .int .i64 0, .slice ui 0 uci, .slice none 0 0] 32) = w4 := ⟨_, rfl⟩
  rw [hw4] at HD3 ⊢
  clear hw4
  generalize w3.heap.size = b at *
  refine (l1Below_any B c a len cap zs (most : Int) w4 HD3.out.cur hl (by omega) (by omega)).mono ?_
  rintro e w5 ⟨m, rfl, hm0, hmm2, hc5, hg5⟩
  obtain ⟨M, rfl⟩ := Int.eq_ofNat_of_zero_le hm0
  have HD5 : Hid (DSv w w5 B c a len cap zs b 0 Ai Ni Ci X0 Aj Ni Cj X0 0 0 ui 0 uci [] none 0 0 []) := HD3.out.call hc5 hg5
  clear hc5 hg5 HD3
  go_wp2_with fail
  go_loopw [6] (fun v wr => ∃ (j : Nat) (K : Int) (A : Option Addr) (n C : Nat) (X : List ByteArray) (A' : Option Addr) (n' C' : Nat) (Y : List ByteArray) (ep nx : Int) (ua : Option Addr) (un uc : Nat) (l : List UE) (ha : Option Addr) (hn hc : Nat) (hs : List Hd), v = .int .i64 (j : Int) ∧ j ≤ M ∧ Hid (K + (j : Int) ≤ (M : Int)) ∧ Hid (DSv w wr B c a len cap zs b K A n C X A' n' C' Y ep nx ua un uc l ha hn hc hs)) (fun v _ => (intOf v).toNat)
  case atStart => exact ⟨M, 0, Ai, Ni, Ci, X0, Aj, Ni, Cj, X0, 0, 0, ui, 0, uci, [], none, 0, 0, [], rfl, Nat.le_refl _, by show _ ≤ _; omega, HD5⟩
  case round =>
    clear HD5
    obtain ⟨j, K, A, n, C, X, A', n', C', Y, ep, nx, ua, un, uc, l, ha, hn, hc, hs, rfl, hjM, HK, HD⟩ := hrel
    by_cases hj : j = 0
    · subst hj
      obtain ⟨c0, c1, c2, c3, c4, c5⟩ := (show _ ∧ _ ∧ _ ∧ _ ∧ _ ∧ _ from ⟨HD.out.box.cell 0 rfl, HD.out.box.cell 1 rfl, HD.out.box.cell 2 rfl, HD.out.box.cell 3 rfl, HD.out.box.cell 4 rfl, HD.out.box.cell 5 rfl⟩)
      obtain ⟨r0, r1, r2, r3, r4, r5⟩ := (show _ ∧ _ ∧ _ ∧ _ ∧ _ ∧ _ from ⟨HD.out.zero.cell 0 rfl, HD.out.zero.cell 1 rfl, HD.out.zero.cell 2 rfl, HD.out.zero.cell 3 rfl, HD.out.zero.cell 4 rfl, HD.out.zero.cell 5 rfl⟩)
      obtain ⟨f0, f1, f2, f3, f4, f5⟩ := (show _ ∧ _ ∧ _ ∧ _ ∧ _ ∧ _ from ⟨HD.out.zero.frozen 0, HD.out.zero.frozen 1, HD.out.zero.frozen 2, HD.out.zero.frozen 3, HD.out.zero.frozen 4, HD.out.zero.frozen 5⟩)
      have HR := (show Hid _ from HD.out.done)
      have HKm : Hid (K ≤ (most : Int)) := by show _ ≤ _; have := HK.out; omega
      clear HD
      go_wp2_with fail
      refine bodyPost_ret (v := .agg #[.slice A n C, .slice A' n' C', .int .i64 ep, .int .i64 nx, .slice ua un uc, .slice ha hn hc]) (by simp [results, Tryz.f13, go_sem, r0, r1, r2, r3, r4, r5]) rfl ?_
      obtain ⟨X', Y', ep', nx', us', hs', h1, h2⟩ := HR.out.1
      exact ⟨⟨_, rfl, X', Y', ep', nx', us', hs', h1, h2.more HKm.out⟩, HR.out.2⟩
    have hji : (0 : Int) < (j : Int) := by omega
    have HK2 : Hid (K + 1 + ((j - 1 : Nat) : Int) ≤ (M : Int)) := by show _ ≤ _; have := HK.out; omega
    go_upto_block 1 with fail
    go_cut [7, 8, 9, 10] from 18 to 57 (fun v7 v8 v9 v10 W => ∃ (A : Option Addr) (n C : Nat) (X : List ByteArray) (A' : Option Addr) (n' C' : Nat) (Y : List ByteArray) (ep nx : Int) (ua : Option Addr) (un uc : Nat) (l : List UE) (ha : Option Addr) (hn hc : Nat) (hs : List Hd), Hid (DSv w W B c a len cap zs b (K + 1) A n C X A' n' C' Y ep nx ua un uc l ha hn hc hs))
    case first =>
      have hbl := HD.out.low
      have hbw : b < wr.heap.size := HD.out.box.lt
      go_wp2_with fail
      refine (l1Below_any B c a len cap zs 6 wr HD.out.cur hl (by omega) (by omega)).mono ?_
      rintro e w6 ⟨m, rfl, hm0, hm6, hc6, hg6⟩
      have HD6 : Hid (DSv w w6 B c a len cap zs b K A n C X A' n' C' Y ep nx ua un uc l ha hn hc hs) := HD.out.call hc6 hg6
      clear hc6 hg6 HD
      have hbw6 : b < w6.heap.size := HD6.out.box.lt
      by_cases h0 : m = 0
      · subst h0
        obtain ⟨c0, c1, c2, c3, c4, c5⟩ := (show _ ∧ _ ∧ _ ∧ _ ∧ _ ∧ _ from ⟨HD6.out.box.cell 0 rfl, HD6.out.box.cell 1 rfl, HD6.out.box.cell 2 rfl, HD6.out.box.cell 3 rfl, HD6.out.box.cell 4 rfl, HD6.out.box.cell 5 rfl⟩)
        have HP := (show Hid _ from HD6.out.sv.pre HD6.out.sgv)
        have hn2 := HP.out.2.2.1
        have hn3 := HP.out.2.2.2.1
        have hn4 := HP.out.2.2.2.2.2.2.2.1
        have hn5 := HP.out.2.2.2.2.2.2.2.2.2.2.2.2
        go_wp2_with fail
        refine (specSyncAll_any A n C X A' n' C' Y ep nx ua un uc (w.heap.size + 1) l ha hn hc hs w6 HP.out.1 HP.out.2.1 (by omega) (by omega) HP.out.2.2.2.2.1 HP.out.2.2.2.2.2.1 HP.out.2.2.2.2.2.2.1 (by omega) (fun e he => by have := HP.out.2.2.2.2.2.2.2.2.1 e he; omega) HP.out.2.2.2.2.2.2.2.2.2.2.2.1 (by omega)).mono ?_
        rintro e y ⟨⟨v, u, rfl, hans⟩, hb⟩
        obtain ⟨t1, t2, t3, t4⟩ := told_sync HD6.out.sgv
        rw [t1, t2, t3] at hans
        obtain ⟨A2, n2, C2, A2', n2', C2', ua2, un2, uc2, l2, ha2, hn2_, hc2, pa, pn, pc, rfl, rfl, hv2, hm2, hp2, _⟩ := hans
        have hD2 := HD6.out.stays hb
        obtain ⟨m0, m1, m2, m3, m4, m5⟩ := (show _ ∧ _ ∧ _ ∧ _ ∧ _ ∧ _ from ⟨hD2.box.cell 0 rfl, hD2.box.cell 1 rfl, hD2.box.cell 2 rfl, hD2.box.cell 3 rfl, hD2.box.cell 4 rfl, hD2.box.cell 5 rfl⟩)
        obtain ⟨f0, f1, f2, f3, f4, f5⟩ := (show _ ∧ _ ∧ _ ∧ _ ∧ _ ∧ _ from ⟨hD2.box.frozen 0, hD2.box.frozen 1, hD2.box.frozen 2, hD2.box.frozen 3, hD2.box.frozen 4, hD2.box.frozen 5⟩)
        have HF := (show Hid _ from hD2.put (k2 := K + 1) (hv2.low (by omega)) (by rw [hm2]; exact t4.more (by omega)))
        clear hv2 hm2 hp2 hb hD2 HP HD6 t1 t2 t3 t4
        go_wp2_with fail
        go_meet
        exact ⟨_, _, _, _, _, _, _, _, _, _, _, _, _, _, _, _, _, _, HF⟩
      have hb0 : (m == 0) = false := by simpa using h0
      by_cases h1 : m = 1
      · subst h1
        go_upto_region 11 with fail
        have HDd := (show Hid _ from HD6.out.stays (Below.refl _ _).drew)
        obtain ⟨c0, c1, c2, c3, c4, c5⟩ := (show _ ∧ _ ∧ _ ∧ _ ∧ _ ∧ _ from ⟨HDd.out.box.cell 0 rfl, HDd.out.box.cell 1 rfl, HDd.out.box.cell 2 rfl, HDd.out.box.cell 3 rfl, HDd.out.box.cell 4 rfl, HDd.out.box.cell 5 rfl⟩)
        have q0 : ∀ o, (w6.alloc o).drew.cell? ⟨b, 0, none⟩ = _ := fun o => ((HD6.out.new o).stays (Below.refl _ _).drew).box.cell 0 rfl
        have q1 : ∀ o, (w6.alloc o).drew.cell? ⟨b, 1, none⟩ = _ := fun o => ((HD6.out.new o).stays (Below.refl _ _).drew).box.cell 1 rfl
        have q2 : ∀ o, (w6.alloc o).drew.cell? ⟨b, 2, none⟩ = _ := fun o => ((HD6.out.new o).stays (Below.refl _ _).drew).box.cell 2 rfl
        have q3 : ∀ o, (w6.alloc o).drew.cell? ⟨b, 3, none⟩ = _ := fun o => ((HD6.out.new o).stays (Below.refl _ _).drew).box.cell 3 rfl
        have q4 : ∀ o, (w6.alloc o).drew.cell? ⟨b, 4, none⟩ = _ := fun o => ((HD6.out.new o).stays (Below.refl _ _).drew).box.cell 4 rfl
        have q5 : ∀ o, (w6.alloc o).drew.cell? ⟨b, 5, none⟩ = _ := fun o => ((HD6.out.new o).stays (Below.refl _ _).drew).box.cell 5 rfl
        have HDa : Hid (DSv w (w6.drew.alloc (.cells #[.slice none 0 0, .slice none 0 0, .int .i64 0, .int .i64 0, .slice none 0 0, .slice none 0 0] 32)) B c a len cap zs b K A n C X A' n' C' Y ep nx ua un uc l ha hn hc hs) := HDd.out.new _
        have HZa : Hid (BoxN (w6.drew.alloc (.cells #[.slice none 0 0, .slice none 0 0, .int .i64 0, .int .i64 0, .slice none 0 0, .slice none 0 0] 32)) w6.heap.size 32 [.slice none 0 0, .slice none 0 0, .int .i64 0, .int .i64 0, .slice none 0 0, .slice none 0 0] ∧ b < w6.heap.size) := ⟨BoxN.new w6.drew 32 [.slice none 0 0, .slice none 0 0, .int .i64 0, .int .i64 0, .slice none 0 0, .slice none 0 0], hbw6⟩
        go_region_held3 (fun W => W.cell? ⟨b, 0, none⟩ = some (.slice A n C) ∧ W.cell? ⟨b, 1, none⟩ = some (.slice A' n' C') ∧ W.cell? ⟨b, 2, none⟩ = some (.int .i64 ep) ∧ W.cell? ⟨b, 3, none⟩ = some (.int .i64 nx) ∧ W.cell? ⟨b, 4, none⟩ = some (.slice ua un uc) ∧ W.cell? ⟨b, 5, none⟩ = some (.slice ha hn hc)) (first | with_reducible exact ⟨c0, c1, c2, c3, c4, c5⟩ | with_reducible exact ⟨q0 _, q1 _, q2 _, q3 _, q4 _, q5 _⟩ | with_reducible exact ⟨e0, e1, e2, e3, e4, e5⟩ | with_reducible exact ⟨r0 _, r1 _, r2 _, r3 _, r4 _, r5 _⟩ | with_reducible exact ⟨m0, m1, m2, m3, m4, m5⟩ | with_reducible exact ⟨n0_ _, n1_ _, n2_ _, n3_ _, n4_ _, n5_ _⟩ | with_reducible exact ⟨t0 _ _ _ _ _ _, t1 _ _ _ _ _ _, t2 _ _ _ _ _ _, t3 _ _ _ _ _ _, t4 _ _ _ _ _ _, t5 _ _ _ _ _ _⟩ | fail) (first
          | (go_at_call 31
             first
               | (refine (l12Kept_any B c a len cap zs w6.drew HDd.out.cur hl).mono ?_; rintro e y1 ⟨⟨ka, km, kc, ks, rfl, hm8, hbo⟩, hc1, hg1⟩
                  have hD1 := HDd.out.call hc1 hg1)
               | (refine (l12Kept_any B c a len cap zs (w6.drew.alloc (.cells #[.slice none 0 0, .slice none 0 0, .int .i64 0, .int .i64 0, .slice none 0 0, .slice none 0 0] 32)) HDa.out.cur hl).mono ?_; rintro e y1 ⟨⟨ka, km, kc, ks, rfl, hm8, hbo⟩, hc1, hg1⟩
                  have hD1 := HDa.out.call hc1 hg1
                  have HZ1 := (show Hid _ from And.intro (BoxN.grown HZa.out.1 hg1 (fun e => by injection e with e; omega)) HZa.out.2))
             have HP := (show Hid _ from hD1.sv.pre hD1.sgv)
             have hn2 := HP.out.2.2.1
             have hn3 := HP.out.2.2.2.1
             have hn4 := HP.out.2.2.2.2.2.2.2.1
             have hn5 := HP.out.2.2.2.2.2.2.2.2.2.2.2.2
             have hs1 : b < y1.heap.size := hD1.box.lt
             have HBo : Hid (Bools y1 ka km ks) := OwnBo.strs hbo
             have HBa : Hid (∀ o, Bools (y1.alloc o) ka km ks) := fun o => OwnBo.strs (OwnBo.below hbo ((Below.refl _ _).alloc (Nat.le_refl _) _))
             have e0 := hD1.box.cell 0 rfl
             have r0 : ∀ o, (y1.alloc o).cell? ⟨b, 0, none⟩ = _ := fun o => (hD1.new o).box.cell 0 rfl
             have e1 := hD1.box.cell 1 rfl
             have r1 : ∀ o, (y1.alloc o).cell? ⟨b, 1, none⟩ = _ := fun o => (hD1.new o).box.cell 1 rfl
             have e2 := hD1.box.cell 2 rfl
             have r2 : ∀ o, (y1.alloc o).cell? ⟨b, 2, none⟩ = _ := fun o => (hD1.new o).box.cell 2 rfl
             have e3 := hD1.box.cell 3 rfl
             have r3 : ∀ o, (y1.alloc o).cell? ⟨b, 3, none⟩ = _ := fun o => (hD1.new o).box.cell 3 rfl
             have e4 := hD1.box.cell 4 rfl
             have r4 : ∀ o, (y1.alloc o).cell? ⟨b, 4, none⟩ = _ := fun o => (hD1.new o).box.cell 4 rfl
             have e5 := hD1.box.cell 5 rfl
             have r5 : ∀ o, (y1.alloc o).cell? ⟨b, 5, none⟩ = _ := fun o => (hD1.new o).box.cell 5 rfl
             clear hbo)
          | (go_at_call 30
             first
               | (refine (specCrash_any A n C X A' n' C' Y ep nx ua un uc (w.heap.size + 1) l ha hn hc hs ka km kc ks y1 HP.out.1 HP.out.2.1 (by omega) (by omega) HP.out.2.2.2.2.1 HP.out.2.2.2.2.2.1 HP.out.2.2.2.2.2.2.1 (by omega) (fun e he => by have := HP.out.2.2.2.2.2.2.2.2.1 e he; omega) HP.out.2.2.2.2.2.2.2.2.2.2.2.1 (by omega) HBo.out (by omega)).mono ?_; rintro e y2 ⟨⟨v, rfl, hans⟩, hb2⟩
                  have hD2 := hD1.stays hb2
                  have hy12 : y1.heap.size ≤ y1.heap.size := Nat.le_refl _
                  try (have HZ2 := (show Hid _ from And.intro (BoxN.stays HZ1.out.1 hb2) HZ1.out.2)))
               | (have HPa := (show Hid _ from (hD1.new (.cells #[.slice none 0 0, .slice none 0 0, .int .i64 0, .int .i64 0, .slice none 0 0, .slice none 0 0] 32)).sv.pre (hD1.new (.cells #[.slice none 0 0, .slice none 0 0, .int .i64 0, .int .i64 0, .slice none 0 0, .slice none 0 0] 32)).sgv)
                  refine (specCrash_any A n C X A' n' C' Y ep nx ua un uc (w.heap.size + 1) l ha hn hc hs ka km kc ks (y1.alloc (.cells #[.slice none 0 0, .slice none 0 0, .int .i64 0, .int .i64 0, .slice none 0 0, .slice none 0 0] 32)) HPa.out.1 HPa.out.2.1 (by omega) (by omega) HPa.out.2.2.2.2.1 HPa.out.2.2.2.2.2.1 HPa.out.2.2.2.2.2.2.1 (by omega) (fun e he => by have := HPa.out.2.2.2.2.2.2.2.2.1 e he; omega) HPa.out.2.2.2.2.2.2.2.2.2.2.2.1 (by omega) (HBa.out _) (by omega)).mono ?_; rintro e y2 ⟨⟨v, rfl, hans⟩, hb2⟩
                  have hD2 := (hD1.new _).stays hb2
                  have HZ2 := (show Hid _ from And.intro (BoxN.stays (BoxN.new y1 32 [.slice none 0 0, .slice none 0 0, .int .i64 0, .int .i64 0, .slice none 0 0, .slice none 0 0]) hb2) hs1))
             have hs2 : b < y2.heap.size := hD2.box.lt
             obtain ⟨A2, n2, C2, A2', n2', C2', ua2, un2, uc2, l2, ha2, hn2_, hc2, rfl, hv2, hm2, _⟩ := hans
             have m0 := hD2.box.cell 0 rfl
             have n0_ : ∀ o, (y2.alloc o).cell? ⟨b, 0, none⟩ = _ := fun o => (hD2.new o).box.cell 0 rfl
             have m1 := hD2.box.cell 1 rfl
             have n1_ : ∀ o, (y2.alloc o).cell? ⟨b, 1, none⟩ = _ := fun o => (hD2.new o).box.cell 1 rfl
             have m2 := hD2.box.cell 2 rfl
             have n2_ : ∀ o, (y2.alloc o).cell? ⟨b, 2, none⟩ = _ := fun o => (hD2.new o).box.cell 2 rfl
             have m3 := hD2.box.cell 3 rfl
             have n3_ : ∀ o, (y2.alloc o).cell? ⟨b, 3, none⟩ = _ := fun o => (hD2.new o).box.cell 3 rfl
             have m4 := hD2.box.cell 4 rfl
             have n4_ : ∀ o, (y2.alloc o).cell? ⟨b, 4, none⟩ = _ := fun o => (hD2.new o).box.cell 4 rfl
             have m5 := hD2.box.cell 5 rfl
             have n5_ : ∀ o, (y2.alloc o).cell? ⟨b, 5, none⟩ = _ := fun o => (hD2.new o).box.cell 5 rfl
             try (have t0 := fun (v0 v1 v2 v3 v4 v5 : Value) => (hD2.far6 HZ2.out v0 v1 v2 v3 v4 v5).box.cell 0 rfl
                  have t1 := fun (v0 v1 v2 v3 v4 v5 : Value) => (hD2.far6 HZ2.out v0 v1 v2 v3 v4 v5).box.cell 1 rfl
                  have t2 := fun (v0 v1 v2 v3 v4 v5 : Value) => (hD2.far6 HZ2.out v0 v1 v2 v3 v4 v5).box.cell 2 rfl
                  have t3 := fun (v0 v1 v2 v3 v4 v5 : Value) => (hD2.far6 HZ2.out v0 v1 v2 v3 v4 v5).box.cell 3 rfl
                  have t4 := fun (v0 v1 v2 v3 v4 v5 : Value) => (hD2.far6 HZ2.out v0 v1 v2 v3 v4 v5).box.cell 4 rfl
                  have t5 := fun (v0 v1 v2 v3 v4 v5 : Value) => (hD2.far6 HZ2.out v0 v1 v2 v3 v4 v5).box.cell 5 rfl
                  have z0 := BoxN.cell HZ2.out.1 0 rfl
                  have z1 := BoxN.cell HZ2.out.1 1 rfl
                  have z2 := BoxN.cell HZ2.out.1 2 rfl
                  have z3 := BoxN.cell HZ2.out.1 3 rfl
                  have z4 := BoxN.cell HZ2.out.1 4 rfl
                  have z5 := BoxN.cell HZ2.out.1 5 rfl
                  have g0 := BoxN.frozen HZ2.out.1 0
                  have g1 := BoxN.frozen HZ2.out.1 1
                  have g2 := BoxN.frozen HZ2.out.1 2
                  have g3 := BoxN.frozen HZ2.out.1 3
                  have g4 := BoxN.frozen HZ2.out.1 4
                  have g5 := BoxN.frozen HZ2.out.1 5))
          | fail)
        all_goals
          obtain ⟨CA_, hCA⟩ : ∃ CA_, crA X Y ep nx (l.map UE.u) hs ks = CA_ := ⟨_, rfl⟩
          rw [hCA] at hv2 hm2 ⊢
          have HSo : Hid (CA_.ok = true → SGV (K + 1) CA_.X CA_.Y CA_.ep CA_.nx (l2.map UE.u) CA_.hs) := fun h => by rw [hm2]; exact SGV.crashed hD1.sgv ks hCA h
          first
            | (have HT := hD2.box6 HZ2.out hv2 CA_.ep CA_.nx
               revert HT
               generalize World.setCell (World.setCell (World.setCell (World.setCell (World.setCell (World.setCell y2 _ _) _ _) _ _) _ _) _ _) _ _ = W9
               intro HT)
            | (have HT := hD2.new6 hv2 CA_.ep CA_.nx
               revert HT
               generalize World.alloc y2 _ = W9
               intro HT)
          obtain ⟨hT1, hT2, hT3⟩ := HT
          obtain ⟨p0, p1, p2, p3, p4, p5⟩ := (show _ ∧ _ ∧ _ ∧ _ ∧ _ ∧ _ from ⟨hT3.cell 0 rfl, hT3.cell 1 rfl, hT3.cell 2 rfl, hT3.cell 3 rfl, hT3.cell 4 rfl, hT3.cell 5 rfl⟩)
          obtain ⟨v0, v1, v2, v3, v4, v5⟩ := (show _ ∧ _ ∧ _ ∧ _ ∧ _ ∧ _ from ⟨hT1.box.cell 0 rfl, hT1.box.cell 1 rfl, hT1.box.cell 2 rfl, hT1.box.cell 3 rfl, hT1.box.cell 4 rfl, hT1.box.cell 5 rfl⟩)
          obtain ⟨f0, f1, f2, f3, f4, f5⟩ := (show _ ∧ _ ∧ _ ∧ _ ∧ _ ∧ _ from ⟨hT1.box.frozen 0, hT1.box.frozen 1, hT1.box.frozen 2, hT1.box.frozen 3, hT1.box.frozen 4, hT1.box.frozen 5⟩)
          have hlo : w.heap.size + 1 ≤ y1.heap.size := by omega
          have HF1 := (show Hid _ from hT1.more (show K ≤ K + 1 by omega))
          have HF2 := (show Hid _ from fun (h : CA_.ok = true) => hT1.put (hT2.low (by first | exact hlo | (rw [World.size_alloc]; omega))) (HSo.out h))
          clear hT1 hT2 hT3 HSo hD1 hD2 hv2 hm2 hCA HP HBo HBa hc1 hg1 hb2 HDd HDa HZa c0 c1 c2 c3 c4 c5 q0 q1 q2 q3 q4 q5 e0 e1 e2 e3 e4 e5 r0 r1 r2 r3 r4 r5 m0 m1 m2 m3 m4 m5 n0_ n1_ n2_ n3_ n4_ n5_
          cases hokv : CA_.ok with
          | false =>
            clear HF2
            go_wp2_with fail
            go_meet
            exact ⟨_, _, _, _, _, _, _, _, _, _, _, _, _, _, _, _, _, _, HF1⟩
          | true =>
            have HF := (show Hid _ from HF2.out hokv)
            clear HF1 HF2
            go_wp2_with fail
            go_meet
            exact ⟨_, _, _, _, _, _, _, _, _, _, _, _, _, _, _, _, _, _, HF⟩
      have hb1 : (m == 1) = false := by simpa using h1
      obtain ⟨c0, c1, c2, c3, c4, c5⟩ := (show _ ∧ _ ∧ _ ∧ _ ∧ _ ∧ _ from ⟨HD6.out.box.cell 0 rfl, HD6.out.box.cell 1 rfl, HD6.out.box.cell 2 rfl, HD6.out.box.cell 3 rfl, HD6.out.box.cell 4 rfl, HD6.out.box.cell 5 rfl⟩)
      go_upto_region 6 with fail
      go_wp2_with fail
      refine (l15Req_ok B c a len cap zs (w.heap.size + 1) K A n C X A' n' C' Y ep nx ua un uc l w6 HD6.out.cur hl HD6.out.sv.sto HD6.out.sgv.sg (by omega) (by omega)).mono ?_
      rintro e y ⟨⟨op, id, rn, da, dl, dc, ds, rfl, hids, hrn, hown, hdl⟩, hc7, hg7⟩
      obtain ⟨w7, hw7⟩ : ∃ w7, y.alloc (.cells #[.int .i64 op, .string id, .int .i64 rn] 74) = w7 := ⟨_, rfl⟩
      have HE7 : Hid (y.alloc (.cells #[.int .i64 op, .string id, .int .i64 rn] 74) = w7) := hw7
      have hb7 : Below y.heap.size y w7 := by rw [← hw7]; exact (Below.refl _ _).alloc (Nat.le_refl _) _
      have hs7 : b < y.heap.size := Nat.lt_of_lt_of_le hbw6 hg7.size
      have HD7 : Hid (DSv w w7 B c a len cap zs b K A n C X A' n' C' Y ep nx ua un uc l ha hn hc hs) := (HD6.out.call hc7 hg7).stays hb7
      have HQ7 : Hid (BoxN w7 y.heap.size 74 [.int .i64 op, .string id, .int .i64 rn]) := by show BoxN _ _ _ _; rw [← hw7]; exact BoxN.new _ _ _
      have HO7 : Hid (Owns w7 (w.heap.size + 1) da dl dc ds) := (hown.below hb7).low (by omega)
      have HId : Hid ((id ≠ newId ∧ id.size = 1) ∧ (-9223372036854775808 ≤ rn ∧ rn ≤ 4294967295) ∧ dl ≤ 1000000000) := ⟨hids, hrn, hdl⟩
      clear hids hrn hown hdl hc7 hg7 hw7 hb7 HD6 c0 c1 c2 c3 c4 c5
      go_upto_region 7 with fail
      rw [HE7.out]
      clear HE7
      generalize y.heap.size = p at *
      have HDd : Hid (DSv w w7.drew B c a len cap zs b K A n C X A' n' C' Y ep nx ua un uc l ha hn hc hs) := HD7.out.stays (Below.refl _ _).drew
      have HQd : Hid (BoxN w7.drew p 74 [.int .i64 op, .string id, .int .i64 rn]) := HQ7.out.stays (Below.refl _ _).drew
      have HOd : Hid (Owns w7.drew (w.heap.size + 1) da dl dc ds) := HO7.out.below (Below.refl _ _).drew
      obtain ⟨c0, c1, c2, c3, c4, c5⟩ := (show _ ∧ _ ∧ _ ∧ _ ∧ _ ∧ _ from ⟨HDd.out.box.cell 0 rfl, HDd.out.box.cell 1 rfl, HDd.out.box.cell 2 rfl, HDd.out.box.cell 3 rfl, HDd.out.box.cell 4 rfl, HDd.out.box.cell 5 rfl⟩)
      obtain ⟨q0, q1, q2⟩ := (show _ ∧ _ ∧ _ from ⟨HQd.out.cell 0 rfl, HQd.out.cell 1 rfl, HQd.out.cell 2 rfl⟩)
      go_region_with (first
        | (go_at_call 28
           refine (l1Below_any B c a len cap zs 3 w7.drew HDd.out.cur hl (by omega) (by omega)).mono ?_; rintro e y1 ⟨who, rfl, hw0, hw3, hc8, hg8⟩
           have hD1 := HDd.out.call hc8 hg8
           have hQ1 := HQd.out.grown hg8 (fun e => by injection e with e; omega)
           have hO1 := HOd.out.grown hg8 (fun q e e2 => by injection e with e; have := (HOd.out.lt q e2).1; omega)
           have k0 := hD1.box.cell 0 rfl
           have k1 := hD1.box.cell 1 rfl
           have k2 := hD1.box.cell 2 rfl
           have k3 := hD1.box.cell 3 rfl
           have k4 := hD1.box.cell 4 rfl
           have k5 := hD1.box.cell 5 rfl
           have e0 := hQ1.cell 0 rfl
           have e1 := hQ1.cell 1 rfl
           have e2 := hQ1.cell 2 rfl)
        | (go_at_call 33
           refine (specServe_ok (w.heap.size + 1) K A n C X A' n' C' Y ep nx ua un uc l ha hn hc hs who op id rn da dl dc ds y1 hD1.sv hD1.sgv HId.out.1.1 (by have := HId.out.1.2; omega) HId.out.2.1 ⟨by omega, by omega⟩ hO1.seg hO1.2 (owns_le hO1) HId.out.2.2).mono ?_; rintro e y2 ⟨⟨v, okb, rfl, hdr⟩, hb2⟩
           obtain ⟨A2, n2, C2, X2, A2', n2', C2', Y2, ep2, nx2, ua2, un2, uc2, l2, ha2, hn2_, hc2, hs2, rfl, hv2, hsg2⟩ := hdr.get
           have hD2 := hD1.stays hb2
           have hQ2 := hQ1.stays hb2
           have r0 := hQ2.cell 0 rfl
           have r1 := hQ2.cell 1 rfl
           have r2 := hQ2.cell 2 rfl
           have hy1 : b < y1.heap.size := hD1.box.lt
           have HF := (show Hid _ from hD2.put (hv2.low (by omega)) hsg2)
           have t0 := fun (v0 v1 v2 v3 v4 v5 : Value) => (hQ2.other6 (b := b) (by omega) v0 v1 v2 v3 v4 v5).cell 0 rfl
           have t1 := fun (v0 v1 v2 v3 v4 v5 : Value) => (hQ2.other6 (b := b) (by omega) v0 v1 v2 v3 v4 v5).cell 1 rfl
           have t2 := fun (v0 v1 v2 v3 v4 v5 : Value) => (hQ2.other6 (b := b) (by omega) v0 v1 v2 v3 v4 v5).cell 2 rfl
           have m0 := hD2.box.cell 0 rfl
           have f0 := hD2.box.frozen 0
           have m1 := hD2.box.cell 1 rfl
           have f1 := hD2.box.frozen 1
           have m2 := hD2.box.cell 2 rfl
           have f2 := hD2.box.frozen 2
           have m3 := hD2.box.cell 3 rfl
           have f3 := hD2.box.frozen 3
           have m4 := hD2.box.cell 4 rfl
           have f4 := hD2.box.frozen 4
           have m5 := hD2.box.cell 5 rfl
           have f5 := hD2.box.frozen 5
           clear hdr hv2 hsg2 hb2)
        | fail)
      all_goals
        have HF3 := (show Hid _ from HF.out.more (show K ≤ K + 1 by omega))
        clear hD1 hQ1 hO1 hD2 hQ2 HF HDd HQd HOd hc8 hg8 HId
        go_wp2_with fail
        go_meet
        exact ⟨_, _, _, _, _, _, _, _, _, _, _, _, _, _, _, _, _, _, HF3⟩
    case rest =>
    obtain ⟨wr2, hwr⟩ : ∃ wr2, wc = wr2 := ⟨_, rfl⟩
    rw [hwr] at hcut ⊢
    clear hwr HD
    clear A n C X A' n' C' Y ep nx ua un uc l ha hn hc hs
    obtain ⟨A, n, C, X, A', n', C', Y, ep, nx, ua, un, uc, l, ha, hn, hc, hs, HD⟩ := hcut
    go_wp2_with fail
    go_roundw
    case rel => exact ⟨j - 1, K + 1, A, n, C, X, A', n', C', Y, ep, nx, ua, un, uc, l, ha, hn, hc, hs, by go_num, by omega, HK2, HD⟩
    case measure => simp [intOf]; omega

end Go.Proofs.YtlkgopoicpnacaaGreatDoor
