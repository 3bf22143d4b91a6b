/- The draw of a store, a name and a length. For codes of at most 2^40 bytes. -/
import Derived.Test.YtogopmngbjkcjafGreatDoorM30
import Derived.Test.YtogopmngbjkcjafGreatDoorM30
import Derived.Test.YtogopmngbjkcjafGreatDoorM30
namespace Go.Proofs.YtogopmngbjkcjafGreatDoor
open Go.RowKit
set_option linter.unusedVariables false

theorem SG.bound0 {X Y : List ByteArray} {nx : Int} {us : List U} (h : SG 0 X Y 0 nx us) : Bnd X Y 0 nx us := h.ok.bnd

theorem u_short {S : ByteArray} (h : S.size ≤ 2) : ((⟨#[117]⟩ : ByteArray) ++ S).size ≤ 3 := by
  rw [ByteArray.size_append]
  have : (⟨#[117]⟩ : ByteArray).size = 1 := rfl
  omega

set_option maxRecDepth 10000 in
set_option maxHeartbeats 12800000 in
theorem drawMake_any (a : Option Addr) (len cap : Nat) (zs : List Int) (w : World) (hs : Seg w a len zs) (hl : len ≤ 1099511627776) :
    Calls Tryz.prog 18 #[.slice a len cap] w fun e w' => (∃ v id want, e = .returned (.tuple #[v, .string id, .int .i64 want]) ∧ DrawnB w.heap.size v w' ∧ id.size ≤ 3 ∧ (-1 ≤ want ∧ want ≤ 1000001)) ∧ Below w.heap.size w w' := by
  obtain ⟨w1, hw1⟩ : ∃ w1, w.alloc (.cells #[.slice none 0 0, .slice none 0 0, .int .i64 0, .int .i64 0, .slice none 0 0] 29) = w1 := ⟨_, rfl⟩
  have HE : Hid (w.alloc (.cells #[.slice none 0 0, .slice none 0 0, .int .i64 0, .int .i64 0, .slice none 0 0] 29) = w1) := hw1
  have HZ1 : Hid (BoxN w1 w.heap.size 29 [.slice none 0 0, .slice none 0 0, .int .i64 0, .int .i64 0, .slice none 0 0]) := by show BoxN _ _ _ _; rw [← hw1]; exact BoxN.new _ _ _
  have HB1 : Hid (Below w.heap.size w w1) := by show Below _ _ _; rw [← hw1]; exact (Below.refl _ _).alloc (Nat.le_refl _) _
  have HS : Hid (Seg w1 a len zs) := hs.below HB1.out
  clear hs hw1
  go_enter Tryz.func18, Tryz.ntmps18
  go_wp2_with fail
  rw [HE.out]
  clear HE
  refine (l1New_any a len cap zs w1 HS.out hl).mono ?_
  rintro e w2 ⟨rfl, hc2, hb2⟩
  have hlt : w.heap.size < w1.heap.size := HZ1.out.lt
  have HZ2 : Hid (BoxN w2 w.heap.size 29 [.slice none 0 0, .slice none 0 0, .int .i64 0, .int .i64 0, .slice none 0 0]) := HZ1.out.stays hb2
  have HB2 : Hid (Below w.heap.size w w2) := HB1.out.trans (hb2.mono HB1.out.size)
  obtain ⟨cc, hcc⟩ : ∃ cc, w1.heap.size = cc := ⟨_, rfl⟩
  rw [hcc] at hc2 hlt ⊢
  have HC2 : Hid (Cur w2 cc cc a len cap zs) := hc2
  clear hc2 hb2 HZ1 HB1 HS hcc
  go_wp2_with fail
  refine (l1Size_pos a len cap 20 w2 hl (by omega) (by omega)).mono ?_
  rintro e w2 ⟨⟨n, rfl, hn1, hn⟩, rfl⟩
  go_wp2_with fail
  refine (l14Any_any cc cc a len cap zs n w2 HC2.out hl hn1 (by omega)).mono ?_
  rintro e w6 ⟨⟨v, rfl, X, Y, ep, nx, us, hans, hbn⟩, hc6, hg6⟩
  obtain ⟨A, C, A', C', ua, uc, l, rfl, hs6, hm6⟩ := hans.get
  subst hm6
  obtain ⟨M, hM⟩ : ∃ M, (l.map UE.u).length = M := ⟨_, rfl⟩
  rw [hM] at hs6 ⊢
  have HD6 : Hid (DSw w (w6.alloc (.cells #[.slice A X.length C, .slice A' Y.length C', .int .i64 ep, .int .i64 nx, .slice ua M uc] 29)) cc a len cap zs w6.heap.size A X.length C X A' Y.length C' Y ep nx ua M uc l) := by
    have hcl : cc < w2.heap.size := HC2.out.lt
    have hsz := hg6.size
    have hb4 : Below w6.heap.size w6 (w6.alloc (.cells #[.slice A X.length C, .slice A' Y.length C', .int .i64 ep, .int .i64 nx, .slice ua M uc] 29)) := (Below.refl _ _).alloc (Nat.le_refl _) _
    have hb6 : Below w.heap.size w w6 := HB2.out.grown hg6 HB2.out.size (fun k e => by injection e with e; omega)
    exact ⟨BoxN.new _ _ _, (HZ2.out.grown hg6 (fun e => by injection e with e; omega)).stays hb4, (hs6.stays hb4).low (by omega), hc6.new _, hb6.trans (hb4.mono hb6.size), hbn, hlt, by omega⟩
  clear hans hs6 hbn hc6 hg6 HC2 HB2 HZ2 hM hn hn1
  go_upto_region 3 with fail
  obtain ⟨w4, hw4⟩ : ∃ w4, w6.alloc (.cells #[.slice A X.length C, .slice A' Y.length C', .int .i64 ep, .int .i64 nx, .slice ua M uc] 29) = w4 := ⟨_, rfl⟩
  rw [hw4] at HD6 ⊢
  clear hw4
  obtain ⟨b, hb⟩ : ∃ b, w6.heap.size = b := ⟨_, rfl⟩
  rw [hb] at HD6 ⊢
  clear hb
  have hbl := HD6.out.low
  have hbw : b < w4.heap.size := HD6.out.box.lt
  go_wp2_with fail
  refine (l1Once_any cc cc a len cap zs 20 w4 HD6.out.cur hl (by omega) (by omega)).mono ?_
  rintro e w5 ⟨bb, rfl, hc5, hg5⟩
  have HD := (show Hid _ from HD6.out.call hc5 hg5)
  clear hc5 hg5 HD6 hbw
  go_upto_if 15 with fail
  go_cut [] from 16 (fun W => ∃ (A : Option Addr) (n C : Nat) (X : List ByteArray) (A' : Option Addr) (n' C' : Nat) (Y : List ByteArray) (ep nx : Int) (ua : Option Addr) (un uc : Nat) (l : List UE), Hid (DSw w W cc a len cap zs b A n C X A' n' C' Y ep nx ua un uc l))
  case first =>
    have hbw : b < w5.heap.size := HD.out.box.lt
    cases bb with
    | false =>
      go_wp2_with fail
      go_meet
      exact ⟨_, _, _, _, _, _, _, _, _, _, _, _, _, _, HD⟩
    | true =>
    go_wp2_with fail
    refine (specStoreNew_any 30 w5).mono ?_
    rintro e w7 ⟨⟨v, rfl, hans⟩, hb7⟩
    obtain ⟨A7, C7, A7', C7', ua7, uc7, l7, rfl, hs7, hm7⟩ := hans.get
    have hN : newN 30 = 30 := by decide
    rw [hN] at hs7 hans ⊢
    obtain ⟨X0, hX0⟩ : ∃ X0, List.replicate 30 (⟨#[]⟩ : ByteArray) = X0 := ⟨_, rfl⟩
    have hsg : SOk X0 X0 0 0 [] := by rw [← hX0]; exact (SG.new 30 (by omega)).ok
    rw [hX0] at hs7 ⊢
    rw [← hm7] at hsg
    obtain ⟨L0, hL0⟩ : ∃ L0, X0.length = L0 := ⟨_, rfl⟩
    rw [hL0] at hs7 ⊢
    rw [List.length_nil] at hs7 ⊢
    have hD7 := HD.out.stays hb7
    have hsz7 := hb7.size
    have HF7 := (show Hid _ from hD7.put (hs7.low (by have := HD.out.cur.lt; omega)) hsg.bnd)
    have HO7 : Hid (SOk X0 X0 0 0 (l7.map UE.u)) := hsg
    obtain ⟨m0, m1, m2, m3, m4⟩ := (show _ ∧ _ ∧ _ ∧ _ ∧ _ from ⟨BoxN.cell hD7.box 0 rfl, BoxN.cell hD7.box 1 rfl, BoxN.cell hD7.box 2 rfl, BoxN.cell hD7.box 3 rfl, BoxN.cell hD7.box 4 rfl⟩)
    obtain ⟨f0, f1, f2, f3, f4⟩ := (show _ ∧ _ ∧ _ ∧ _ ∧ _ from ⟨BoxN.frozen hD7.box 0, BoxN.frozen hD7.box 1, BoxN.frozen hD7.box 2, BoxN.frozen hD7.box 3, BoxN.frozen hD7.box 4⟩)
    clear hans hs7 hm7 hb7 hD7 HD hX0 hL0 hsg hN hsz7
    go_wp2_with fail
    go_loopw [7] (fun v wr => ∃ (i : Nat) (A : Option Addr) (n C : Nat) (X : List ByteArray) (A' : Option Addr) (n' C' : Nat) (Y : List ByteArray) (ep nx : Int) (ua : Option Addr) (un uc : Nat) (l : List UE), v = .int .i64 (i : Int) ∧ i ≤ 10 ∧ Hid (DSw w wr cc a len cap zs b A n C X A' n' C' Y ep nx ua un uc l) ∧ Hid (SOk X Y ep nx (l.map UE.u))) (fun v _ => 10 - (intOf v).toNat)
    case atStart => exact ⟨0, _, _, _, _, _, _, _, _, _, _, _, _, _, _, rfl, by omega, HF7, HO7⟩
    case round =>
      clear HF7 HO7
      obtain ⟨i, A, n, C, X, A', n', C', Y, ep, nx, ua, un, uc, l, rfl, hi10, HD, HO⟩ := hrel
      go_wp2_with fail
      refine (l1Below_any cc cc a len cap zs 2 wr HD.out.cur hl (by omega) (by omega)).mono ?_
      rintro e w8 ⟨m, rfl, hm0, hm1, hc8, hg8⟩
      have HD8 := (show Hid _ from HD.out.call hc8 hg8)
      clear hc8 hg8 HD
      have hbw8 : b < w8.heap.size := HD8.out.box.lt
      have hmw : IntKind.i64.wrap (10 - m) = 10 - m := by rw [IntKind.wrap_i64]; omega
      by_cases hlt8 : (i : Int) < 10 - m
      case neg =>
        have hd8 : decide ((i : Int) < 10 - m) = false := by simpa using hlt8
        clear hlt8
        go_wp2_with fail
        go_meet
        exact ⟨_, _, _, _, _, _, _, _, _, _, _, _, _, _, HD8⟩
      have hd8 : decide ((i : Int) < 10 - m) = true := by simpa using hlt8
      have hi9 : i ≤ 9 := by omega
      clear hlt8
      have HP := (show Hid _ from HD8.out.sto.preB HD8.out.bnd)
      have hn2 := HP.out.2.2.1
      have hn3 := HP.out.2.2.2.1
      have hn4 := HP.out.2.2.2.2.2.2.2.1
      have HDd := (show Hid _ from HD8.out.drew)
      have hTx : ∀ W, Calls Tryz.prog 67 #[.int .i64 (i : Int)] W fun e w' => e = .returned (.string ⟨(Lib.decDigits i).toArray⟩) ∧ Below W.heap.size W w' := fun W => l1Text_any i W (by omega)
      have hSz : (⟨(Lib.decDigits i).toArray⟩ : ByteArray).size ≤ 2 := by
        rw [Lib.decDigits_one (by omega)]
        have h1 : (⟨#[UInt8.ofNat (48 + i)]⟩ : ByteArray).size = 1 := rfl
        show (⟨#[UInt8.ofNat (48 + i)]⟩ : ByteArray).size ≤ 2
        omega
      obtain ⟨S, hS⟩ : ∃ S : ByteArray, (⟨(Lib.decDigits i).toArray⟩ : ByteArray) = S := ⟨_, rfl⟩
      rw [hS] at hSz
      simp only [hS] at hTx
      have HTx := (show Hid _ from hTx)
      have HIs : Hid (((⟨#[117]⟩ : ByteArray) ++ S).size ≤ maxLen) := by
        show _ ≤ _
        have h1 := u_short hSz
        have h2 : 3 ≤ maxLen := by decide
        omega
      clear hTx hS
      obtain ⟨c0, c1, c2, c3, c4⟩ := (show _ ∧ _ ∧ _ ∧ _ ∧ _ from ⟨BoxN.cell HDd.out.box 0 rfl, BoxN.cell HDd.out.box 1 rfl, BoxN.cell HDd.out.box 2 rfl, BoxN.cell HDd.out.box 3 rfl, BoxN.cell HDd.out.box 4 rfl⟩)
      go_upto_region 8 with fail
      go_region_with (first
        | (go_at_call 20; refine (specMake_any A n C X A' n' C' Y ep nx ua un uc (cc + 1) l _ 1 y1 HP1.out.1 HP1.out.2.1 (by omega) (by omega) HP1.out.2.2.2.2.1 HP1.out.2.2.2.2.2.1 HP1.out.2.2.2.2.2.2.1 (by omega) (fun e he => by have := HP1.out.2.2.2.2.2.2.2.2.1 e he; omega) HIs.out (by omega)).mono ?_; rintro e y2 ⟨⟨v, rfl, hans⟩, hb2⟩
           obtain ⟨p, cp, p', cp', va, vc, l', rfl, hs2, hm2⟩ := hans.get
           have hD2 := hD1.stays hb2
           obtain ⟨m0, m1, m2, m3, m4⟩ := (show _ ∧ _ ∧ _ ∧ _ ∧ _ from ⟨BoxN.cell hD2.box 0 rfl, BoxN.cell hD2.box 1 rfl, BoxN.cell hD2.box 2 rfl, BoxN.cell hD2.box 3 rfl, BoxN.cell hD2.box 4 rfl⟩)
           obtain ⟨f0, f1, f2, f3, f4⟩ := (show _ ∧ _ ∧ _ ∧ _ ∧ _ from ⟨BoxN.frozen hD2.box 0, BoxN.frozen hD2.box 1, BoxN.frozen hD2.box 2, BoxN.frozen hD2.box 3, BoxN.frozen hD2.box 4⟩))
        | (go_at_call 67; refine (HTx.out _).mono ?_; rintro e y1 ⟨rfl, hb1⟩
           have hD1 := HDd.out.stays hb1
           have HP1 := (show Hid _ from hD1.sto.preB hD1.bnd)
           obtain ⟨e0, e1, e2, e3, e4⟩ := (show _ ∧ _ ∧ _ ∧ _ ∧ _ from ⟨BoxN.cell hD1.box 0 rfl, BoxN.cell hD1.box 1 rfl, BoxN.cell hD1.box 2 rfl, BoxN.cell hD1.box 3 rfl, BoxN.cell hD1.box 4 rfl⟩))
        | fail)
      all_goals
        have hokA : SOk _ _ _ _ _ := makeA_sokW (id := (⟨#[117]⟩ : ByteArray) ++ S) (want := 1) HO.out
        have hcl := hD1.cur.lt
        rw [← hm2] at hokA
        have HF := (show Hid _ from hD2.put (hs2.low (by omega)) hokA.bnd)
        have HO2 := (show Hid _ from hokA)
        clear hans hs2 hm2 hb2 hD1 hD2 HP HP1 hb1 hokA c0 c1 c2 c3 c4 e0 e1 e2 e3 e4 HDd HD8 HO HTx HIs hcl
        go_wp2_with fail
        go_roundw
        case rel => exact ⟨i + 1, _, _, _, _, _, _, _, _, _, _, _, _, _, _, by go_num, by omega, HF, HO2⟩
        case measure => simp [intOf]; omega
  case rest =>
  obtain ⟨wr, hwr⟩ : ∃ wr, wc = wr := ⟨_, rfl⟩
  rw [hwr] at hcut ⊢
  clear hwr HD hbl
  obtain ⟨A, n, C, X, A', n', C', Y, ep, nx, ua, un, uc, l, HD⟩ := hcut
  have hbl := HD.out.low
  have hlc := HD.out.lc
  have hcw : cc < wr.heap.size := HD.out.cur.lt
  have hbw : b < wr.heap.size := HD.out.box.lt
  have HDd := (show Hid _ from HD.out.drew)
  have HDa : Hid (∀ o, DSw w ((wr.alloc o).drew) cc a len cap zs b A n C X A' n' C' Y ep nx ua un uc l) := fun o => (HD.out.new o).drew
  obtain ⟨c0, c1, c2, c3, c4⟩ := (show _ ∧ _ ∧ _ ∧ _ ∧ _ from ⟨BoxN.cell HDd.out.box 0 rfl, BoxN.cell HDd.out.box 1 rfl, BoxN.cell HDd.out.box 2 rfl, BoxN.cell HDd.out.box 3 rfl, BoxN.cell HDd.out.box 4 rfl⟩)
  have q0 : ∀ o, (wr.alloc o).drew.cell? ⟨b, 0, none⟩ = _ := fun o => BoxN.cell (HDa.out o).box 0 rfl
  have q1 : ∀ o, (wr.alloc o).drew.cell? ⟨b, 1, none⟩ = _ := fun o => BoxN.cell (HDa.out o).box 1 rfl
  have q2 : ∀ o, (wr.alloc o).drew.cell? ⟨b, 2, none⟩ = _ := fun o => BoxN.cell (HDa.out o).box 2 rfl
  have q3 : ∀ o, (wr.alloc o).drew.cell? ⟨b, 3, none⟩ = _ := fun o => BoxN.cell (HDa.out o).box 3 rfl
  have q4 : ∀ o, (wr.alloc o).drew.cell? ⟨b, 4, none⟩ = _ := fun o => BoxN.cell (HDa.out o).box 4 rfl
  go_upto_region 9 with fail
  go_region_held3 (fun W => W.cell? ⟨b, 0, none⟩ = some (.slice A n C) ∧ W.cell? ⟨b, 1, none⟩ = some (.slice A' n' C') ∧ W.cell? ⟨b, 2, none⟩ = some (.int .i64 ep) ∧ W.cell? ⟨b, 3, none⟩ = some (.int .i64 nx) ∧ W.cell? ⟨b, 4, none⟩ = some (.slice ua un uc)) (first | with_reducible exact ⟨c0, c1, c2, c3, c4⟩ | with_reducible exact ⟨q0 _, q1 _, q2 _, q3 _, q4 _⟩ | with_reducible exact ⟨e0, e1, e2, e3, e4⟩ | with_reducible exact ⟨r0 _, r1 _, r2 _, r3 _, r4 _⟩ | with_reducible exact ⟨m0, m1, m2, m3, m4⟩ | with_reducible exact ⟨t0 _ _ _ _ _, t1 _ _ _ _ _, t2 _ _ _ _ _, t3 _ _ _ _ _, t4 _ _ _ _ _⟩ | fail) (first
    | (go_at_call 41
       first
         | ((with_reducible show Calls _ _ _ wr.drew _); refine (l14Id_any cc cc a len cap zs wr.drew HDd.out.cur hl).mono ?_; rintro e y1 ⟨id, rfl, hid, hc1, hg1⟩
            have hD1 := HDd.out.call hc1 hg1)
         | (refine (l14Id_any cc cc a len cap zs _ (HDa.out _).cur hl).mono ?_; rintro e y1 ⟨id, rfl, hid, hc1, hg1⟩
            have hD1 := (HDa.out _).call hc1 hg1
            have HL1 : Hid (BoxN y1 wr.heap.size 3 ([0, 5, 1000000, 1000001, -1].map (Value.int .i64))) := BoxN.grown (W := ((wr.alloc (.cells #[.int .i64 0, .int .i64 5, .int .i64 1000000, .int .i64 1000001, .int .i64 (-1)] 3)).drew)) (BoxN.stays (BoxN.new wr 3 ([0, 5, 1000000, 1000001, -1].map (Value.int .i64))) (Below.refl _ _).drew) hg1 (fun e => by injection e with e; omega))
       have hy1 : cc < y1.heap.size := hD1.cur.lt
       have HIi : Hid (id.size ≤ 3) := hid
       clear hid hc1 hg1
       obtain ⟨e0, e1, e2, e3, e4⟩ := (show _ ∧ _ ∧ _ ∧ _ ∧ _ from ⟨BoxN.cell hD1.box 0 rfl, BoxN.cell hD1.box 1 rfl, BoxN.cell hD1.box 2 rfl, BoxN.cell hD1.box 3 rfl, BoxN.cell hD1.box 4 rfl⟩)
       have r0 : ∀ o, (y1.alloc o).cell? ⟨b, 0, none⟩ = _ := fun o => BoxN.cell (hD1.new o).box 0 rfl
       have r1 : ∀ o, (y1.alloc o).cell? ⟨b, 1, none⟩ = _ := fun o => BoxN.cell (hD1.new o).box 1 rfl
       have r2 : ∀ o, (y1.alloc o).cell? ⟨b, 2, none⟩ = _ := fun o => BoxN.cell (hD1.new o).box 2 rfl
       have r3 : ∀ o, (y1.alloc o).cell? ⟨b, 3, none⟩ = _ := fun o => BoxN.cell (hD1.new o).box 3 rfl
       have r4 : ∀ o, (y1.alloc o).cell? ⟨b, 4, none⟩ = _ := fun o => BoxN.cell (hD1.new o).box 4 rfl
       )
    | (go_at_call 43
       first
         | ((with_reducible show Calls _ _ _ y1 _); refine (l1Int_any cc cc a len cap zs wr.heap.size 5 5 [0, 5, 1000000, 1000001, -1] y1 hD1.cur hl HL1.out (by omega) rfl (by omega) (by omega)).mono ?_; rintro e y2 ⟨x, rfl, hx, hc2, hg2⟩
            have hD2 := hD1.call hc2 hg2)
         | (refine (l1Int_any cc cc a len cap zs y1.heap.size 5 5 [0, 5, 1000000, 1000001, -1] _ (hD1.new _).cur hl (heap_alloc_new y1 _) (by omega) rfl (by omega) (by omega)).mono ?_; rintro e y2 ⟨x, rfl, hx, hc2, hg2⟩
            have hD2 := (hD1.new _).call hc2 hg2)
       have HXx : Hid (-1 ≤ x ∧ x ≤ 1000001) := by show _ ∧ _; simp only [List.mem_cons, List.not_mem_nil, or_false] at hx; omega
       clear hx hc2 hg2
       obtain ⟨m0, m1, m2, m3, m4⟩ := (show _ ∧ _ ∧ _ ∧ _ ∧ _ from ⟨BoxN.cell hD2.box 0 rfl, BoxN.cell hD2.box 1 rfl, BoxN.cell hD2.box 2 rfl, BoxN.cell hD2.box 3 rfl, BoxN.cell hD2.box 4 rfl⟩)
       obtain ⟨z0, z1, z2, z3, z4⟩ := (show _ ∧ _ ∧ _ ∧ _ ∧ _ from ⟨BoxN.cell hD2.zero 0 rfl, BoxN.cell hD2.zero 1 rfl, BoxN.cell hD2.zero 2 rfl, BoxN.cell hD2.zero 3 rfl, BoxN.cell hD2.zero 4 rfl⟩)
       obtain ⟨g0, g1, g2, g3, g4⟩ := (show _ ∧ _ ∧ _ ∧ _ ∧ _ from ⟨BoxN.frozen hD2.zero 0, BoxN.frozen hD2.zero 1, BoxN.frozen hD2.zero 2, BoxN.frozen hD2.zero 3, BoxN.frozen hD2.zero 4⟩)
       have hnbw : b ≠ w.heap.size := by omega
       have t0 := fun (v0 v1 v2 v3 v4 : Value) => BoxN.cell (BoxN.other (BoxN.other (BoxN.other (BoxN.other (BoxN.other hD2.box hnbw v0 (k := 0)) hnbw v1 (k := 1)) hnbw v2 (k := 2)) hnbw v3 (k := 3)) hnbw v4 (k := 4)) 0 rfl
       have t1 := fun (v0 v1 v2 v3 v4 : Value) => BoxN.cell (BoxN.other (BoxN.other (BoxN.other (BoxN.other (BoxN.other hD2.box hnbw v0 (k := 0)) hnbw v1 (k := 1)) hnbw v2 (k := 2)) hnbw v3 (k := 3)) hnbw v4 (k := 4)) 1 rfl
       have t2 := fun (v0 v1 v2 v3 v4 : Value) => BoxN.cell (BoxN.other (BoxN.other (BoxN.other (BoxN.other (BoxN.other hD2.box hnbw v0 (k := 0)) hnbw v1 (k := 1)) hnbw v2 (k := 2)) hnbw v3 (k := 3)) hnbw v4 (k := 4)) 2 rfl
       have t3 := fun (v0 v1 v2 v3 v4 : Value) => BoxN.cell (BoxN.other (BoxN.other (BoxN.other (BoxN.other (BoxN.other hD2.box hnbw v0 (k := 0)) hnbw v1 (k := 1)) hnbw v2 (k := 2)) hnbw v3 (k := 3)) hnbw v4 (k := 4)) 3 rfl
       have t4 := fun (v0 v1 v2 v3 v4 : Value) => BoxN.cell (BoxN.other (BoxN.other (BoxN.other (BoxN.other (BoxN.other hD2.box hnbw v0 (k := 0)) hnbw v1 (k := 1)) hnbw v2 (k := 2)) hnbw v3 (k := 3)) hnbw v4 (k := 4)) 4 rfl
       )
    | fail)
  all_goals
    have HR := (show Hid _ from hD2.done)
    have HI : Hid (id.size ≤ 3 ∧ (-1 ≤ x ∧ x ≤ 1000001)) := ⟨HIi.out, HXx.out⟩
    clear hD1 hD2 HDd HDa HD c0 c1 c2 c3 c4 q0 q1 q2 q3 q4 e0 e1 e2 e3 e4 r0 r1 r2 r3 r4 m0 m1 m2 m3 m4 t0 t1 t2 t3 t4
    go_wp2_with fail
    refine bodyPost_ret (v := .tuple #[.agg #[.slice A n C, .slice A' n' C', .int .i64 ep, .int .i64 nx, .slice ua un uc], .string id, .int .i64 x]) (by simp [results, Tryz.f18, go_sem, z0, z1, z2, z3, z4]) rfl ?_
    exact ⟨⟨_, id, x, rfl, HR.out.1, HI.out⟩, HR.out.2⟩

end Go.Proofs.YtogopmngbjkcjafGreatDoor
