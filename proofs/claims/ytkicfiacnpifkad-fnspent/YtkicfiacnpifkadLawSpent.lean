/- The law that what is spent of a drawn window is spent of both, and granted again all is as it was. -/
import Derived.Test.YtkicfiacnpifkadDrawSp
import Derived.Test.YtkicfiacnpifkadFlowLaws
import Derived.Test.YtkicfiacnpifkadFlowSpendI
import Derived.Test.YtkicfiacnpifkadFlowGrantI
import Derived.Test.YtkicfiacnpifkadFlowSpendS
import Derived.Test.YtkicfiacnpifkadFlowWrongs
import Derived.Test.YtkicfiacnpifkadLawBig
namespace Go.Proofs.Ytkicfiacnpifkad
open Go.RowKit
set_option linter.unusedVariables false

/-- A flow in a variable of the law's. -/
def FIn (W : World) (b : Nat) (c i : Int) (A : Option Addr) (n C : Nat) (l : List Lane) : Prop := Box3 W b 36 (.int .i64 c) (.int .i64 i) (.slice A n C) ∧ Lanes W A n l

theorem FIn.stays {W W' : World} {b : Nat} {c i : Int} {A : Option Addr} {n C : Nat} {l : List Lane} (h : FIn W b c i A n C l) (hb : Below W.heap.size W W') : FIn W' b c i A n C l := ⟨h.1.stays hb, h.2.below hb⟩

theorem FIn.new {W : World} {c i : Int} {A : Option Addr} {n C : Nat} {l : List Lane} (h : Lanes W A n l) : FIn (W.alloc (.cells #[.int .i64 c, .int .i64 i, .slice A n C] 36)) W.heap.size c i A n C l := ⟨Box3.new _ _ _ _ _, h.below ((Below.refl _ _).alloc (Nat.le_refl _) _)⟩

theorem FIn.past {W : World} {b : Nat} {c i : Int} {A : Option Addr} {n C : Nat} {l : List Lane} (h : FIn W b c i A n C l) : (∀ P : Past W, P.world.cell? ⟨b, 0, none⟩ = some (.int .i64 c)) ∧ (∀ P : Past W, P.world.cell? ⟨b, 1, none⟩ = some (.int .i64 i)) ∧ (∀ P : Past W, P.world.cell? ⟨b, 2, none⟩ = some (.slice A n C)) ∧ ∀ P : Past W, Lanes P.world A n l :=
  ⟨fun P => ((h.stays P.below).1.cells).1, fun P => ((h.stays P.below).1.cells).2.1, fun P => ((h.stays P.below).1.cells).2.2, fun P => (h.stays P.below).2⟩

set_option maxRecDepth 10000 in
set_option maxHeartbeats 6400000 in
theorem lawSpent_any (a : Option Addr) (len cap : Nat) (zs : List Int) (w : World) (hm : len ≤ maxLen) (hs : Seg w a len zs) :
    Calls Try.prog 4 #[.slice a len cap] w fun e w' => e = .returned (.bool true) ∧ Below w.heap.size w w' := by
  have HS : Hid (Seg w a len zs) := hs
  clear hs
  by_cases hbig : (1048576 : Int) < (len : Int)
  · have hd : Hid (decide ((1048576 : Int) < (len : Int)) = true) := by show _ = _; simpa using hbig
    go_enter Try.func4, Try.ntmps4
    go_wp2_with fail
    refine (big_any a len cap w hm).mono ?_
    rintro e w1 ⟨rfl, hw1⟩
    subst w1
    rw [hd.out]
    go_wp2_with fail
    go_ret
    exact ⟨rfl, Below.refl _ _⟩
  have hd : Hid (decide ((1048576 : Int) < (len : Int)) = false) := by show _ = _; simpa using hbig
  have hl : len ≤ 1099511627776 := by omega
  clear hbig
  go_enter Try.func4, Try.ntmps4
  go_wp2_with fail
  refine (big_any a len cap w hm).mono ?_
  rintro e w1 ⟨rfl, hw1⟩
  subst w1
  rw [hd.out]
  go_wp2_with fail
  refine (drawSpend_any a len cap zs w HS.out hl).mono ?_
  rintro e w2 ⟨c, i, A, n, C, l, id, m, rfl, hn, hcb, ho2, hb2⟩
  have HF3 := (show Hid (FIn (w2.alloc (.cells #[.int .i64 c, .int .i64 i, .slice A n C] 36)) w2.heap.size c i A n C l) from FIn.new ho2.lanes)
  have HB3 : Hid (Below w.heap.size w (w2.alloc (.cells #[.int .i64 c, .int .i64 i, .slice A n C] 36))) := hb2.alloc hb2.size _
  have HCb : Hid (i64b c) := hcb
  have HLn : Hid (l.length = n) := ho2.len
  clear ho2 hb2 hcb HS hd
  go_upto_region 4 with fail
  obtain ⟨w3, hw3⟩ : ∃ w3, w2.alloc (.cells #[.int .i64 c, .int .i64 i, .slice A n C] 36) = w3 := ⟨_, rfl⟩
  rw [hw3] at HF3 HB3 ⊢
  clear hw3
  generalize w2.heap.size = bf at *
  obtain ⟨c0, c1, c2⟩ := HF3.out.1.cells
  go_wp2_with fail
  refine (implSpend_any c i A n C l id m _ HF3.out.2 (by omega)).mono ?_
  rintro e w4 ⟨⟨A4, C4, rfl, ho4⟩, hb4⟩
  have HSp : Hid (∀ (W : World), Lanes W A n l → Calls Try.prog 14 #[.agg #[.int .i64 c, .int .i64 i, .slice A n C], .int .i64 id, .int .i64 m] W fun e w' => AnsF W.heap.size (spendR c i l id m) e w' ∧ Below W.heap.size W w') := fun W h => specSpend_any c i A n C l id m W h (by omega) HCb.out
  obtain ⟨R, hR⟩ : ∃ R, spendR c i l id m = R := ⟨_, rfl⟩
  have HR : Hid (spendR c i l id m = R) := hR
  have HRl : Hid (R.1.2.2.length ≤ n) := by show _ ≤ _; rw [← hR, ← HLn.out]; exact spendR_l c i l id m
  rw [hR] at ho4 HSp ⊢
  clear hR
  obtain ⟨⟨rc, ri, rl⟩, rb⟩ := R
  dsimp only at ho4 HRl ⊢
  obtain ⟨rn, hrn⟩ : ∃ rn, rl.length = rn := ⟨_, rfl⟩
  rw [hrn] at ho4 HRl ⊢
  clear hrn
  have hrn6 : rn ≤ 6 := Nat.le_trans HRl.out hn
  have HX4 := (show Hid (FIn (w4.alloc (.cells #[.int .i64 rc, .int .i64 ri, .slice A4 rn C4] 36)) w4.heap.size rc ri A4 rn C4 rl) from FIn.new ho4.lanes)
  have hba : Below w4.heap.size w4 (w4.alloc (.cells #[.int .i64 rc, .int .i64 ri, .slice A4 rn C4] 36)) := (Below.refl _ _).alloc (Nat.le_refl _) _
  have HF4 := (show Hid (FIn (w4.alloc (.cells #[.int .i64 rc, .int .i64 ri, .slice A4 rn C4] 36)) bf c i A n C l) from (HF3.out.stays hb4).stays hba)
  have HB4 : Hid (Below w.heap.size w (w4.alloc (.cells #[.int .i64 rc, .int .i64 ri, .slice A4 rn C4] 36))) := by
    have h1 : Below w.heap.size w w4 := HB3.out.trans (hb4.mono HB3.out.size)
    exact h1.alloc h1.size _
  clear ho4 hb4 hba HF3 HB3 c0 c1 c2
  go_upto_region 5 with fail
  obtain ⟨w5, hw5⟩ : ∃ w5, w4.alloc (.cells #[.int .i64 rc, .int .i64 ri, .slice A4 rn C4] 36) = w5 := ⟨_, rfl⟩
  rw [hw5] at HX4 HF4 HB4 ⊢
  clear hw5
  generalize w4.heap.size = bx at *
  obtain ⟨c0, c1, c2⟩ := HF4.out.1.cells
  go_wp2_with fail
  refine (HSp.out _ HF4.out.2).mono ?_
  rintro e w6 ⟨⟨A6, C6, rfl, ho6⟩, hb6⟩
  dsimp only at ho6 ⊢
  have hbb : Below w6.heap.size w6 (w6.alloc (.cells #[.int .i64 rc, .int .i64 ri, .slice A6 rl.length C6] 36)) := (Below.refl _ _).alloc (Nat.le_refl _) _
  have HX6 := (show Hid (FIn (w6.alloc (.cells #[.int .i64 rc, .int .i64 ri, .slice A6 rl.length C6] 36)) bx rc ri A4 rn C4 rl) from (HX4.out.stays hb6).stays hbb)
  have HF6 := (show Hid (FIn (w6.alloc (.cells #[.int .i64 rc, .int .i64 ri, .slice A6 rl.length C6] 36)) bf c i A n C l) from (HF4.out.stays hb6).stays hbb)
  have HB6 : Hid (Below w.heap.size w (w6.alloc (.cells #[.int .i64 rc, .int .i64 ri, .slice A6 rl.length C6] 36))) := by
    have h1 : Below w.heap.size w w6 := HB4.out.trans (hb6.mono HB4.out.size)
    exact h1.alloc h1.size _
  clear ho6 hb6 hbb HX4 HF4 HB4 c0 c1 c2 HSp
  go_upto_region 6 with fail
  obtain ⟨w7, hw7⟩ : ∃ w7, w6.alloc (.cells #[.int .i64 rc, .int .i64 ri, .slice A6 rl.length C6] 36) = w7 := ⟨_, rfl⟩
  rw [hw7] at HX6 HF6 HB6 ⊢
  clear hw7
  have hne := past_some w7
  obtain ⟨p0, p1, p2, p3⟩ := HF6.out.past
  obtain ⟨q0, q1, q2, q3⟩ := HX6.out.past
  have HPl : Hid (∀ P : Past w7, Lanes P.world A n l) := p3
  have HQl : Hid (∀ P : Past w7, Lanes P.world A4 rn rl) := q3
  clear p3 q3
  cases rb
  case false =>
    have hbad := spendR_bad (by rw [HR.out])
    rw [HR.out] at hbad
    injection hbad with hb1 hb2
    injection hb1 with e1 e2
    injection e2 with e2 e3
    subst e1 e2 e3
    have hcc : (rc == rc) = true := by simp
    have HRx : Hid (∀ P : Past w7, Calls Try.prog 15 #[.agg #[.int .i64 rc, .int .i64 ri, .slice A4 rn C4], .int .i64 id] P.world fun e w' => e = .returned (.int .i64 (roomN rc rl id)) ∧ Below P.world.heap.size P.world w') := fun P => implRoom_any rc ri A4 rn C4 rl id _ (HQl.out P) (by omega)
    have HRf : Hid (∀ P : Past w7, Calls Try.prog 15 #[.agg #[.int .i64 rc, .int .i64 ri, .slice A n C], .int .i64 id] P.world fun e w' => e = .returned (.int .i64 (roomN rc rl id)) ∧ Below P.world.heap.size P.world w') := fun P => implRoom_any rc ri A n C rl id _ (HPl.out P) (by omega)
    generalize roomN rc rl id = rm at *
    have hrm : (rm == rm) = true := by simp
    go_wp2_with fail
    refine wp_region_past (by kernel_rfl) (by kernel_rfl) ?_
    repeat (quiet_step ((first | (go_at_call 15; with_reducible exact calls_past (HRx.out _)) | (go_at_call 15; with_reducible exact calls_past (HRf.out _)) | fail)))
    refine wpQuiet_nil ?_
    rintro _ ⟨z, rfl⟩
    have HZ : Hid (Below w.heap.size w z.world) := HB6.out.trans (z.below.mono HB6.out.size)
    go_wp2_with fail
    go_ret
    exact ⟨rfl, HZ.out⟩
  obtain ⟨K, hK, hKl, hm0, hmc, hmq, hok, hok2, hRe, hroom⟩ := spendR_ok (by rw [HR.out])
  rw [HR.out] at hRe
  injection hRe with hb1 hb2
  injection hb1 with e1 e2
  injection e2 with e2 e3
  subst e1 e2
  have hid : id ≠ 0 := by
    have h1 := hok.1 K hKl
    unfold badAt at h1
    rw [(atL_iff hK).2.1] at h1
    omega
  have hokx : okB (c - m) ri rl = true := by rw [e3]; exact okB_yes hok2
  have hrx : roomN (c - m) rl id = roomN c l id - m := by rw [e3]; exact hroom
  have HG1 : Hid (0 < m → grantR (c - m) ri rl id m = ((c - m, ri, l), true)) := fun h => by rw [e3]; exact grant_lane hid hK h hmc (hmq h) hok hok2
  have HG2 : Hid (0 < m → grantR (c - m) ri l 0 m = ((c, ri, l), true)) := fun h => grant_all h hmc hok
  have hcr := hok.2.1
  have hrb := roomN_le (c := c) (l := l) (id := id)
  have hw1 : IntKind.i64.wrap (c - m) = c - m := wrap_in (by omega)
  have hw2 : IntKind.i64.wrap (roomN c l id - m) = roomN c l id - m := wrap_in (by omega)
  have HMz : Hid (¬ m = 0 → 0 < m) := fun h => by omega
  have HOk : Hid (∀ P : Past w7, Calls Try.prog 16 #[.agg #[.int .i64 (c - m), .int .i64 ri, .slice A4 rn C4]] P.world fun e w' => e = .returned (.bool true) ∧ Below P.world.heap.size P.world w') := fun P => by have h := implFok_any (c - m) ri A4 rn C4 rl _ (HQl.out P) (by omega); rw [hokx] at h; exact h
  have HRx : Hid (∀ P : Past w7, Calls Try.prog 15 #[.agg #[.int .i64 (c - m), .int .i64 ri, .slice A4 rn C4], .int .i64 id] P.world fun e w' => e = .returned (.int .i64 (roomN c l id - m)) ∧ Below P.world.heap.size P.world w') := fun P => by have h := implRoom_any (c - m) ri A4 rn C4 rl id _ (HQl.out P) (by omega); rw [hrx] at h; exact h
  have HRf : Hid (∀ P : Past w7, Calls Try.prog 15 #[.agg #[.int .i64 c, .int .i64 ri, .slice A n C], .int .i64 id] P.world fun e w' => e = .returned (.int .i64 (roomN c l id)) ∧ Below P.world.heap.size P.world w') := fun P => implRoom_any c ri A n C l id _ (HPl.out P) (by omega)
  have HRg : Hid (∀ (W : World) (A' : Option Addr) (n' C' : Nat), n' ≤ 6 → Lanes W A' n' l → Calls Try.prog 15 #[.agg #[.int .i64 c, .int .i64 ri, .slice A' n' C'], .int .i64 id] W fun e w' => e = .returned (.int .i64 (roomN c l id)) ∧ Below W.heap.size W w') := fun W A' n' C' hn' h => implRoom_any c ri A' n' C' l id _ h (by omega)
  clear hb2 hid hokx hrx hcr hrb hok hok2 hroom hmq hKl hK e3 HR hm0 hmc
  generalize roomN c l id = rm at *
  obtain ⟨oc, hoc⟩ : ∃ oc, c - m = oc := ⟨_, rfl⟩
  rw [hoc] at hw1 HG1 HG2 HOk HRx HX6 q0
  obtain ⟨om, hom⟩ : ∃ om, rm - m = om := ⟨_, rfl⟩
  rw [hom] at hw2 HRx
  have hn1 : (oc != oc) = false := by simp
  have hn2 : (om != om) = false := by simp
  go_upto_region 10 with fail
  go_cut [77] from 14 (fun v W => v = .bool false ∧ Hid (Below w7.heap.size w7 W))
  case first =>
    refine wp_region_past (by kernel_rfl) (by kernel_rfl) ?_
    repeat (quiet_step ((first | (go_at_call 16; with_reducible exact calls_past (HOk.out _)) | (go_at_call 15; with_reducible exact calls_past (HRx.out _)) | (go_at_call 15; with_reducible exact calls_past (HRf.out _)) | fail)))
    refine wpQuiet_nil ?_
    rintro _ ⟨z, rfl⟩
    have HZ : Hid (Below w7.heap.size w7 z.world) := z.below
    go_wp2_with fail
    go_meet
    exact ⟨rfl, HZ⟩
  case rest =>
  obtain ⟨rfl, HZc⟩ := hcut
  obtain ⟨w8, hw8⟩ : ∃ w8, wc = w8 := ⟨_, rfl⟩
  rw [hw8] at HZc ⊢
  have HB8 : Hid (Below w.heap.size w w8) := HB6.out.trans (HZc.out.mono HB6.out.size)
  have HX8 := (show Hid (FIn w8 bx oc ri A4 rn C4 rl) from HX6.out.stays HZc.out)
  have HF8 := (show Hid (FIn w8 bf c ri A n C l) from HF6.out.stays HZc.out)
  clear hw8 HZc HB6 HX6 HF6 p0 p1 p2 q0 q1 q2 HPl HQl HOk HRx HRf hne hn1 hn2 hw1 hw2
  by_cases hmz : m = 0
  · subst hmz
    go_wp2_with fail
    go_ret
    exact ⟨rfl, HB8.out⟩
  have hmz2 : (m == 0) = false := by simpa using hmz
  have hg1 := HG1.out (HMz.out hmz)
  have hg2 := HG2.out (HMz.out hmz)
  have HGa : Hid (Calls Try.prog 17 #[.agg #[.int .i64 oc, .int .i64 ri, .slice A4 rn C4], .int .i64 id, .int .i64 m] w8 fun e w' => AnsF w8.heap.size ((oc, ri, l), true) e w' ∧ Below w8.heap.size w8 w') := by
    have h := implGrant_any oc ri A4 rn C4 rl id m w8 HX8.out.2 (by omega)
    rw [hg1] at h
    exact h
  have HGb : Hid (∀ (W : World) (A' : Option Addr) (n' C' : Nat), n' ≤ 6 → Lanes W A' n' l → Calls Try.prog 17 #[.agg #[.int .i64 oc, .int .i64 ri, .slice A' n' C'], .int .i64 0, .int .i64 m] W fun e w' => AnsF W.heap.size ((c, ri, l), true) e w' ∧ Below W.heap.size W w') := fun W A' n' C' hn' h => by
    have h2 := implGrant_any oc ri A' n' C' l 0 m W h (by omega)
    rw [hg2] at h2
    exact h2
  clear hg1 hg2 HG1 HG2 HMz hoc hom hmz
  obtain ⟨c0, c1, c2⟩ := HX8.out.1.cells
  go_wp2_with fail
  refine HGa.out.mono ?_
  rintro e w9 ⟨⟨A9, C9, rfl, ho9⟩, hb9⟩
  dsimp only at ho9 ⊢
  rw [HLn.out] at ho9 ⊢
  have hbb : Below w9.heap.size w9 (w9.alloc (.cells #[.int .i64 oc, .int .i64 ri, .slice A9 n C9] 36)) := (Below.refl _ _).alloc (Nat.le_refl _) _
  have HY9 := (show Hid (FIn (w9.alloc (.cells #[.int .i64 oc, .int .i64 ri, .slice A9 n C9] 36)) w9.heap.size oc ri A9 n C9 l) from FIn.new ho9.lanes)
  have HF9 := (show Hid (FIn (w9.alloc (.cells #[.int .i64 oc, .int .i64 ri, .slice A9 n C9] 36)) bf c ri A n C l) from (HF8.out.stays hb9).stays hbb)
  have HB9 : Hid (Below w.heap.size w (w9.alloc (.cells #[.int .i64 oc, .int .i64 ri, .slice A9 n C9] 36))) := by
    have h1 : Below w.heap.size w w9 := HB8.out.trans (hb9.mono HB8.out.size)
    exact h1.alloc h1.size _
  clear ho9 hb9 hbb HX8 HF8 HB8 c0 c1 c2 HGa
  go_upto_region 15 with fail
  obtain ⟨wa, hwa⟩ : ∃ wa, w9.alloc (.cells #[.int .i64 oc, .int .i64 ri, .slice A9 n C9] 36) = wa := ⟨_, rfl⟩
  rw [hwa] at HY9 HF9 HB9 ⊢
  clear hwa
  generalize w9.heap.size = bg at *
  obtain ⟨c0, c1, c2⟩ := HY9.out.1.cells
  go_wp2_with fail
  refine (HGb.out _ A9 n C9 hn HY9.out.2).mono ?_
  rintro e wb ⟨⟨Ab, Cb, rfl, hob⟩, hbb0⟩
  dsimp only at hob ⊢
  rw [HLn.out] at hob ⊢
  have hbb : Below wb.heap.size wb (wb.alloc (.cells #[.int .i64 c, .int .i64 ri, .slice Ab n Cb] 36)) := (Below.refl _ _).alloc (Nat.le_refl _) _
  have HZb := (show Hid (FIn (wb.alloc (.cells #[.int .i64 c, .int .i64 ri, .slice Ab n Cb] 36)) wb.heap.size c ri Ab n Cb l) from FIn.new hob.lanes)
  have HFb := (show Hid (FIn (wb.alloc (.cells #[.int .i64 c, .int .i64 ri, .slice Ab n Cb] 36)) bf c ri A n C l) from (HF9.out.stays hbb0).stays hbb)
  have HBb : Hid (Below w.heap.size w (wb.alloc (.cells #[.int .i64 c, .int .i64 ri, .slice Ab n Cb] 36))) := by
    have h1 : Below w.heap.size w wb := HB9.out.trans (hbb0.mono HB9.out.size)
    exact h1.alloc h1.size _
  clear hob hbb0 hbb HY9 HF9 HB9 c0 c1 c2 HGb
  go_upto_region 16 with fail
  obtain ⟨wd, hwd⟩ : ∃ wd, wb.alloc (.cells #[.int .i64 c, .int .i64 ri, .slice Ab n Cb] 36) = wd := ⟨_, rfl⟩
  rw [hwd] at HZb HFb HBb ⊢
  clear hwd
  generalize wb.heap.size = bz at *
  have hne := past_some wd
  obtain ⟨p0, p1, p2, p3⟩ := HFb.out.past
  obtain ⟨q0, q1, q2, q3⟩ := HZb.out.past
  have HPr : Hid (∀ P : Past wd, Calls Try.prog 15 #[.agg #[.int .i64 c, .int .i64 ri, .slice A n C], .int .i64 id] P.world fun e w' => e = .returned (.int .i64 rm) ∧ Below P.world.heap.size P.world w') := fun P => HRg.out _ A n C hn (p3 P)
  have HQr : Hid (∀ P : Past wd, Calls Try.prog 15 #[.agg #[.int .i64 c, .int .i64 ri, .slice Ab n Cb], .int .i64 id] P.world fun e w' => e = .returned (.int .i64 rm) ∧ Below P.world.heap.size P.world w') := fun P => HRg.out _ Ab n Cb hn (q3 P)
  clear p3 q3 HRg HZb HFb
  have hcc : (c == c) = true := by simp
  have hrm : (rm == rm) = true := by simp
  refine wp_region_past (by kernel_rfl) (by kernel_rfl) ?_
  repeat (quiet_step ((first | (go_at_call 15; with_reducible exact calls_past (HQr.out _)) | (go_at_call 15; with_reducible exact calls_past (HPr.out _)) | fail)))
  refine wpQuiet_nil ?_
  rintro _ ⟨z, rfl⟩
  have HZ : Hid (Below w.heap.size w z.world) := HBb.out.trans (z.below.mono HBb.out.size)
  go_wp2_with fail
  go_ret
  exact ⟨rfl, HZ.out⟩

end Go.Proofs.Ytkicfiacnpifkad
