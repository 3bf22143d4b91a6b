/- The walk of the law FnExactFoldRecs. From what the row lists of the program's error to the cell that holds it. -/
import Derived.Test.YtogopmngbjkcjatDoorM09
import Derived.Test.YtogopmngbjkcjatDoorM11
import Derived.Test.YtogopmngbjkcjatDoorM11
import Derived.Test.YtogopmngbjkcjatDoorM12
import Derived.Test.YtogopmngbjkcjatDoorM13
import Derived.Test.YtogopmngbjkcjatDoorM13
import Derived.Test.YtogopmngbjkcjatDoorM14
import Derived.Test.YtogopmngbjkcjatDoorM27
import Derived.Test.YtogopmngbjkcjatDoorM32
import Derived.Test.YtogopmngbjkcjatDoorM32
import Derived.Test.YtogopmngbjkcjatDoorM32
import Derived.Test.YtogopmngbjkcjatDoorM15
import Derived.FnData
namespace Go.Proofs.YtogopmngbjkcjatDoor
open Go.RowKit
set_option linter.unusedVariables false

/-- Uploads that are answered, in memory of their own. -/
def AnsF (base K : Nat) (us : List U) (ok : Bool) (e : Ending) (w' : World) : Prop :=
  ∃ (a : Option Addr) (c : Nat) (lu : List UE), e = .returned (.tuple #[.slice a K c, .bool ok]) ∧ UpRow w' base (.slice a K c) lu ∧ lu.map UE.u = us ∧ lu.length = K ∧ (∀ e ∈ lu, e.n ≤ 1099511627776) ∧ mkUEnd 1 lu ≤ 2199023255552

theorem ansF_of {base K n : Nat} {rs : List R} {x : Value} {l' : List UE} {w' : World} (h : UpRow w' base x l') (hm : l'.map UE.u = (foldU rs).getD []) (h10 : l'.length ≤ 10) (hK : ((foldU rs).getD []).length = K) (hn : rs.length ≤ 1048576) (hz : ∀ r ∈ rs, r.zs.length ≤ 1048576) : AnsF base K ((foldU rs).getD []) (foldU rs).isSome (.returned (.tuple #[x, .bool (foldU rs).isSome])) w' := by
  obtain ⟨a, c, rfl⟩ := h.shape
  have hl : l'.length = K := by rw [← hK, ← hm, List.length_map]
  have ht := foldU_tot rs
  have hr := totR_le 1048576 rs hz
  have hr2 : rs.length * 1048576 ≤ 1048576 * 1048576 := Nat.mul_le_mul_right _ hn
  have hen : ∀ e ∈ l', e.n = e.u.zs.length := fun e he => (h.2.1 e he).seg.1.symm
  refine ⟨a, c, l', by rw [hl], by rw [← hl]; exact h, hm, hl, fun e he => ?_, ?_⟩
  · have h1 : e.u.zs.length ≤ totU (l'.map UE.u) := totU_mem (List.mem_map_of_mem he)
    rw [hm] at h1
    have := hen e he
    omega
  · rw [mkUEnd_tot 1 l' hen, hm]
    omega

/-- A row of uploads outside of what has turned. -/
theorem UpRow.keptW {W W' : World} {base lo hi n c : Nat} {a : Option Addr} {l : List UE} (h : UpRow W base (.slice a n c) l) (hw : Within W W' lo hi) (ho : hi ≤ base ∨ ((∀ q, a.map (·.block) = some q → q < lo) ∧ ∀ e ∈ l, ∀ q, e.a.map (·.block) = some q → q < lo)) : UpRow W' base (.slice a n c) l := by
  refine h.same (fun q e => ?_) (fun x hx q e => ?_)
  · have h1 := h.lts.1 q e
    refine hw.block q h1.2 ?_
    rcases ho with h2 | h2
    · exact .inr (by omega)
    · exact .inl (h2.1 q (by rw [← ownBlock_sU a n c]; exact e))
  · have h1 := h.lts.2 x hx q e
    refine hw.block q h1.2 ?_
    rcases ho with h2 | h2
    · exact .inr (by omega)
    · exact .inl (h2.2 x hx q e)

theorem UpRow.lows {W : World} {base n c : Nat} {a : Option Addr} {l : List UE} (h : UpRow W base (.slice a n c) l) : (∀ q, a.map (·.block) = some q → q < W.heap.size) ∧ ∀ e ∈ l, ∀ q, e.a.map (·.block) = some q → q < W.heap.size :=
  ⟨fun q e => (h.lts.1 q (by rw [ownBlock_sU]; exact e)).2, fun x hx q e => (h.lts.2 x hx q e).2⟩

set_option maxRecDepth 10000 in
set_option maxHeartbeats 6400000 in
theorem foldWalk (a : Option Addr) (n c : Nat) (l : List RE) (w : World) (hl : n ≤ maxLen) (hk : ∀ e ∈ l, ReOk w e) (hx : RcsI w a n l) (he : ErrN w) :
    Calls Tryd.prog 4 #[.slice a n c] w fun e w' => e = .returned (.bool true) ∧ Below w.heap.size w w' := by
  have hmm : maxLen < 9223372036854775808 := by decide
  have HX : Hid (∀ W, Below w.heap.size w W → RcsI W a n l ∧ ErrN W) := fun W hb => ⟨hx.below hb, he.below hb⟩
  have HA0 : Hid (Below w.heap.size w w) := Below.refl _ _
  have HL : Hid (l.length = n) := hx.1
  have HKo : Hid (∀ e ∈ l, (e.r.id.size ≤ maxLen ∧ e.n ≤ maxLen) ∧ (-9223372036854775808 ≤ e.r.n ∧ e.r.n ≤ 9223372036854775807) ∧ e.r.zs.length = e.n) := fun e h => ⟨⟨(hk e h).1, (hk e h).2.1⟩, (hk e h).2.2.1, (hk e h).2.2.2.1⟩
  clear hk hx he
  go_enter Tryd.func4, Tryd.ntmps4
  go_wp2_with fail
  refine (szRecS_any a n c l 1048576 w (HX.out _ HA0.out).1 (fun e h => (HKo.out e h).1) (by decide) (by decide) hl).mono ?_
  rintro e x0 ⟨⟨L, rfl, hL⟩, hb0⟩
  have HB0 : Hid (Below w.heap.size w x0) := hb0
  clear hb0
  by_cases hneg : L < 0
  · clear hL
    go_wp2_with fail
    go_ret
    exact ⟨rfl, HB0.out⟩
  have HSz : Hid (SzR n l) := by
    rcases hL with h | h
    · exact absurd h hneg
    · exact h.1
  have hn1 : n ≤ 1048576 := HSz.out.1
  clear hL
  have HTs : Hid (∀ W, Below w.heap.size w W → Calls Tryd.prog 13 #[.slice a n c] W fun e w' => (∃ g l', e = .returned (.slice (some ⟨g, 0, none⟩) n n) ∧ RcRow w' W.heap.size (.slice (some ⟨g, 0, none⟩) n n) l' ∧ l'.map RE.r = l.map RE.r ∧ ∀ e ∈ l', e.n ≤ 1048576) ∧ Below W.heap.size W w') := fun W hb => toRecS_any a n c l W (HX.out _ hb).1 HSz.out
  obtain ⟨us, hus⟩ : ∃ us, (foldU (l.map RE.r)).getD [] = us := ⟨_, rfl⟩
  obtain ⟨ok, hok⟩ : ∃ ok, (foldU (l.map RE.r)).isSome = ok := ⟨_, rfl⟩
  obtain ⟨K, hK⟩ : ∃ K, us.length = K := ⟨_, rfl⟩
  have HFR : Hid (∀ r ∈ l.map RE.r, r.zs.length ≤ 1048576) := by
    intro r hr
    obtain ⟨e, he, rfl⟩ := List.mem_map.1 hr
    have h1 := (HKo.out e he).2.2
    have h2 := (HSz.out.2 e he).2
    omega
  have hlr : (l.map RE.r).length ≤ 1048576 := by rw [List.length_map, HL.out]; exact hn1
  have HSp : Hid (∀ (g lo : Nat) (l' : List RE) (W : World), RcRow W lo (.slice (some ⟨g, 0, none⟩) n n) l' → l'.map RE.r = l.map RE.r → (∀ e ∈ l', e.n ≤ 1048576) → Calls Tryd.prog 12 #[.slice (some ⟨g, 0, none⟩) n n] W fun e w' => AnsF W.heap.size K us ok e w' ∧ Below W.heap.size W w') := by
    intro g lo l' W h1 h2 h3
    have hll : n = l'.length := by have := congrArg List.length h2; rw [List.length_map, List.length_map, HL.out] at this; exact this.symm
    refine (specFold_any (some ⟨g, 0, none⟩) n n lo l' 1048576 W h1 hll (by omega) h3 (by omega) (by decide)).mono ?_
    rintro e w' ⟨⟨x, lu, rfl, h4, h5, h6⟩, h7⟩
    rw [h2] at h5 ⊢
    refine ⟨?_, h7⟩
    rw [← hus, ← hok]
    exact ansF_of (n := n) h4 h5 h6 (by rw [hus]; exact hK) hlr HFR.out
  have HIm : Hid (∀ (g lo : Nat) (l' : List RE) (W : World), Below w.heap.size w W → RcRow W lo (.slice (some ⟨g, 0, none⟩) n n) l' → l'.map RE.r = l.map RE.r → (∀ e ∈ l', e.n ≤ 1048576) → Calls Tryd.prog 14 #[.slice (some ⟨g, 0, none⟩) n n] W fun e w' => AnsF W.heap.size K us ok e w' ∧ Below W.heap.size W w') := by
    intro g lo l' W hb h1 h2 h3
    have hll : n = l'.length := by have := congrArg List.length h2; rw [List.length_map, List.length_map, HL.out] at this; exact this.symm
    have hi : ∀ e ∈ l', -9223372036854775808 ≤ e.r.n ∧ e.r.n ≤ 9223372036854775807 := by
      intro e he
      have h4 : e.r ∈ l.map RE.r := by rw [← h2]; exact List.mem_map_of_mem he
      obtain ⟨e', he', h5⟩ := List.mem_map.1 h4
      rw [← h5]
      exact (HKo.out e' he').2.1
    refine (implFold_any (some ⟨g, 0, none⟩) n n lo l' 1048576 W h1 hll (by omega) h3 (by omega) (by decide) hi (HX.out _ hb).2).mono ?_
    rintro e w' ⟨⟨x, lu, rfl, h4, h5, h6⟩, h7⟩
    rw [foldP_ok, h2] at h5 ⊢
    refine ⟨?_, h7⟩
    rw [← hus, ← hok]
    exact ansF_of (n := n) h4 h5 h6 (by rw [hus]; exact hK) hlr HFR.out
  clear hus hok hK HFR hlr
  have HLl : Hid (∀ l' : List RE, l'.map RE.r = l.map RE.r → l'.length = n) := fun l' h2 => by have := congrArg List.length h2; rw [List.length_map, List.length_map, HL.out] at this; exact this
  have hokn : (ok != ok) = false := by simp
  go_wp2_with fail
  refine (HTs.out _ HB0.out).mono ?_
  rintro e x1 ⟨⟨g1, l1, rfl, hs1, hm1, hz1⟩, hb1⟩
  have HB1 : Hid (Below w.heap.size w x1) := HB0.out.trans (hb1.mono HB0.out.size)
  have HS1 : Hid (RcRow x1 x0.heap.size (.slice (some ⟨g1, 0, none⟩) n n) l1 ∧ l1.map RE.r = l.map RE.r ∧ ∀ e ∈ l1, e.n ≤ 1048576) := ⟨hs1, hm1, hz1⟩
  clear hs1 hm1 hz1 hb1
  go_wp2_with fail
  refine (HSp.out _ _ l1 x1 HS1.out.1 HS1.out.2.1 HS1.out.2.2).mono ?_
  rintro e x2 ⟨⟨wa, wc, lw, rfl, hw2, hmw, hlw, hzw, hEw⟩, hb2⟩
  have HW2 : Hid (UpRow x2 x1.heap.size (.slice wa K wc) lw) := hw2
  have HMw : Hid (lw.map UE.u = us ∧ lw.length = K ∧ (∀ e ∈ lw, e.n ≤ 1099511627776) ∧ ((∀ q, wa.map (·.block) = some q → q < x2.heap.size) ∧ ∀ e ∈ lw, ∀ q, e.a.map (·.block) = some q → q < x2.heap.size)) := ⟨hmw, hlw, hzw, hw2.lows⟩
  have HB2 : Hid (Below w.heap.size w x2) := HB1.out.trans (hb2.mono HB1.out.size)
  have hKb : K ≤ 1099511627776 := by have := mkUEnd_ge 1 lw; have h := mkUEnd_tot 1 lw (fun e he => (hw2.2.1 e he).seg.1.symm); omega
  have HZ12 : Hid (x1.heap.size ≤ x2.heap.size) := hb2.size
  have hKb1 : K ≤ 1099511627776 := hKb
  clear hw2 hmw hlw hzw hEw hb2 HS1 HSp
  go_wp2_with fail
  refine (HTs.out _ HB2.out).mono ?_
  rintro e x3 ⟨⟨g3, l3, rfl, hs3, hm3, hz3⟩, hb3⟩
  have HR3 : Hid (RcRow x3 x2.heap.size (.slice (some ⟨g3, 0, none⟩) n n) l3) := hs3
  have HM3 : Hid (l3.map RE.r = l.map RE.r ∧ (∀ e ∈ l3, e.n ≤ 1048576) ∧ ((∀ q, (some (⟨g3, 0, none⟩ : Addr)).map (·.block) = some q → q < x3.heap.size) ∧ ∀ e ∈ l3, ∀ q, e.a.map (·.block) = some q → q < x3.heap.size)) := ⟨hm3, hz3, fun q e => (hs3.lts.1 q (by injection e with e; rw [← e]; rfl)).2, fun e he q h => (hs3.lts.2 e he q h).2⟩
  have HW3 : Hid (UpRow x3 x1.heap.size (.slice wa K wc) lw) := HW2.out.stays hb3
  have HB3 : Hid (Below w.heap.size w x3) := HB2.out.trans (hb3.mono HB2.out.size)
  have hz23 : x2.heap.size ≤ x3.heap.size := hb3.size
  clear hs3 hm3 hz3 hb3 HW2 HB2
  go_wp2_with fail
  refine (HIm.out _ _ l3 x3 HB3.out HR3.out HM3.out.1 HM3.out.2.1).mono ?_
  rintro e x4 ⟨⟨ga, gc, lg, rfl, hg4, hmg, hlg, hzg, hEg⟩, hb4⟩
  have HG4 : Hid (UpRow x4 x3.heap.size (.slice ga K gc) lg) := hg4
  have HMg : Hid (lg.map UE.u = us ∧ lg.length = K ∧ (∀ e ∈ lg, e.n ≤ 1099511627776) ∧ mkUEnd 1 lg ≤ 2199023255552 ∧ ((∀ q, ga.map (·.block) = some q → q < x4.heap.size) ∧ ∀ e ∈ lg, ∀ q, e.a.map (·.block) = some q → q < x4.heap.size)) := ⟨hmg, hlg, hzg, hEg, hg4.lows⟩
  have HW4 : Hid (UpRow x4 x1.heap.size (.slice wa K wc) lw) := HW3.out.stays hb4
  have HR4 : Hid (RcRow x4 x2.heap.size (.slice (some ⟨g3, 0, none⟩) n n) l3) := HR3.out.stays hb4
  have HB4 : Hid (Below w.heap.size w x4) := HB3.out.trans (hb4.mono HB3.out.size)
  have hz34 : x3.heap.size ≤ x4.heap.size := hb4.size
  clear hg4 hmg hlg hzg hEg hb4 HW3 HR3 HB3
  have HEU : Hid (∀ (W : World) (b : Option Addr) (cc lo : Nat) (lb : List UE), UpRow W lo (.slice b K cc) lb → UpRow W x1.heap.size (.slice wa K wc) lw → lb.map UE.u = us → lb.length = K → (∀ e ∈ lb, e.n ≤ 1099511627776) → Calls Tryd.prog 15 #[.slice b K cc, .slice wa K wc] W fun e w' => e = .returned (.bool true) ∧ Below W.heap.size W w') := fun W b cc lo lb h1 h2 h3 h4 h5 => eqUpS_same b K cc lo lb wa K wc x1.heap.size lw W h1 h2 h4.symm HMw.out.2.1.symm (by rw [h3, HMw.out.1]) hKb h5
  go_wp2_with fail
  refine (HEU.out x4 ga gc _ lg HG4.out HW4.out HMg.out.1 HMg.out.2.1 HMg.out.2.2.1).mono ?_
  rintro e x5 ⟨rfl, hb5⟩
  have HW5 : Hid (UpRow x5 x1.heap.size (.slice wa K wc) lw) := HW4.out.stays hb5
  have HR5 : Hid (RcRow x5 x2.heap.size (.slice (some ⟨g3, 0, none⟩) n n) l3) := HR4.out.stays hb5
  have HG5 : Hid (UpRow x5 x3.heap.size (.slice ga K gc) lg) := HG4.out.stays hb5
  have HB5 : Hid (Below w.heap.size w x5) := HB4.out.trans (hb5.mono HB4.out.size)
  have hz45 : x4.heap.size ≤ x5.heap.size := hb5.size
  clear hb5 HW4 HR4 HG4 HB4
  go_wp2_with fail
  refine (HTs.out _ HB5.out).mono ?_
  rintro e x6 ⟨⟨g6, l6, rfl, hs6, hm6, hz6⟩, hb6⟩
  have HR6 : Hid (RcRow x6 x5.heap.size (.slice (some ⟨g6, 0, none⟩) n n) l6 ∧ l6.map RE.r = l.map RE.r) := ⟨hs6, hm6⟩
  have HC6 : Hid (Below x5.heap.size x5 x6) := hb6
  clear hs6 hm6 hz6 hb6
  go_wp2_with fail
  refine (eqRecS_same (some ⟨g3, 0, none⟩) (some ⟨g6, 0, none⟩) n n n x2.heap.size x5.heap.size l3 l6 x6 (HR5.out.stays HC6.out) HR6.out.1 (HLl.out _ HM3.out.1) (HLl.out _ HR6.out.2) (by rw [HM3.out.1, HR6.out.2]) (fun e he => by have := HM3.out.2.1 e he; omega) (by omega)).mono ?_
  rintro e x7 ⟨rfl, hb7⟩
  have hb7' : Below x5.heap.size x5 x7 := HC6.out.trans (hb7.mono HC6.out.size)
  have HW7 : Hid (UpRow x7 x1.heap.size (.slice wa K wc) lw) := HW5.out.stays hb7'
  have HR7 : Hid (RcRow x7 x2.heap.size (.slice (some ⟨g3, 0, none⟩) n n) l3) := HR5.out.stays hb7'
  have HG7 : Hid (UpRow x7 x3.heap.size (.slice ga K gc) lg) := HG5.out.stays hb7'
  have HB7 : Hid (Below w.heap.size w x7) := HB5.out.trans (hb7'.mono HB5.out.size)
  have hz57 : x5.heap.size ≤ x7.heap.size := hb7'.size
  have HRE : Hid (mkREnd 1 l3 ≤ 2199023255552) := by
    have h1 := mkREnd_leB 1 1048576 l3 HM3.out.2.1
    have h2 := HLl.out _ HM3.out.1
    have h3 : (5 + 1048576) * l3.length ≤ (5 + 1048576) * 1048576 := Nat.mul_le_mul_left _ (by omega)
    show _ ≤ _
    omega
  clear hb7 hb7' HR6 HC6 HW5 HR5 HG5 HB5
  go_wp2_with fail
  refine (markRcW_any x2.heap.size (some ⟨g3, 0, none⟩) n n 1 l3 x7 HR7.out (HLl.out _ HM3.out.1) HRE.out (by omega) x3.heap.size HM3.out.2.2).mono ?_
  rintro e x8 ⟨rfl, _, hw8⟩
  have HW8 : Hid (UpRow x8 x1.heap.size (.slice wa K wc) lw) := HW7.out.keptW hw8 (.inr HMw.out.2.2.2)
  have HG8 : Hid (UpRow x8 x3.heap.size (.slice ga K gc) lg) := HG7.out.keptW hw8 (.inl (Nat.le_refl _))
  have hz78 : x7.heap.size ≤ x8.heap.size := hw8.size
  have HZw : Hid (w.heap.size ≤ x2.heap.size) := Nat.le_trans HB1.out.size HZ12.out
  have HB8 : Hid (Below w.heap.size w x8) := HB7.out.trans ((hw8.below (by omega)).mono HZw.out)
  obtain ⟨kk, hkk⟩ : ∃ kk : Nat, mkREnd 1 l3 = kk := ⟨_, rfl⟩
  rw [hkk]
  have hkp : ¬ (kk : Int) < 0 := by omega
  have hkd : decide ((kk : Int) < 0) = false := by simp
  clear hkk hw8 HW7 HR7 HG7 HB7 HRE
  go_wp2_with fail
  refine (HEU.out x8 ga gc _ lg HG8.out HW8.out HMg.out.1 HMg.out.2.1 HMg.out.2.2.1).mono ?_
  rintro e x9 ⟨rfl, hb9⟩
  have HW9 : Hid (UpRow x9 x1.heap.size (.slice wa K wc) lw) := HW8.out.stays hb9
  have HG9 : Hid (UpRow x9 x3.heap.size (.slice ga K gc) lg) := HG8.out.stays hb9
  have HB9 : Hid (Below w.heap.size w x9) := HB8.out.trans (hb9.mono HB8.out.size)
  have hz89 : x8.heap.size ≤ x9.heap.size := hb9.size
  clear hb9 HW8 HG8 HB8
  go_wp2_with fail
  refine (markUpS_any x3.heap.size ga K gc 1 lg x9 HG9.out HMg.out.2.1 HMg.out.2.2.2.1 hKb1 x4.heap.size HMg.out.2.2.2.2).mono ?_
  rintro e x10 ⟨rfl, hm10, hw10, _⟩
  have HK10 : Hid (UpRow x10 x3.heap.size (.slice ga K gc) (mkUp 1 lg)) := hm10
  have HW10 : Hid (UpRow x10 x1.heap.size (.slice wa K wc) lw) := HW9.out.keptW hw10 (.inr ⟨fun q e => Nat.lt_of_lt_of_le (HMw.out.2.2.2.1 q e) hz23, fun e he q h => Nat.lt_of_lt_of_le (HMw.out.2.2.2.2 e he q h) hz23⟩)
  have HB10 : Hid (Below w.heap.size w x10) := HB9.out.trans ((hw10.below (by omega)).mono (Nat.le_trans HZw.out hz23))
  clear hm10 hw10 HW9 HG9 HB9
  have HHG : Hid (∀ W : World, UpRow W x3.heap.size (.slice ga K gc) (mkUp 1 lg) → Calls Tryd.prog 19 #[.slice ga K gc, .int .i64 1] W fun e w' => e = .returned (.int .i64 (mkUEnd 1 lg : Int)) ∧ Below W.heap.size W w') := fun W h => heldUpS_any x3.heap.size ga K gc 1 lg W h HMg.out.2.1 HMg.out.2.2.2.1 hKb1
  generalize hq10 : ((mkUEnd 1 lg : Nat) : Int) = q10 at *
  have hq10p : ¬ q10 < 0 := by omega
  have hq10d : decide (q10 < 0) = false := by simp; omega
  have hq10e : (q10 != q10) = false := by simp
  clear hq10
  go_wp2_with fail
  refine (HHG.out _ HK10.out).mono ?_
  rintro e x11 ⟨rfl, hb11⟩
  have HW11 : Hid (UpRow x11 x1.heap.size (.slice wa K wc) lw) := HW10.out.stays hb11
  have HK11 : Hid (UpRow x11 x3.heap.size (.slice ga K gc) (mkUp 1 lg)) := HK10.out.stays hb11
  have HB11 : Hid (Below w.heap.size w x11) := HB10.out.trans (hb11.mono HB10.out.size)
  clear hb11 HW10 HK10 HB10
  go_wp2_with fail
  refine (HTs.out _ HB11.out).mono ?_
  rintro e x12 ⟨⟨g12, l12, rfl, hs12, hm12, hz12⟩, hb12⟩
  have HR12 : Hid (RcRow x12 x11.heap.size (.slice (some ⟨g12, 0, none⟩) n n) l12 ∧ l12.map RE.r = l.map RE.r ∧ ∀ e ∈ l12, e.n ≤ 1048576) := ⟨hs12, hm12, hz12⟩
  have HW12 : Hid (UpRow x12 x1.heap.size (.slice wa K wc) lw) := HW11.out.stays hb12
  have HK12 : Hid (UpRow x12 x3.heap.size (.slice ga K gc) (mkUp 1 lg)) := HK11.out.stays hb12
  have HB12 : Hid (Below w.heap.size w x12) := HB11.out.trans (hb12.mono HB11.out.size)
  clear hs12 hm12 hz12 hb12 HW11 HK11 HB11
  go_wp2_with fail
  refine (HIm.out _ _ l12 x12 HB12.out HR12.out.1 HR12.out.2.1 HR12.out.2.2).mono ?_
  rintro e x13 ⟨⟨ha, hc, lh, rfl, hh13, hmh, hlh, hzh, hEh⟩, hb13⟩
  have HH13 : Hid (UpRow x13 x12.heap.size (.slice ha K hc) lh ∧ lh.map UE.u = us ∧ lh.length = K ∧ ∀ e ∈ lh, e.n ≤ 1099511627776) := ⟨hh13, hmh, hlh, hzh⟩
  have HW13 : Hid (UpRow x13 x1.heap.size (.slice wa K wc) lw) := HW12.out.stays hb13
  have HK13 : Hid (UpRow x13 x3.heap.size (.slice ga K gc) (mkUp 1 lg)) := HK12.out.stays hb13
  have HB13 : Hid (Below w.heap.size w x13) := HB12.out.trans (hb13.mono HB12.out.size)
  clear hh13 hmh hlh hzh hEh hb13 HW12 HK12 HB12 HR12
  go_wp2_with fail
  refine (HEU.out x13 ha hc _ lh HH13.out.1 HW13.out HH13.out.2.1 HH13.out.2.2.1 HH13.out.2.2.2).mono ?_
  rintro e x14 ⟨rfl, hb14⟩
  have HK14 : Hid (UpRow x14 x3.heap.size (.slice ga K gc) (mkUp 1 lg)) := HK13.out.stays hb14
  have HB14 : Hid (Below w.heap.size w x14) := HB13.out.trans (hb14.mono HB13.out.size)
  clear hb14 HW13 HK13 HB13 HH13
  go_wp2_with fail
  refine (HHG.out _ HK14.out).mono ?_
  rintro e x15 ⟨rfl, hb15⟩
  have HEn : Hid (Below w.heap.size w x15) := HB14.out.trans (hb15.mono HB14.out.size)
  clear hb15
  go_wp2_with fail
  go_ret
  exact ⟨rfl, HEn.out⟩

end Go.Proofs.YtogopmngbjkcjatDoor

namespace Go.Proofs.YtogopmngbjkcjatDoor
open Go.RowKit
set_option linter.unusedVariables false

theorem errG : Tryd.prog.globalNamed "loop.example/g00199/impl.errNoFit" = some 1 := by kernel_rfl

theorem errN_of_var {W : World} (h : ∃ t p, W.var? Tryd.prog "loop.example/g00199/impl.errNoFit" = some #[.iface t p]) : ErrN W := by
  obtain ⟨t, p, h⟩ := h
  have c := World.var?_cell errG h 0
  have c' : W.cell? ⟨1, 0, none⟩ = some (.iface t p) := by rw [c]; rfl
  refine ⟨?_, t, p, c'⟩
  rw [World.var?, errG] at h
  cases hg : W.heap[(1 : Nat)]? with
  | none => simp [hg] at h
  | some o => exact (Array.getElem?_eq_some_iff.1 hg).1

end Go.Proofs.YtogopmngbjkcjatDoor
