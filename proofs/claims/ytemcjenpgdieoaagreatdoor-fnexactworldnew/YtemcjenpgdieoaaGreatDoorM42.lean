/- What the specification says of a world in which nothing is yet. How many sectors a new disk has. No program in it. An append onto a row of the call's own, in a region that draws: where the row lies behind it. No program in it. An append onto a row of the call's own, as an operation in its place: where the row lies behind it. No program in it. What the specification's DiskNew answers. A row of texts that is made. No program in it. -/
import Derived.Test.YtemcjenpgdieoaaGreatDoorM41
import Derived.Test.YtemcjenpgdieoaaGreatDoorM23
import Derived.Test.YtemcjenpgdieoaaGreatDoorM05
import Derived.Test.YtemcjenpgdieoaaGreatDoorM39
import Derived.Test.YtemcjenpgdieoaaGreatDoorM11
import Derived.Test.YtemcjenpgdieoaaGreatDoorM13
import Derived.Deep.CutBlock
import Derived.Deep.RegionLaw
import Derived.Laws.MakeOwn
import Derived.Laws.OwnMore
import Derived.Below
import Derived.WalkKit
namespace Go.Proofs.YtemcjenpgdieoaaGreatDoor
open Go.RowKit
set_option linter.unusedVariables false

set_option maxRecDepth 10000 in
theorem specWho_zero (a0 a1 ua ha ca ba wa ta za : Option Addr) (n0 c0 n1 c1 uc hc cn cc bn bc wc tc zn zc wn tn hn un : Nat) (ep nx : Int) (xa : Option Addr) (xc : Nat) (w : World) :
    Calls Tryz.prog 45 #[.agg #[.slice a0 n0 c0, .slice a1 n1 c1, .int .i64 ep, .int .i64 nx, .slice ua un uc, .slice ha hn hc, .slice ca cn cc, .slice ba bn bc, .slice wa wn wc, .slice ta tn tc, .slice za zn zc], .slice xa 0 xc] w fun e w' => e = .returned (.bool true) ∧ Below w.heap.size w w' := by
  obtain ⟨w0, hw0⟩ : ∃ w0, w.alloc (.cells #[.slice a0 n0 c0, .slice a1 n1 c1, .int .i64 ep, .int .i64 nx, .slice ua un uc, .slice ha hn hc, .slice ca cn cc, .slice ba bn bc, .slice wa wn wc, .slice ta tn tc, .slice za zn zc] 38) = w0 := ⟨_, rfl⟩
  have HB : Hid (Below w.heap.size w w0) := by show Below _ _ _; rw [← hw0]; exact (Below.refl _ _).alloc (Nat.le_refl _) _
  go_enter Tryz.func45, Tryz.ntmps45
  go_upto_region 1 with fail
  clear hw0
  go_wp2_with fail
  go_loopw [5] (fun v wr => v = .int .i64 0 ∧ wr = w0) (fun _ _ => 0)
  case atStart => exact ⟨rfl, rfl⟩
  case round =>
    obtain ⟨rfl, rfl⟩ := hrel
    go_wp2_with fail
    go_ret
    exact ⟨rfl, HB.out⟩

set_option maxRecDepth 10000 in
set_option maxHeartbeats 400000 in
theorem specWdOk_any (a0 a1 ua ha ca ba wa ta za : Option Addr) (n0 c0 n1 c1 uc hc cn cc bc wc tc zc : Nat) (ep nx : Int) (lo : Nat) (X Y : List ByteArray) (l : List CE) (w : World) (hs : StoAt w lo a0 n0 c0 X a1 n1 c1 Y ua 0 uc []) (h : ClRow w lo (.slice ca cn cc) l) (hcn : cn = l.length) (hl : cn ≤ 1048576) (hz : ∀ e ∈ l, e.u.id.size ≤ maxLen ∧ e.n ≤ 1048576) (hn0 : n0 ≤ 1048576) (hn1 : n1 ≤ 1048576) (hX : ∀ x ∈ X, x.size ≤ 1048576) :
    Calls Tryz.prog 16 #[.agg #[.slice a0 n0 c0, .slice a1 n1 c1, .int .i64 ep, .int .i64 nx, .slice ua 0 uc, .slice ha 0 hc, .slice ca cn cc, .slice ba cn bc, .slice wa 0 wc, .slice ta 0 tc, .slice za cn zc]] w fun e w' => e = .returned (.bool (svB X Y ep nx [] [] && clsB (l.map CE.u))) ∧ Below w.heap.size w w' := by
  obtain ⟨w0, hw0⟩ : ∃ w0, w.alloc (.cells #[.slice a0 n0 c0, .slice a1 n1 c1, .int .i64 ep, .int .i64 nx, .slice ua 0 uc, .slice ha 0 hc, .slice ca cn cc, .slice ba cn bc, .slice wa 0 wc, .slice ta 0 tc, .slice za cn zc] 38) = w0 := ⟨_, rfl⟩
  have HE : Hid (w.alloc (.cells #[.slice a0 n0 c0, .slice a1 n1 c1, .int .i64 ep, .int .i64 nx, .slice ua 0 uc, .slice ha 0 hc, .slice ca cn cc, .slice ba cn bc, .slice wa 0 wc, .slice ta 0 tc, .slice za cn zc] 38) = w0) := hw0
  have hB : Below w.heap.size w w0 := by rw [← hw0]; exact (Below.refl _ _).alloc (Nat.le_refl _) _
  have hQ : BoxN w0 w.heap.size 38 [.slice a0 n0 c0, .slice a1 n1 c1, .int .i64 ep, .int .i64 nx, .slice ua 0 uc, .slice ha 0 hc, .slice ca cn cc, .slice ba cn bc, .slice wa 0 wc, .slice ta 0 tc, .slice za cn zc] := by rw [← hw0]; exact BoxN.new _ _ _
  have HX : Hid (∀ W, Below w0.heap.size w0 W → BoxN W w.heap.size 38 [.slice a0 n0 c0, .slice a1 n1 c1, .int .i64 ep, .int .i64 nx, .slice ua 0 uc, .slice ha 0 hc, .slice ca cn cc, .slice ba cn bc, .slice wa 0 wc, .slice ta 0 tc, .slice za cn zc] ∧ ClRow W lo (.slice ca cn cc) l ∧ StoAt W lo a0 n0 c0 X a1 n1 c1 Y ua 0 uc [] ∧ Below w.heap.size w W) := fun W hb => ⟨hQ.stays hb, (h.stays hB).stays hb, (hs.stays hB).stays hb, hB.trans (hb.mono hB.size)⟩
  have HZ : Hid (cn = l.length ∧ (∀ e ∈ l, e.u.id.size ≤ maxLen ∧ e.n ≤ 1048576) ∧ ∀ x ∈ X, x.size ≤ 1048576) := ⟨hcn, hz, hX⟩
  have HA0 : Hid (Below w0.heap.size w0 w0) := Below.refl _ _
  clear hw0 hB hQ h hs hcn hz hX
  have p0 := (HX.out _ HA0.out).1.cell 0 rfl
  have p1 := (HX.out _ HA0.out).1.cell 1 rfl
  have p2 := (HX.out _ HA0.out).1.cell 2 rfl
  have p3 := (HX.out _ HA0.out).1.cell 3 rfl
  have p4 := (HX.out _ HA0.out).1.cell 4 rfl
  have p5 := (HX.out _ HA0.out).1.cell 5 rfl
  go_enter Tryz.func16, Tryz.ntmps16
  go_upto_region 1 with fail
  rw [HE.out]
  clear HE
  go_wp2_with fail
  refine (specSvok_any a0 n0 c0 X a1 n1 c1 Y ep nx ua 0 uc lo [] ha 0 hc [] w0 (HX.out _ HA0.out).2.2.1.now.strs (HX.out _ HA0.out).2.2.1.sure.strs hn0 hn1 HZ.out.2.2 (HX.out _ HA0.out).2.2.1.ups rfl (by omega) ⟨rfl, by simp, .inl rfl⟩ (by omega)).mono ?_
  rintro _ W1 ⟨rfl, hb1⟩
  have HB1 : Hid (Below w0.heap.size w0 W1) := hb1
  rw [show List.map UE.u [] = [] from rfl]
  clear hb1 p0 p1 p2 p3 p4 p5
  cases hsb : svB X Y ep nx [] []
  case false =>
    have HSb : Hid (svB X Y ep nx [] [] = false) := hsb
    clear hsb
    have HE1 : Hid (Below w.heap.size w W1) := (HX.out _ HB1.out).2.2.2
    go_wp2_with fail
    go_ret
    exact ⟨by rw [HSb.out]; rfl, HE1.out⟩
  have HSb : Hid (svB X Y ep nx [] [] = true) := hsb
  clear hsb
  have p0 := (HX.out _ HB1.out).1.cell 0 rfl
  have p1 := (HX.out _ HB1.out).1.cell 1 rfl
  have p2 := (HX.out _ HB1.out).1.cell 2 rfl
  have p3 := (HX.out _ HB1.out).1.cell 3 rfl
  have p4 := (HX.out _ HB1.out).1.cell 4 rfl
  have p5 := (HX.out _ HB1.out).1.cell 5 rfl
  have p6 := (HX.out _ HB1.out).1.cell 6 rfl
  have p7 := (HX.out _ HB1.out).1.cell 7 rfl
  have p8 := (HX.out _ HB1.out).1.cell 8 rfl
  have p9 := (HX.out _ HB1.out).1.cell 9 rfl
  have p10 := (HX.out _ HB1.out).1.cell 10 rfl
  go_wp2_with fail
  refine (specCls_any a0 a1 ua ha ca ba wa ta za n0 c0 n1 c1 0 uc 0 hc cn cc bc 0 wc 0 tc zc ep nx lo l _ (HX.out _ HB1.out).2.1 HZ.out.1 hl HZ.out.2.1).mono ?_
  rintro _ W2 ⟨rfl, hb2⟩
  have HB2 : Hid (Below w0.heap.size w0 W2) := HB1.out.trans (hb2.mono HB1.out.size)
  clear hb2 HB1 p0 p1 p2 p3 p4 p5 p6 p7 p8 p9 p10
  cases hcb : clsB (l.map CE.u)
  case false =>
    have HCb : Hid (clsB (l.map CE.u) = false) := hcb
    clear hcb
    have HE1 : Hid (Below w.heap.size w W2) := (HX.out _ HB2.out).2.2.2
    go_wp2_with fail
    go_ret
    exact ⟨by rw [HSb.out, HCb.out]; rfl, HE1.out⟩
  have HCb : Hid (clsB (l.map CE.u) = true) := hcb
  clear hcb
  have p0 := (HX.out _ HB2.out).1.cell 0 rfl
  have p1 := (HX.out _ HB2.out).1.cell 1 rfl
  have p2 := (HX.out _ HB2.out).1.cell 2 rfl
  have p3 := (HX.out _ HB2.out).1.cell 3 rfl
  have p4 := (HX.out _ HB2.out).1.cell 4 rfl
  have p5 := (HX.out _ HB2.out).1.cell 5 rfl
  have p6 := (HX.out _ HB2.out).1.cell 6 rfl
  have p7 := (HX.out _ HB2.out).1.cell 7 rfl
  have p8 := (HX.out _ HB2.out).1.cell 8 rfl
  have p9 := (HX.out _ HB2.out).1.cell 9 rfl
  have p10 := (HX.out _ HB2.out).1.cell 10 rfl
  go_wp2_with fail
  refine (specWho_zero a0 a1 ua ha ca ba wa ta za n0 c0 n1 c1 uc hc cn cc cn bc wc tc cn zc 0 0 0 0 ep nx ta tc W2).mono ?_
  rintro _ W3 ⟨rfl, hb3⟩
  have HB3 : Hid (Below w0.heap.size w0 W3) := HB2.out.trans (hb3.mono HB2.out.size)
  clear hb3 HB2 p0 p1 p2 p3 p4 p5 p6 p7 p8 p9 p10
  have p0 := (HX.out _ HB3.out).1.cell 0 rfl
  have p1 := (HX.out _ HB3.out).1.cell 1 rfl
  have p2 := (HX.out _ HB3.out).1.cell 2 rfl
  have p3 := (HX.out _ HB3.out).1.cell 3 rfl
  have p4 := (HX.out _ HB3.out).1.cell 4 rfl
  have p5 := (HX.out _ HB3.out).1.cell 5 rfl
  have p6 := (HX.out _ HB3.out).1.cell 6 rfl
  have p7 := (HX.out _ HB3.out).1.cell 7 rfl
  have p8 := (HX.out _ HB3.out).1.cell 8 rfl
  have p9 := (HX.out _ HB3.out).1.cell 9 rfl
  have p10 := (HX.out _ HB3.out).1.cell 10 rfl
  go_wp2_with fail
  refine (specWho_zero a0 a1 ua ha ca ba wa ta za n0 c0 n1 c1 uc hc cn cc cn bc wc tc cn zc 0 0 0 0 ep nx ha hc W3).mono ?_
  rintro _ W4 ⟨rfl, hb4⟩
  have HB4 : Hid (Below w0.heap.size w0 W4) := HB3.out.trans (hb4.mono HB3.out.size)
  clear hb4 HB3 p0 p1 p2 p3 p4 p5 p6 p7 p8 p9 p10
  have p8 := (HX.out _ HB4.out).1.cell 8 rfl
  go_wp2_with fail
  go_loopw [3] (fun v wr => v = .int .i64 0 ∧ wr = W4) (fun _ _ => 0)
  case atStart => exact ⟨rfl, rfl⟩
  case round =>
    obtain ⟨rfl, rfl⟩ := hrel
    have HE1 : Hid (Below w.heap.size w wr) := (HX.out _ HB4.out).2.2.2
    go_wp2_with fail
    go_ret
    exact ⟨by rw [HSb.out, HCb.out]; rfl, HE1.out⟩

end Go.Proofs.YtemcjenpgdieoaaGreatDoor

namespace Go.Proofs.YtemcjenpgdieoaaGreatDoor
open Go.RowKit
set_option linter.unusedVariables false

/-- How many sectors a new disk has. -/
def newN (n : Int) : Nat := if n ≤ 200 then n.toNat else 0

end Go.Proofs.YtemcjenpgdieoaaGreatDoor

namespace Go.Proofs.YtemcjenpgdieoaaGreatDoor
open Go.RowKit
set_option linter.unusedVariables false

theorem step_append_where {P : Program} {ops : Array Oper} {o : Oper} {a : Act} {w : World} {K : Act → World → Prop} {Q : Exit → Act → World → Prop} {E : Prop}
    (hg : o.guard = none) (s x : Operand) (t : TypeId) (ho : o.op = .call { callee := .builtin .append, args := #[s, x], argTypes := #[t, t] })
    (base : Nat) (e : TypeId) (i : TypeInfo) (z : Value) (size bytes : Nat) (ht : P.underlying t = some (.slice e)) (hi : P.info? e = some i) (hz : i.zero = some z)
    (hsize : i.size = size) (hby : i.bytes = bytes) (hzs : z.cells.size = size) (hsz : 0 < size)
    (v : Value) (n : Nat) (xs : List Value) (hs : a.eval s = v) (hown : w.ownsRow base e size v n xs)
    (ad : Addr) (m c : Nat) (hm : 0 < m) (news : List Value) (hx : a.eval x = .slice (some ad) m c) (hl : news.length = m * size) (hnews : ∀ j u, news[j]? = some u → w.cell? (ad.add j) = some u) (h1 : ∀ u ∈ news, u.oneCell' = true)
    (h63 : n + m ≤ maxLen) (hbytes : (n + m) * bytes ≤ 140737488355328) (hbase : base ≤ w.heap.size)
    (h : ∀ v' w', w'.ownsRow base e size v' (n + m) (xs ++ news) → w.grownBy w' v.ownBlock → (v'.ownBlock = v.ownBlock ∨ v'.ownBlock = some w.heap.size) → K (a.put o.dst v') w') :
    if Region.wanted o (yielded ops a.tmps) = true then Oper.wp P o a w K Q else E := by
  have hw : Region.wanted o (yielded ops a.tmps) = true := by simp [Region.wanted, hg]
  rw [if_pos hw]
  obtain ⟨v', w', hr, h2, h3, _⟩ := run_append_own (P := P) w base t o.type e i z size bytes ht hi hz hsize hby hzs hsz v n xs hown ad m c news hl hnews h1 h63 hbytes hbase
  have hsmall : n + m ≤ 9223372036854775807 := by simp only [maxLen] at h63; omega
  have key : v'.ownBlock = v.ownBlock ∨ v'.ownBlock = some w.heap.size := by
    subst hsize
    subst hby
    rcases hown.2 with ⟨rfl, rfl⟩ | ⟨g, cap, cur, rfl, hbg, hg2, hnc, hcm, hcs, htake⟩
    · have hr2 := run_append_nil (P := P) w t o.type e i z ht hi hz ad m c news hl hnews (by omega) (by omega) (by have hb := hbytes; simp only [Nat.zero_add] at hb; omega)
      rw [hr] at hr2
      injection hr2 with e1 _
      rw [e1]
      exact .inr rfl
    · by_cases hroom : n + m ≤ cap
      · have hfit : n * i.size + news.length ≤ cur.size := by rw [hl, hcs, ← Nat.add_mul]; exact Nat.mul_le_mul_right _ hroom
        have hr2 := run_append_room (P := P) w t o.type e i ht hi g n cap cur hg2 ad m c news hl hnews h1 hroom hfit
        rw [hr] at hr2
        injection hr2 with e1 _
        rw [e1]
        exact .inl rfl
      · have holds : ∀ j u, xs[j]? = some u → w.cell? ((⟨g, 0, none⟩ : Addr).add j) = some u := hown.cells (g := g) rfl
        have hr2 := run_append_grow (P := P) w t o.type e i z ht hi hz ⟨g, 0, none⟩ n cap xs hown.1 holds ad m c news hl hnews (by omega) (by omega) (growslice_fits (by omega) hbytes)
        rw [hr] at hr2
        injection hr2 with e1 _
        rw [e1]
        exact .inr rfl
  unfold Oper.wp execOp
  simp only [ho, resolve, invoke, builtin, Sem.run_bind, Sem.run_pure, Result.andThen_ok, List.map_toArray, List.map_cons, List.map_nil, hs, hx, hr]
  exact h v' w' h2 h3 key

end Go.Proofs.YtemcjenpgdieoaaGreatDoor

namespace Go.Proofs.YtemcjenpgdieoaaGreatDoor
open Go.RowKit
set_option linter.unusedVariables false

theorem wpList_append_where {P : Program} {w : World} {ops : Array Oper} {rest : List Oper} {o : Oper} {a : Act} {Q : Exit → Act → World → Prop} (hgd : o.guard = none) (s x : Operand) (t : TypeId)
    (ho : o.op = .call { callee := .builtin .append, args := #[s, x], argTypes := #[t, t] })
    (base : Nat) (e : TypeId) (i : TypeInfo) (z : Value) (size bytes : Nat) (ht : P.underlying t = some (.slice e)) (hi : P.info? e = some i) (hz : i.zero = some z)
    (hsize : i.size = size) (hby : i.bytes = bytes) (hzs : z.cells.size = size) (hsz : 0 < size)
    (v : Value) (n : Nat) (xs : List Value) (hs : a.eval s = v) (hown : w.ownsRow base e size v n xs)
    (ad : Addr) (m c : Nat) (hm : 0 < m) (news : List Value) (hx : a.eval x = .slice (some ad) m c) (hl : news.length = m * size) (hnews : ∀ j u, news[j]? = some u → w.cell? (ad.add j) = some u) (h1 : ∀ u ∈ news, u.oneCell' = true)
    (h63 : n + m ≤ maxLen) (hbytes : (n + m) * bytes ≤ 140737488355328) (hbase : base ≤ w.heap.size)
    (h : ∀ v' w', w'.ownsRow base e size v' (n + m) (xs ++ news) → w.grownBy w' v.ownBlock → (v'.ownBlock = v.ownBlock ∨ v'.ownBlock = some w.heap.size) → wpList P ops Q rest (a.put o.dst v') w') : wpList P ops Q (o :: rest) a w := by
  refine wpList_plain hgd fun K hK => ?_
  have := step_append_where (ops := ops) (E := True) (Q := Q) (K := K) hgd s x t ho base e i z size bytes ht hi hz hsize hby hzs hsz v n xs hs hown ad m c hm news hx hl hnews h1 h63 hbytes hbase (fun v' w' h2 h3 h4 => hK _ _ (h v' w' h2 h3 h4))
  rwa [if_pos (by simp [Region.wanted, hgd])] at this

end Go.Proofs.YtemcjenpgdieoaaGreatDoor

namespace Go.Proofs.YtemcjenpgdieoaaGreatDoor
open Go.RowKit
set_option linter.unusedVariables false

theorem blkOf_own (v : Value) : v.ownBlock = blkOf v := by
  cases v with
  | slice a n c => cases a <;> rfl
  | _ => rfl

/-- A disk that grows in a variable, beside a variable for the answer. -/
def DN (w W : World) (v0 v1 : Value) (k0 k1 : Nat) (X Y : List ByteArray) : Prop :=
  Box2R W (w.heap.size + 1) 26 v0 v1 ∧ Box2R W w.heap.size 26 (.slice none 0 0) (.slice none 0 0) ∧ OwnSt W (w.heap.size + 2) v0 k0 X ∧ OwnSt W (w.heap.size + 2) v1 k1 Y ∧ (∀ q, blkOf v0 = some q → blkOf v1 ≠ some q) ∧ Below w.heap.size w W

section
variable {w W w2 : World} {v0 v1 v2 : Value} {k0 k1 k2 : Nat} {X Y Z : List ByteArray}

theorem DN.push0 (h : DN w W v0 v1 k0 k1 X Y) (o : Obj) (ho : OwnSt w2 (w.heap.size + 2) v2 k2 Z) (hg : (W.alloc o).grownBy w2 v0.ownBlock) (hw : v2.ownBlock = v0.ownBlock ∨ v2.ownBlock = some (W.alloc o).heap.size) :
    DN w (w2.setCell ⟨w.heap.size + 1, 0, none⟩ v2) v2 v1 k2 k1 Z Y := by
  obtain ⟨h1, h2, h3, h4, h5, h6⟩ := h
  rw [blkOf_own, blkOf_own] at hw
  rw [blkOf_own] at hg
  have hlt0 : ∀ q, blkOf v0 = some q → w.heap.size + 2 ≤ q := fun q e => (h3.lt q e).1
  have hlt2 : ∀ q, blkOf v2 = some q → w.heap.size + 2 ≤ q := fun q e => (ho.lt q e).1
  have g1 := (h1.alloc o).grown hg (fun e => by have := hlt0 _ e; omega)
  have g2 := (h2.alloc o).grown hg (fun e => by have := hlt0 _ e; omega)
  have g4 := (h4.below ((Below.refl _ _).alloc (Nat.le_refl _) o)).kept hg (fun q e e2 => h5 q e e2)
  have hsz := h1.lt
  refine ⟨g1.set0 _, g2.other (by omega) _, ho.setCell (fun e => by have := hlt2 _ e; omega) _, g4.setCell (fun e => by have := (h4.lt _ e).1; omega) _, ?_, ?_⟩
  · intro q e e2
    rcases hw with hw | hw
    · exact h5 q (hw ▸ e) e2
    · rw [hw, World.size_alloc] at e
      injection e with e
      have := (h4.lt _ e2).2
      omega
  · exact ((h6.alloc h6.size o).grown hg (by have := h6.size; simp; omega) (fun q e => by have := hlt0 _ e; omega)).setCell (by dsimp only; omega) _

theorem DN.push1 (h : DN w W v0 v1 k0 k1 X Y) (o : Obj) (ho : OwnSt w2 (w.heap.size + 2) v2 k2 Z) (hg : (W.alloc o).grownBy w2 v1.ownBlock) (hw : v2.ownBlock = v1.ownBlock ∨ v2.ownBlock = some (W.alloc o).heap.size) :
    DN w (w2.setCell ⟨w.heap.size + 1, 1, none⟩ v2) v0 v2 k0 k2 X Z := by
  obtain ⟨h1, h2, h3, h4, h5, h6⟩ := h
  rw [blkOf_own, blkOf_own] at hw
  rw [blkOf_own] at hg
  have hlt0 : ∀ q, blkOf v1 = some q → w.heap.size + 2 ≤ q := fun q e => (h4.lt q e).1
  have hlt2 : ∀ q, blkOf v2 = some q → w.heap.size + 2 ≤ q := fun q e => (ho.lt q e).1
  have g1 := (h1.alloc o).grown hg (fun e => by have := hlt0 _ e; omega)
  have g2 := (h2.alloc o).grown hg (fun e => by have := hlt0 _ e; omega)
  have g3 := (h3.below ((Below.refl _ _).alloc (Nat.le_refl _) o)).kept hg (fun q e e2 => h5 q e2 e)
  have hsz := h1.lt
  refine ⟨g1.set1 _, g2.other (by omega) _, g3.setCell (fun e => by have := (h3.lt _ e).1; omega) _, ho.setCell (fun e => by have := hlt2 _ e; omega) _, ?_, ?_⟩
  · intro q e e2
    rcases hw with hw | hw
    · exact h5 q e (hw ▸ e2)
    · rw [hw, World.size_alloc] at e2
      injection e2 with e2
      have := (h3.lt _ e).2
      omega
  · exact ((h6.alloc h6.size o).grown hg (by have := h6.size; simp; omega) (fun q e => by have := hlt0 _ e; omega)).setCell (by dsimp only; omega) _
end

theorem srow_shape {w : World} {base n : Nat} {v : Value} {xs : List Value} (h : w.ownsRow base 9 1 v n xs) : ∃ a cap, v = .slice a n cap := by
  rcases h.2 with ⟨rfl, rfl⟩ | ⟨g, cap, cur, rfl, _⟩
  · exact ⟨_, _, rfl⟩
  · exact ⟨_, _, rfl⟩

theorem str_new (W : World) (x : ByteArray) : ∀ j v, [Value.string x][j]? = some v → (W.alloc (.cells #[.string x] 9)).cell? ((⟨W.heap.size, 0, none⟩ : Addr).add j) = some v := by
  intro j v hj
  obtain rfl : j = 0 := by have := (List.getElem?_eq_some_iff.1 hj).1; simpa using this
  rw [Addr.add_lit, cell_of_row _ _ _ _ _ _ (heap_alloc_new W (.cells #[.string x] 9))]
  simpa using hj

set_option maxRecDepth 10000 in
set_option maxHeartbeats 1600000 in
theorem specDnew_any (n : Int) (w : World) :
    Calls Tryz.prog 77 #[.int .i64 n] w fun e w' => (∃ v, e = .returned v ∧ AnsD w.heap.size (List.replicate (newN n) ⟨#[]⟩) (List.replicate (newN n) ⟨#[]⟩) v w') ∧ Below w.heap.size w w' := by
  obtain ⟨i0, hi, hz0, hz1, hz2⟩ := info_parts info_string
  obtain ⟨W0, hW0⟩ : ∃ W0, (w.alloc (Obj.cells #[Value.slice none 0 0, Value.slice none 0 0] 26)).alloc (Obj.cells #[Value.slice none 0 0, Value.slice none 0 0] 26) = W0 := ⟨_, rfl⟩
  have HE : Hid ((w.alloc (Obj.cells #[Value.slice none 0 0, Value.slice none 0 0] 26)).alloc (Obj.cells #[Value.slice none 0 0, Value.slice none 0 0] 26) = W0) := hW0
  have HD0 : Hid (DN w W0 (.slice none 0 0) (.slice none 0 0) 0 0 (List.replicate 0 ⟨#[]⟩) (List.replicate 0 ⟨#[]⟩)) := by
    show DN _ _ _ _ _ _ _ _
    have hr : ∀ W : World, OwnSt W (w.heap.size + 2) (.slice none 0 0) 0 (List.replicate 0 ⟨#[]⟩) := fun W => ⟨⟨rfl, .inl ⟨rfl, rfl⟩⟩, by simp⟩
    refine ⟨?_, ?_, hr _, hr _, by simp [blkOf], ?_⟩
    · have := Box2R.new (w.alloc (Obj.cells #[Value.slice none 0 0, Value.slice none 0 0] 26)) 26 (.slice none 0 0) (.slice none 0 0)
      rw [World.size_alloc, hW0] at this
      exact this
    · rw [← hW0]
      exact (Box2R.new _ _ _ _).alloc _
    · rw [← hW0]
      exact ((Below.refl _ _).alloc (Nat.le_refl _) _).alloc (by simp) _
  clear hW0
  go_enter Tryz.func77, Tryz.ntmps77
  go_wp2_with fail
  rw [HE.out]
  clear HE
  go_loopw [4] (fun i wr => ∃ k : Nat, k ≤ newN n ∧ i = .int .i64 (k : Int) ∧ Hid (∃ v0 v1, DN w wr v0 v1 k k (List.replicate k ⟨#[]⟩) (List.replicate k ⟨#[]⟩))) (fun i _ => newN n - (intOf i).toNat)
  case atStart => exact ⟨0, Nat.zero_le _, rfl, ⟨_, _, HD0.out⟩⟩
  case round =>
    clear HD0
    obtain ⟨k, hk, rfl, HD⟩ := hrel
    obtain ⟨v0, v1, hd⟩ := HD.out
    have HDN : Hid (DN w wr v0 v1 k k (List.replicate k ⟨#[]⟩) (List.replicate k ⟨#[]⟩)) := hd
    clear HD hd
    by_cases hlt : k < newN n
    · have hn2 : n ≤ 200 := by
        by_cases h : n ≤ 200
        · exact h
        · rw [newN, if_neg h] at hlt
          omega
      have hkn : (k : Int) < n := by
        rw [newN, if_pos hn2] at hlt
        omega
      have hk200 : k ≤ 200 := by omega
      have HRp : Hid (scells (List.replicate (k + 1) (⟨#[]⟩ : ByteArray)) = scells (List.replicate k ⟨#[]⟩) ++ [.string ⟨#[]⟩]) := by
        show _ = _
        rw [List.replicate_succ', scells_append]
        rfl
      have HRm : Hid (∀ x ∈ List.replicate (k + 1) (⟨#[]⟩ : ByteArray), x.size ≤ maxLen) := fun x hx => by
        rw [(List.mem_replicate.1 hx).2]
        exact Nat.zero_le _
      obtain ⟨d0, d1⟩ := HDN.out.1.cells
      have hsz : w.heap.size + 2 ≤ wr.heap.size := HDN.out.1.lt
      have HO1 : Hid ((wr.alloc (.cells #[.string ⟨#[]⟩] 9)).ownsRow (w.heap.size + 2) 9 1 v0 k (scells (List.replicate k ⟨#[]⟩))) := HDN.out.2.2.1.1.alloc _
      go_wp2_with (at_builtin; refine wpList_append_where rfl _ _ 24 rfl (w.heap.size + 2) 9 i0 (.string ⟨#[]⟩) 1 16 Tryz.underlying24 hi hz0 hz1 hz2 rfl (by decide) v0 k (scells (List.replicate k ⟨#[]⟩)) rfl HO1.out ⟨wr.heap.size, 0, none⟩ 1 1 (by decide) [.string ⟨#[]⟩] rfl rfl (str_new wr ⟨#[]⟩) (by simp [Value.oneCell']) (by unfold maxLen; omega) (by omega) (by simp; omega) ?_; intro v2 w2 hown2 hgrow2 hw2; obtain ⟨A2, C2, rfl⟩ := srow_shape hown2; refine Hid.out ?_)
      refine hidden ?_
      have HD2 : Hid (DN w (w2.setCell ⟨w.heap.size + 1, 0, none⟩ (.slice A2 (k + 1) C2)) (.slice A2 (k + 1) C2) v1 (k + 1) k (List.replicate (k + 1) ⟨#[]⟩) (List.replicate k ⟨#[]⟩)) := HDN.out.push0 _ ⟨by rw [HRp.out]; exact hown2, HRm.out⟩ hgrow2 hw2
      have hbx : Box2R w2 (w.heap.size + 1) 26 v0 v1 := (HDN.out.1.alloc _).grown hgrow2 (fun e => by rw [blkOf_own] at e; have := (HDN.out.2.2.1.lt _ e).1; omega)
      obtain ⟨e0, e1⟩ := hbx.cells
      have f0 := hbx.frozen 0
      clear hown2 hgrow2 hw2 HO1 hbx d0 d1
      go_upto_region 6 with fail
      obtain ⟨W3, hW3⟩ : ∃ W3, w2.setCell ⟨w.heap.size + 1, 0, none⟩ (.slice A2 (k + 1) C2) = W3 := ⟨_, rfl⟩
      rw [hW3] at HD2 ⊢
      clear hW3 HDN e0 e1 f0 hsz
      obtain ⟨d0, d1⟩ := HD2.out.1.cells
      have hsz : w.heap.size + 2 ≤ W3.heap.size := HD2.out.1.lt
      have HO1 : Hid ((W3.alloc (.cells #[.string ⟨#[]⟩] 9)).ownsRow (w.heap.size + 2) 9 1 v1 k (scells (List.replicate k ⟨#[]⟩))) := HD2.out.2.2.2.1.1.alloc _
      go_wp2_with (at_builtin; refine wpList_append_where rfl _ _ 24 rfl (w.heap.size + 2) 9 i0 (.string ⟨#[]⟩) 1 16 Tryz.underlying24 hi hz0 hz1 hz2 rfl (by decide) v1 k (scells (List.replicate k ⟨#[]⟩)) rfl HO1.out ⟨W3.heap.size, 0, none⟩ 1 1 (by decide) [.string ⟨#[]⟩] rfl rfl (str_new W3 ⟨#[]⟩) (by simp [Value.oneCell']) (by unfold maxLen; omega) (by omega) (by simp; omega) ?_; intro v3 w4 hown4 hgrow4 hw4; obtain ⟨A3, C3, rfl⟩ := srow_shape hown4; refine Hid.out ?_)
      refine hidden ?_
      have HD4 : Hid (DN w (w4.setCell ⟨w.heap.size + 1, 1, none⟩ (.slice A3 (k + 1) C3)) (.slice A2 (k + 1) C2) (.slice A3 (k + 1) C3) (k + 1) (k + 1) (List.replicate (k + 1) ⟨#[]⟩) (List.replicate (k + 1) ⟨#[]⟩)) := HD2.out.push1 _ ⟨by rw [HRp.out]; exact hown4, HRm.out⟩ hgrow4 hw4
      have hbx : Box2R w4 (w.heap.size + 1) 26 (.slice A2 (k + 1) C2) v1 := (HD2.out.1.alloc _).grown hgrow4 (fun e => by rw [blkOf_own] at e; have := (HD2.out.2.2.2.1.lt _ e).1; omega)
      obtain ⟨p0, p1⟩ := hbx.cells
      have f1 := hbx.frozen 1
      clear hown4 hgrow4 hw4 HO1 hbx d0 d1 HD2
      go_wp2_with fail
      go_roundw
      case rel => exact ⟨k + 1, by omega, by go_num, ⟨_, _, HD4.out⟩⟩
      case measure => simp [intOf]; omega
    · have hkN : k = newN n := by omega
      have HN : Hid (newN n = k) := hkN.symm
      have hend : ¬ ((k : Int) < n) ∨ ((k : Int) < n ∧ 200 < n) := by
        by_cases h : n ≤ 200
        · rw [newN, if_pos h] at hkN
          omega
        · omega
      clear hlt hkN hk
      obtain ⟨A0, C0, rfl⟩ := HDN.out.2.2.1.shape
      obtain ⟨A1, C1, rfl⟩ := HDN.out.2.2.2.1.shape
      obtain ⟨d0, d1⟩ := HDN.out.1.cells
      obtain ⟨r0, r1⟩ := HDN.out.2.1.cells
      have f0 := HDN.out.2.1.frozen 0
      have f1 := HDN.out.2.1.frozen 1
      have HR : Hid (AnsD w.heap.size (List.replicate (newN n) ⟨#[]⟩) (List.replicate (newN n) ⟨#[]⟩) (.agg #[.slice A0 k C0, .slice A1 k C1]) ((wr.setCell ⟨w.heap.size, 0, none⟩ (.slice A0 k C0)).setCell ⟨w.heap.size, 1, none⟩ (.slice A1 k C1)) ∧ Below w.heap.size w ((wr.setCell ⟨w.heap.size, 0, none⟩ (.slice A0 k C0)).setCell ⟨w.heap.size, 1, none⟩ (.slice A1 k C1))) := by
        obtain ⟨h1, h2, h3, h4, h5, h6⟩ := HDN.out
        have n0 : blkOf (.slice A0 k C0) ≠ some w.heap.size := fun e => by have := (h3.lt _ e).1; omega
        have n1 : blkOf (.slice A1 k C1) ≠ some w.heap.size := fun e => by have := (h4.lt _ e).1; omega
        refine ⟨AnsD.mk' (by rw [HN.out]; simp) (by rw [HN.out]; simp) ?_ ?_ ?_, (h6.setCell (Nat.le_refl _) _).setCell (Nat.le_refl _) _⟩
        · rw [HN.out]
          exact ((h3.setCell n0 _).setCell n0 _).low (by omega)
        · rw [HN.out]
          exact ((h4.setCell n1 _).setCell n1 _).low (by omega)
        · intro q e e2
          refine h5 q ?_ ?_
          · cases A0 <;> simp_all [blkOf]
          · cases A1 <;> simp_all [blkOf]
      clear HDN HN
      rcases hend with hend | ⟨hend, hbig⟩
      all_goals
        go_wp2_with fail
        refine bodyPost_ret (v := .agg #[.slice A0 k C0, .slice A1 k C1]) (by simp [results, Tryz.f77, go_sem, r0, r1]) rfl ?_
        exact ⟨⟨_, rfl, HR.out.1⟩, HR.out.2⟩

end Go.Proofs.YtemcjenpgdieoaaGreatDoor

namespace Go.Proofs.YtemcjenpgdieoaaGreatDoor
open Go.RowKit
set_option linter.unusedVariables false

theorem run_make_str {P : Program} (t e : TypeId) (i : TypeInfo) (z : Value) (h1 : P.underlying t = some (.slice e)) (h2 : P.info? e = some i) (h3 : i.zero = some z) (h4 : i.size = 1) (h5 : i.bytes = 16) (hz : z.cells = #[z])
    (n : Nat) (b2 : n ≤ 2097152) (w : World) : (Instr.makeSlice t (.int .i64 (n : Int)) (.int .i64 (n : Int))).run P w = .ok (.slice (some ⟨w.heap.size, 0, none⟩) n n) (w.alloc (.cells (List.replicate n z).toArray e)) := by
  have hr := run_make (P := P) w t e i z h1 h2 h3 .i64 .i64 n n (by omega) (by omega) (by rw [h5]; omega) (by omega)
  simp only [Int.toNat_natCast, h4, Nat.mul_one, hz] at hr
  rw [hr]
  congr 1
  congr 1
  congr 1
  apply Array.toList_inj.1
  rw [toList_madeCells_one]

end Go.Proofs.YtemcjenpgdieoaaGreatDoor
