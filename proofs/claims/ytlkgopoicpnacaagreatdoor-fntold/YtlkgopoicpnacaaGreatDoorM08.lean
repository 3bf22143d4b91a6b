/- What the specification's l14CopyUps answers. Two steps of a region that draws its order: a call that leaves the world as it was, an append onto a row of the call's own. No program in it. What the specification's l14Make answers of an upload without bytes. What the specification's l14At answers. The bytes of an upload of a row grow. No statement of the program but its table of types. Elements of a row move down. No statement of the program but its table of types. -/
import Derived.Test.YtlkgopoicpnacaaGreatDoorM04
import Derived.Test.YtlkgopoicpnacaaGreatDoorM04
import Derived.Test.YtlkgopoicpnacaaGreatDoorM04
import Derived.Test.YtlkgopoicpnacaaGreatDoorM07
import Derived.Test.YtlkgopoicpnacaaGreatDoorM07
import Derived.Deep.CutBlock
import Derived.Deep.RegionLaw
import Derived.Laws.AppendOwn
import Derived.WalkKit
import Derived.Test.YtlkgopoicpnacaaGreatDoorM03
import Derived.Deep.RegionHeld3
import Derived.StillTailTactics
import Derived.Lib.Strings
import Derived.Test.YtlkgopoicpnacaaGreatDoorM06
import Derived.Laws.IdiomCopy
namespace Go.Proofs.YtlkgopoicpnacaaGreatDoor
open Go.RowKit
set_option linter.unusedVariables false

set_option maxRecDepth 10000 in
set_option maxHeartbeats 1600000 in
theorem specCopyU_any (a : Option Addr) (n c lo : Nat) (l : List UE) (w : World) (h : UpRow w lo (.slice a n c) l) (hn : n = l.length) (hl : n ≤ 1048576) (hz : ∀ e ∈ l, e.n ≤ 1099511627776) :
    Calls Tryz.prog 101 #[.slice a n c] w fun e w' => (∃ v l', e = .returned v ∧ UpRow w' w.heap.size v l' ∧ l'.map UE.u = l.map UE.u ∧ ∀ e ∈ l', ∃ g, e.a = some ⟨g, 0, none⟩) ∧ Below w.heap.size w w' := by
  obtain ⟨i0, hi, hz0, hz1, hz2⟩ := info_parts info_up
  obtain ⟨j0, ji, jz0, jz1, jz2⟩ := info_parts Tryz.info5
  have HX : Hid (∀ W, Below w.heap.size w W → UpRow W lo (.slice a n c) l) := fun W hb => h.stays hb
  have HN : Hid (n = l.length) := hn
  have HZ : Hid (∀ e ∈ l, e.n ≤ 1099511627776) := hz
  clear h hn hz
  have HO0 : Hid (UpRow (w.alloc (.cells #[] 64)) w.heap.size (.slice (some ⟨w.heap.size, 0, none⟩) 0 0) []) := UpRow.nil w
  have HB0 : Hid (Below w.heap.size w (w.alloc (.cells #[] 64))) := (Below.refl _ _).alloc (Nat.le_refl _) _
  go_enter Tryz.func101, Tryz.ntmps101
  go_wp2_with fail
  go_loopw [3, 4] (fun v i wr => ∃ (k : Nat) (l' : List UE), k ≤ n ∧ l'.length = k ∧ i = .int .i64 (k : Int) ∧ Hid (UpRow wr w.heap.size v l') ∧ Hid (l'.map UE.u = (l.map UE.u).take k) ∧ Hid (∀ e ∈ l', ∃ g, e.a = some ⟨g, 0, none⟩) ∧ Hid (Below w.heap.size w wr)) (fun _ i _ => n - (intOf i).toNat)
  case atStart => exact ⟨0, [], Nat.zero_le _, rfl, rfl, HO0, rfl, (fun e he => absurd he (List.not_mem_nil)), HB0⟩
  case round =>
    clear HO0 HB0
    obtain ⟨k, l', hk, hlk, rfl, HO, HM, HSm, HW⟩ := hrel
    obtain ⟨va, vc, hve⟩ := HO.out.shape
    subst hve
    rw [hlk] at HO ⊢
    by_cases hlt : k < n
    case neg =>
      obtain rfl : k = n := by omega
      have HF : Hid (l'.map UE.u = l.map UE.u) := by show _ = _; rw [HM.out, List.take_of_length_le (by rw [List.length_map, HN.out]; exact Nat.le_refl _)]
      clear HM
      go_wp2_with fail
      go_ret
      exact ⟨⟨_, l', rfl, HO.out, HF.out, HSm.out⟩, HW.out⟩
    have hkl : k < l.length := by rw [← HN.out]; exact hlt
    have hki : (k : Int) < (n : Int) := by omega
    have hk0 : (0 : Int) ≤ (k : Int) := by omega
    obtain ⟨g, rfl, g0, g1, g2, g3, _⟩ := (HX.out _ HW.out).at HN.out hkl
    have HSg : Hid (Seg wr (l[k]).a (l[k]).n (l[k]).u.zs) := ((HX.out _ HW.out).2.1 (l[k]) (List.getElem_mem hkl)).seg
    have hen : (l[k]).n ≤ 1099511627776 := HZ.out _ (List.getElem_mem hkl)
    have HM2 : Hid (l'.map UE.u ++ [(l[k]).u] = (l.map UE.u).take (k + 1)) := by show _ = _; rw [List.take_add_one, List.getElem?_map, List.getElem?_eq_getElem hkl, HM.out]; rfl
    clear HM
    generalize l[k] = e at *
    have hb1 := (Below.refl wr.heap.size wr).alloc (Nat.le_refl _) (.cells #[.string e.u.id, .int .i64 e.u.want, .slice e.a e.n e.c, .bool e.u.done] 64)
    have HB1 : Hid (Below w.heap.size w (wr.alloc (.cells #[.string e.u.id, .int .i64 e.u.want, .slice e.a e.n e.c, .bool e.u.done] 64))) := HW.out.trans (hb1.mono HW.out.size)
    have HO1 : Hid (UpRow (wr.alloc (.cells #[.string e.u.id, .int .i64 e.u.want, .slice e.a e.n e.c, .bool e.u.done] 64)) w.heap.size (.slice va k vc) l') := HO.out.stays hb1
    have HS1 : Hid (Seg (wr.alloc (.cells #[.string e.u.id, .int .i64 e.u.want, .slice e.a e.n e.c, .bool e.u.done] 64)) e.a e.n e.u.zs) := HSg.out.below hb1
    have HU1 : Hid (BoxN (wr.alloc (.cells #[.string e.u.id, .int .i64 e.u.want, .slice e.a e.n e.c, .bool e.u.done] 64)) wr.heap.size 64 [.string e.u.id, .int .i64 e.u.want, .slice e.a e.n e.c, .bool e.u.done]) := BoxN.new _ _ _
    have hlo : w.heap.size ≤ wr.heap.size := HW.out.size
    have HAp : Hid (∀ x ∈ l', ∀ q, x.a.map (·.block) = some q → q < wr.heap.size) := fun x hx q hq => (HO.out.lts.2 x hx q hq).2
    have HVa : Hid (∀ q, (Value.slice va k vc).ownBlock = some q → q < wr.heap.size) := fun q hq => (HO.out.lts.1 q hq).2
    clear hb1 HSg HW HO
    go_upto_region 6 with fail
    obtain ⟨x1, hx1⟩ : ∃ x1, wr.alloc (.cells #[.string e.u.id, .int .i64 e.u.want, .slice e.a e.n e.c, .bool e.u.done] 64) = x1 := ⟨_, rfl⟩
    rw [hx1] at HB1 HO1 HS1 HU1 ⊢
    clear hx1 g0 g1 g2 g3
    generalize wr.heap.size = bx at *
    have hbx : bx < x1.heap.size := HU1.out.lt
    have hb2 := (Below.refl x1.heap.size x1).alloc (Nat.le_refl _) (.cells #[] 5)
    have HR2 : Hid ((x1.alloc (.cells #[] 5)).ownsRow x1.heap.size 5 1 (.slice (some ⟨x1.heap.size, 0, none⟩) 0 0) 0 []) := World.ownsRow_lit x1 #[] 0 (Nat.le_refl _) (Nat.zero_le _) rfl
    have HSr : Hid (Src Tryz.prog 1 22 (.slice e.a e.n e.c) e.n (e.u.zs.map (Value.int .u8)) (x1.alloc (.cells #[] 5))) := (HS1.out.below hb2).src
    have hU2 := HU1.out.stays hb2
    have u2 := hU2.cell 2 rfl
    have HZr : Hid (∀ x ∈ e.u.zs, 0 ≤ x ∧ x ≤ 255) := HS1.out.2.1
    have HL2 : Hid (x1.heap.size ≤ (x1.alloc (.cells #[] 5)).heap.size) := hb2.size
    go_wp2_with (at_builtin; refine wpList_append_loc rfl _ _ 22 22 rfl x1.heap.size 5 j0 (.int .u8 0) 1 1 Tryz.underlying22 ji jz0 jz1 jz2 rfl (by decide) x1.heap.size 0 0 [] rfl HR2.out (.slice e.a e.n e.c) e.n (e.u.zs.map (Value.int .u8)) rfl HSr.out (by unfold maxLen; omega) (by omega) HL2.out ?_; intro gA C x3 hown3 hg3 _; refine Hid.out ?_)
    refine hidden ?_
    obtain ⟨A, hAe⟩ : ∃ A : Option Addr, some ⟨gA, 0, none⟩ = A := ⟨_, rfl⟩
    have HAe : Hid (some ⟨gA, 0, none⟩ = A) := hAe
    rw [hAe] at hown3 ⊢
    have hown3' : x3.ownsRow x1.heap.size 5 1 (.slice A e.n C) e.n (e.u.zs.map (Value.int .u8)) := by
      have h := hown3
      rw [Nat.zero_add] at h
      simpa using h
    clear hAe
    have ho3 : Owns x3 x1.heap.size A e.n C e.u.zs := ⟨hown3', HZr.out⟩
    have hU3 := hU2.grown hg3 (fun q => by injection q with q; omega)
    have hO3 : UpRow x3 w.heap.size (.slice va k vc) l' := (HO1.out.stays hb2).grown hg3 (fun q hq hq2 => by injection hq with hq; have := HVa.out q hq2; omega) (fun x hx q hq hq2 => by injection hq with hq; have := HAp.out x hx q hq2; omega)
    have hB3 : Below w.heap.size w x3 := (HB1.out.trans (hb2.mono HB1.out.size)).grown hg3 (by have := HB1.out.size; have := hb2.size; omega) (fun q hq => by injection hq with hq; have := HB1.out.size; omega)
    have y2 := hU3.cell 2 rfl
    have z2 := hU3.frozen 2
    have hA : A.map (·.block) ≠ some bx := fun q => by have := (ho3.lt _ q).1; omega
    have hgs : x3.grownBy (x3.setCell ⟨bx, 2, none⟩ (.slice A e.n C)) (some bx) := grownBy_setU x3 bx 2 _
    have HU4 : Hid (BoxN (x3.setCell ⟨bx, 2, none⟩ (.slice A e.n C)) bx 64 [.string e.u.id, .int .i64 e.u.want, .slice A e.n C, .bool e.u.done]) := hU3.set 2 _
    have HO4 : Hid (UpRow (x3.setCell ⟨bx, 2, none⟩ (.slice A e.n C)) w.heap.size (.slice va k vc) l') := hO3.grown hgs (fun q hq hq2 => by injection hq with hq; have := HVa.out q hq2; omega) (fun x hx q hq hq2 => by injection hq with hq; have := HAp.out x hx q hq2; omega)
    have HD4 : Hid (Owns (x3.setCell ⟨bx, 2, none⟩ (.slice A e.n C)) (bx + 1) A e.n C e.u.zs) := owns_low (owns_set ho3 hA) (by omega)
    have HB4 : Hid (Below w.heap.size w (x3.setCell ⟨bx, 2, none⟩ (.slice A e.n C))) := hB3.setCell (by dsimp only; omega) _
    clear hown3 hown3' ho3 hU3 hO3 hB3 hA hgs hg3 hU2 u2 HR2 HSr HB1 HO1 HS1 HU1 hb2 HL2
    go_upto_region 7 with fail
    obtain ⟨x4, hx4⟩ : ∃ x4, (x3.setCell ⟨bx, 2, none⟩ (.slice A e.n C)) = x4 := ⟨_, rfl⟩
    rw [hx4] at HU4 HO4 HD4 HB4 ⊢
    clear hx4 y2 z2
    have hbx4 : bx < x4.heap.size := HU4.out.lt
    have hw4 : w.heap.size ≤ x4.heap.size := HB4.out.size
    obtain ⟨t0, t1, t2, t3⟩ := (show _ ∧ _ ∧ _ ∧ _ from ⟨HU4.out.cell 0 rfl, HU4.out.cell 1 rfl, HU4.out.cell 2 rfl, HU4.out.cell 3 rfl⟩)
    have HNw : Hid (∀ j u, (UE.cells ⟨e.u, A, e.n, C⟩)[j]? = some u → (x4.alloc (.cells #[.string e.u.id, .int .i64 e.u.want, .slice A e.n C, .bool e.u.done] 64)).cell? ((⟨x4.heap.size, 0, none⟩ : Addr).add j) = some u) := four_new x4 e.u A e.n C
    have HO4' : Hid ((x4.alloc (.cells #[.string e.u.id, .int .i64 e.u.want, .slice A e.n C, .bool e.u.done] 64)).ownsRow w.heap.size 64 4 (.slice va k vc) k (ueCells l')) := by
      have h := HO4.out.1.alloc (.cells #[.string e.u.id, .int .i64 e.u.want, .slice A e.n C, .bool e.u.done] 64)
      rw [hlk] at h
      exact h
    have HAp' : Hid (∀ x ∈ l', ∀ q, x.a.map (·.block) = some q → q < bx + 1) := fun x hx q hq => by have := HAp.out x hx q hq; omega
    go_wp2_with (at_builtin; refine wpList_append_own _ rfl _ _ 27 rfl w.heap.size 64 i0 (.agg #[.string ⟨#[]⟩, .int .i64 0, .slice none 0 0, .bool false]) 4 56 Tryz.underlying27 hi hz0 hz1 hz2 rfl (by decide) (.slice va k vc) k _ rfl HO4'.out ⟨x4.heap.size, 0, none⟩ 1 1 (UE.cells ⟨e.u, A, e.n, C⟩) rfl rfl HNw.out (four_one e.u A e.n C) (by unfold maxLen; omega) (by omega) (by simp; omega) ?_; intro v5 x5 hown5 hg5 _; refine Hid.out ?_)
    refine hidden ?_
    have HO5 : Hid (UpRow x5 w.heap.size v5 (l' ++ [⟨e.u, A, e.n, C⟩])) := HO4.out.snoc HD4.out (by omega) HAp'.out (by rw [hlk]; exact hown5) hg5
    have HB5 : Hid (Below w.heap.size w x5) := (HB4.out.alloc HB4.out.size _).grown hg5 (by simp; omega) (fun q hq => (HO4.out.lts.1 q hq).1)
    have HM5 : Hid ((l' ++ [(⟨e.u, A, e.n, C⟩ : UE)]).map UE.u = (l.map UE.u).take (k + 1)) := by show _ = _; rw [List.map_append]; exact HM2.out
    have HSm5 : Hid (∀ x ∈ l' ++ [(⟨e.u, A, e.n, C⟩ : UE)], ∃ g, x.a = some ⟨g, 0, none⟩) := fun x hx => by
      rcases List.mem_append.1 hx with hx | hx
      · exact HSm.out x hx
      · obtain rfl : x = ⟨e.u, A, e.n, C⟩ := by simpa using hx
        exact ⟨gA, HAe.out.symm⟩
    clear hown5 hg5 HNw HO4' HO4 HD4 HU4 HB4 t0 t1 t2 t3 HM2
    obtain ⟨v5a, v5c, rfl⟩ := HO5.out.shape
    rw [List.length_append, hlk] at HO5 ⊢
    go_wp2_with fail
    go_roundw
    case rel => exact ⟨k + 1, l' ++ [⟨e.u, A, e.n, C⟩], by omega, by simp [hlk], by go_num, HO5, HM5, HSm5, HB5⟩
    case measure => simp [intOf]; omega

end Go.Proofs.YtlkgopoicpnacaaGreatDoor

namespace Go.Proofs.YtlkgopoicpnacaaGreatDoor
open Go.RowKit
set_option linter.unusedVariables false

theorem step_append_own {P : Program} {ops : Array Oper} {o : Oper} {a : Act} {w : World} {K : Act → World → Prop} {Q : Exit → Act → World → Prop} {E : Prop}
    (hg : o.guard = none) (s x : Operand) (t : TypeId) (ho : o.op = .call { callee := .builtin .append, args := #[s, x], argTypes := #[t, t] })
    (base : Nat) (e : TypeId) (i : TypeInfo) (z : Value) (size bytes : Nat) (ht : P.underlying t = some (.slice e)) (hi : P.info? e = some i) (hz : i.zero = some z)
    (hsize : i.size = size) (hby : i.bytes = bytes) (hzs : z.cells.size = size) (hsz : 0 < size)
    (v : Value) (n : Nat) (xs : List Value) (hs : a.eval s = v) (hown : w.ownsRow base e size v n xs)
    (ad : Addr) (m c : Nat) (news : List Value) (hx : a.eval x = .slice (some ad) m c) (hl : news.length = m * size) (hnews : ∀ j u, news[j]? = some u → w.cell? (ad.add j) = some u) (h1 : ∀ u ∈ news, u.oneCell' = true)
    (h63 : n + m ≤ maxLen) (hbytes : (n + m) * bytes ≤ 140737488355328) (hbase : base ≤ w.heap.size)
    (h : ∀ v' w', w'.ownsRow base e size v' (n + m) (xs ++ news) → w.grownBy w' v.ownBlock → K (a.put o.dst v') w') :
    if Region.wanted o (yielded ops a.tmps) = true then Oper.wp P o a w K Q else E := by
  have hw : Region.wanted o (yielded ops a.tmps) = true := by simp [Region.wanted, hg]
  rw [if_pos hw]
  exact wp_append_own w s x t ho base e i z size bytes ht hi hz hsize hby hzs hsz v n xs hs hown ad m c news hx hl hnews h1 h63 hbytes hbase fun v' w' h2 h3 _ => h v' w' h2 h3

theorem step_call_same {P : Program} {ops : Array Oper} {o : Oper} {a : Act} {w : World} {K : Act → World → Prop} {Q : Exit → Act → World → Prop} {E : Prop}
    (hg : o.guard = none) (f : FuncId) (x : Operand) (t : TypeId) (ho : o.op = .call { callee := .value (.func f), args := #[x], argTypes := #[t] })
    (hent : ∀ args w, (callFunc f args).run P w = .ok (.enter f args) w) (u v : Value) (hx : a.eval x = u)
    (hc : Calls P f #[u] w fun e w' => e = .returned v ∧ w' = w) (h : K (a.put o.dst v) w) :
    if Region.wanted o (yielded ops a.tmps) = true then Oper.wp P o a w K Q else E := by
  have hw : Region.wanted o (yielded ops a.tmps) = true := by simp [Region.wanted, hg]
  rw [if_pos hw]
  have hf : a.eval (.func f) = .func (.func f) #[] #[] := rfl
  unfold Oper.wp
  simp [execOp, ho, resolve, invoke, Deferred.ofValue, hent, hf, hx, Oper.upon_enter]
  refine hc.mono ?_
  rintro e w' ⟨rfl, rfl⟩
  exact h

end Go.Proofs.YtlkgopoicpnacaaGreatDoor

namespace Go.Proofs.YtlkgopoicpnacaaGreatDoor
open Go.RowKit
set_option linter.unusedVariables false

theorem lit_stays {W W' : World} {g : Nat} {xs : List Value} (h : ∀ j u, xs[j]? = some u → W.cell? ((⟨g, 0, none⟩ : Addr).add j) = some u) (hg : g < W.heap.size) (hb : Below W.heap.size W W') : ∀ j u, xs[j]? = some u → W'.cell? ((⟨g, 0, none⟩ : Addr).add j) = some u := by
  intro j u hj
  have hp : (⟨g, 0, none⟩ : Addr).add j = ⟨g, j, none⟩ := by unfold Addr.add; split <;> simp_all
  have h1 := h j u hj
  rw [hp] at h1 ⊢
  exact (hb.cell (p := ⟨g, j, none⟩) hg).trans h1

theorem ueCells_putM (M D : List UE) (x e : UE) : ((((ueCells (M ++ x :: D)).set (M.length * 4) (.string e.u.id)).set (M.length * 4 + 1) (.int .i64 e.u.want)).set (M.length * 4 + 2) (.slice e.a e.n e.c)).set (M.length * 4 + 3) (.bool e.u.done) = ueCells (M ++ e :: D) := by
  have hl := ueCells_len M
  rw [ueCells_append, ueCells_append, ueCells_cons, ueCells_cons]
  rw [List.set_append_right _ _ (by omega), hl, Nat.sub_self, List.set_cons_zero]
  rw [List.set_append_right _ _ (by omega), hl, show M.length * 4 + 1 - M.length * 4 = 1 by omega]
  rw [List.set_append_right _ _ (by omega), hl, show M.length * 4 + 2 - M.length * 4 = 2 by omega]
  rw [List.set_append_right _ _ (by omega), hl, show M.length * 4 + 3 - M.length * 4 = 3 by omega]
  rfl

/-- An element of a row is written over. -/
theorem row_put {W : World} {base g n c k : Nat} {M D : List UE} {x : UE} (e : UE) (h : W.ownsRow base 64 4 (.slice (some ⟨g, 0, none⟩) n c) n (ueCells (M ++ x :: D))) (hk : M.length = k) :
    (((((W).setCell ⟨g, k * 4, none⟩ (.string e.u.id)).setCell ⟨g, k * 4 + 1, none⟩ (.int .i64 e.u.want)).setCell ⟨g, k * 4 + 2, none⟩ (.slice e.a e.n e.c)).setCell ⟨g, k * 4 + 3, none⟩ (.bool e.u.done)).ownsRow base 64 4 (.slice (some ⟨g, 0, none⟩) n c) n (ueCells (M ++ e :: D)) ∧ W.grownBy (((((W).setCell ⟨g, k * 4, none⟩ (.string e.u.id)).setCell ⟨g, k * 4 + 1, none⟩ (.int .i64 e.u.want)).setCell ⟨g, k * 4 + 2, none⟩ (.slice e.a e.n e.c)).setCell ⟨g, k * 4 + 3, none⟩ (.bool e.u.done)) (some g) := by
  subst hk
  have h1 := h.stored (M.length * 4) (.string e.u.id)
  have h2 := h1.1.stored (M.length * 4 + 1) (.int .i64 e.u.want)
  have h3 := h2.1.stored (M.length * 4 + 2) (.slice e.a e.n e.c)
  have h4 := h3.1.stored (M.length * 4 + 3) (.bool e.u.done)
  have a1 : World.grownBy _ _ (some g) := h1.2
  have a2 : World.grownBy _ _ (some g) := h2.2
  have a3 : World.grownBy _ _ (some g) := h3.2
  have a4 : World.grownBy _ _ (some g) := h4.2
  have h6 := h4.1
  rw [ueCells_putM] at h6
  exact ⟨h6, grow_transU (grow_transU (grow_transU a1 a2) a3) a4⟩

/-- The cells of an element of a row. -/
theorem row_at {W : World} {base g n c : Nat} {l : List UE} (h : W.ownsRow base 64 4 (.slice (some ⟨g, 0, none⟩) n c) n (ueCells l)) {i : Nat} {e : UE} (hi : l[i]? = some e) :
    W.cell? ⟨g, i * 4, none⟩ = some (.string e.u.id) ∧ W.cell? ⟨g, i * 4 + 1, none⟩ = some (.int .i64 e.u.want) ∧ W.cell? ⟨g, i * 4 + 2, none⟩ = some (.slice e.a e.n e.c) ∧ W.cell? ⟨g, i * 4 + 3, none⟩ = some (.bool e.u.done) ∧ ∀ j, W.frozen? ⟨g, j, none⟩ = false := by
  obtain ⟨hil, rfl⟩ := List.getElem?_eq_some_iff.1 hi
  have hl := ueCells_len l
  have hln : l.length * 4 = n * 4 := by rw [← hl]; exact h.1
  obtain ⟨h0, h1, h2, h3⟩ := ueCells_at l i hil
  refine ⟨?_, ?_, ?_, ?_, fun j => h.frozenAt j⟩
  · rw [h.cellAt _ (by omega)]; exact h0
  · rw [h.cellAt _ (by omega)]; exact h1
  · rw [h.cellAt _ (by omega)]; exact h2
  · rw [h.cellAt _ (by omega)]; exact h3

/-- An upload without bytes more in a row. -/
theorem UpRow.pushNil {W W' : World} {base : Nat} {v v' : Value} {l : List UE} {u : U} (h : UpRow W base v l) (hz : u.zs = []) (ho : W'.ownsRow base 64 4 v' (l.length + 1) (ueCells l ++ UE.cells ⟨u, none, 0, 0⟩)) (hg : W.grownBy W' v.ownBlock) : UpRow W' base v' (l ++ [⟨u, none, 0, 0⟩]) := by
  refine ⟨?_, ?_, ?_⟩
  · rw [List.length_append, ueCells_append, show ueCells [⟨u, none, 0, 0⟩] = UE.cells ⟨u, none, 0, 0⟩ by simp [ueCells]]
    exact ho
  · intro x hx
    rcases List.mem_append.1 hx with hx | hx
    · exact (h.2.1 x hx).grown hg (fun q hq => h.rowApart (h.2.1 x hx) q hq)
    · obtain rfl : x = ⟨u, none, 0, 0⟩ := by simpa using hx
      rw [hz]
      exact ⟨⟨rfl, .inl ⟨rfl, rfl⟩⟩, by simp⟩
  · rw [List.pairwise_append]
    refine ⟨h.2.2, by simp, fun x hx y hy q hq hq2 => ?_⟩
    obtain rfl : y = ⟨u, none, 0, 0⟩ := by simpa using hy
    cases hq2

set_option maxRecDepth 10000 in
set_option maxHeartbeats 1600000 in
theorem specMakeU_any (a : Option Addr) (n c lo : Nat) (l : List UE) (id : ByteArray) (want : Int) (w : World) (h : UpRow w lo (.slice a n c) l) (hn : n = l.length) (hl : n ≤ 100000) (hz : ∀ e ∈ l, e.n ≤ 1099511627776) :
    Calls Tryz.prog 120 #[.slice a n c, .agg #[.string id, .int .i64 want, .slice none 0 0, .bool false]] w fun e w' => (∃ v l', e = .returned v ∧ UpRow w' w.heap.size v l' ∧ l'.map UE.u = makeU (l.map UE.u) ⟨id, want, [], false⟩) ∧ Below w.heap.size w w' := by
  obtain ⟨i0, hi, hz0, hz1, hz2⟩ := info_parts info_up
  obtain ⟨w0, hw0⟩ : ∃ w0, w.alloc (.cells #[.string id, .int .i64 want, .slice none 0 0, .bool false] 64) = w0 := ⟨_, rfl⟩
  have HE : Hid (w.alloc (.cells #[.string id, .int .i64 want, .slice none 0 0, .bool false] 64) = w0) := hw0
  have HQ : Hid (BoxN w0 w.heap.size 64 [.string id, .int .i64 want, .slice none 0 0, .bool false]) := by show BoxN _ _ _ _; rw [← hw0]; exact BoxN.new _ _ _
  have HB : Hid (Below w.heap.size w w0) := by show Below _ _ _; rw [← hw0]; exact (Below.refl _ _).alloc (Nat.le_refl _) _
  have HX : Hid (∀ W, Below w0.heap.size w0 W → UpRow W lo (.slice a n c) l ∧ BoxN W w.heap.size 64 [.string id, .int .i64 want, .slice none 0 0, .bool false]) := fun W hb => ⟨(h.stays HB.out).stays hb, HQ.out.stays hb⟩
  have HN : Hid (n = l.length) := hn
  have HZ : Hid (∀ e ∈ l, e.n ≤ 1099511627776) := hz
  clear hw0 h hn hz
  go_enter Tryz.func120, Tryz.ntmps120
  go_upto_region 1 with fail
  rw [HE.out]
  clear HE HQ
  have bA : Below w0.heap.size w0 w0.drew := (Below.refl _ _).drew
  have bL : Below w0.heap.size w0 (w0.alloc (.cells #[.string id, .int .i64 want, .slice none 0 0, .bool false] 64)).drew := ((Below.refl _ _).alloc (Nat.le_refl _) _).drew
  have HA : Hid (Below w0.heap.size w0 w0.drew) := bA
  have HL : Hid (Below w0.heap.size w0 (w0.alloc (.cells #[.string id, .int .i64 want, .slice none 0 0, .bool false] 64)).drew) := bL
  have HLn : Hid (∀ j u, (UE.cells (⟨⟨id, want, [], false⟩, none, 0, 0⟩ : UE))[j]? = some u → (w0.alloc (.cells #[.string id, .int .i64 want, .slice none 0 0, .bool false] 64)).drew.cell? ((⟨w0.heap.size, 0, none⟩ : Addr).add j) = some u) := four_new w0 ⟨id, want, [], false⟩ none 0 0
  have HLs : Hid (w0.heap.size < (w0.alloc (.cells #[.string id, .int .i64 want, .slice none 0 0, .bool false] 64)).drew.heap.size) := by show _ < (w0.alloc (.cells #[.string id, .int .i64 want, .slice none 0 0, .bool false] 64)).heap.size; simp
  clear bA bL
  go_cut [5] from 7 (fun v W => ∃ (L : List UE), L.length = n ∧ Hid (UpRow W w0.heap.size v (L ++ [(⟨⟨id, want, [], false⟩, none, 0, 0⟩ : UE)])) ∧ Hid (L.map UE.u = l.map UE.u) ∧ Hid (Below w0.heap.size w0 W))
  case first =>
    obtain ⟨k0, k1, k2, k3⟩ := (show _ ∧ _ ∧ _ ∧ _ from ⟨(HX.out _ HA.out).2.cell 0 rfl, (HX.out _ HA.out).2.cell 1 rfl, (HX.out _ HA.out).2.cell 2 rfl, (HX.out _ HA.out).2.cell 3 rfl⟩)
    obtain ⟨l0, l1, l2, l3⟩ := (show _ ∧ _ ∧ _ ∧ _ from ⟨(HX.out _ HL.out).2.cell 0 rfl, (HX.out _ HL.out).2.cell 1 rfl, (HX.out _ HL.out).2.cell 2 rfl, (HX.out _ HL.out).2.cell 3 rfl⟩)
    go_region_held3 (fun W => W.cell? ⟨w.heap.size, 0, none⟩ = some (.string id) ∧ W.cell? ⟨w.heap.size, 1, none⟩ = some (.int .i64 want) ∧ W.cell? ⟨w.heap.size, 2, none⟩ = some (.slice none 0 0) ∧ W.cell? ⟨w.heap.size, 3, none⟩ = some (.bool false)) (first | (refine ⟨?_, ?_, ?_, ?_⟩ <;> assumption) | go_keep) (first
      | (refine step_append_own rfl (.tmp 8) (.tmp 10) 27 rfl w0.heap.size 64 i0 (.agg #[.string ⟨#[]⟩, .int .i64 0, .slice none 0 0, .bool false]) 4 56 Tryz.underlying27 hi hz0 hz1 hz2 rfl (by decide) (.slice va n vc) n (ueCells L) rfl (hrowA.alloc _) ⟨y1.heap.size, 0, none⟩ 1 1 (UE.cells (⟨⟨id, want, [], false⟩, none, 0, 0⟩ : UE)) rfl rfl (four_new y1 ⟨id, want, [], false⟩ none 0 0) (four_one ⟨id, want, [], false⟩ none 0 0) (by unfold maxLen; omega) (by omega) (by have := hB1.size; simp; omega) ?_; intro v2 y2 hown2 hg2
         have hordA2 := hordA
         have hB2 : Below w0.heap.size w0 y2 := (hB1.alloc hB1.size _).grown hg2 (by have := hB1.size; simp; omega) (fun q hq => (hrowA.lt q hq).1)
         obtain ⟨t0, t1, t2, t3⟩ := (show _ ∧ _ ∧ _ ∧ _ from ⟨(HX.out _ hB2).2.cell 0 rfl, (HX.out _ hB2).2.cell 1 rfl, (HX.out _ hB2).2.cell 2 rfl, (HX.out _ hB2).2.cell 3 rfl⟩))
      | (refine step_append_own rfl (.tmp 8) (.tmp 10) 27 rfl w0.heap.size 64 i0 (.agg #[.string ⟨#[]⟩, .int .i64 0, .slice none 0 0, .bool false]) 4 56 Tryz.underlying27 hi hz0 hz1 hz2 rfl (by decide) (.slice va n vc) n (ueCells L) rfl hrowB ⟨w0.heap.size, 0, none⟩ 1 1 (UE.cells (⟨⟨id, want, [], false⟩, none, 0, 0⟩ : UE)) rfl rfl hcB (four_one ⟨id, want, [], false⟩ none 0 0) (by unfold maxLen; omega) (by omega) hB1.size ?_; intro v2 y2 hown2 hg2
         have hordB2 := hordB
         have hB2 : Below w0.heap.size w0 y2 := hB1.grown hg2 hB1.size (fun q hq => (hrowB.lt q hq).1)
         obtain ⟨t0, t1, t2, t3⟩ := (show _ ∧ _ ∧ _ ∧ _ from ⟨(HX.out _ hB2).2.cell 0 rfl, (HX.out _ hB2).2.cell 1 rfl, (HX.out _ hB2).2.cell 2 rfl, (HX.out _ hB2).2.cell 3 rfl⟩))
      | (go_at_call 101; refine (specCopyU_any a n c lo l w0.drew (HX.out _ HA.out).1 HN.out (by omega) HZ.out).mono ?_; rintro _ y1 ⟨⟨v1, L, rfl, hrow, hmp, _⟩, hb1⟩
         obtain ⟨va, vc, hve⟩ := hrow.shape
         have hLn : L.length = n := (by have h1 := congrArg List.length hmp; rw [List.length_map, List.length_map] at h1; rw [h1, HN.out])
         rw [hLn] at hve
         subst hve
         have hrow' := hrow.1
         rw [hLn] at hrow'
         have hB1 : Below w0.heap.size w0 y1 := HA.out.trans (hb1.mono HA.out.size)
         have hordA : True := trivial
         have hrowA := own_low hrow' (show w0.heap.size ≤ w0.drew.heap.size from Nat.le_refl _)
         obtain ⟨m0, m1, m2, m3⟩ := (show _ ∧ _ ∧ _ ∧ _ from ⟨(HX.out _ hB1).2.cell 0 rfl, (HX.out _ hB1).2.cell 1 rfl, (HX.out _ hB1).2.cell 2 rfl, (HX.out _ hB1).2.cell 3 rfl⟩)
         have hBl : Below w0.heap.size w0 (y1.alloc (.cells #[.string id, .int .i64 want, .slice none 0 0, .bool false] 64)) := hB1.alloc hB1.size _
         obtain ⟨n0, n1, n2, n3⟩ := (show _ ∧ _ ∧ _ ∧ _ from ⟨(HX.out _ hBl).2.cell 0 rfl, (HX.out _ hBl).2.cell 1 rfl, (HX.out _ hBl).2.cell 2 rfl, (HX.out _ hBl).2.cell 3 rfl⟩))
      | (go_at_call 101; refine (specCopyU_any a n c lo l (w0.alloc (.cells #[.string id, .int .i64 want, .slice none 0 0, .bool false] 64)).drew (HX.out _ HL.out).1 HN.out (by omega) HZ.out).mono ?_; rintro _ y1 ⟨⟨v1, L, rfl, hrow, hmp, _⟩, hb1⟩
         obtain ⟨va, vc, hve⟩ := hrow.shape
         have hLn : L.length = n := (by have h1 := congrArg List.length hmp; rw [List.length_map, List.length_map] at h1; rw [h1, HN.out])
         rw [hLn] at hve
         subst hve
         have hrow' := hrow.1
         rw [hLn] at hrow'
         have hB1 : Below w0.heap.size w0 y1 := HL.out.trans (hb1.mono HL.out.size)
         have hordB : True := trivial
         have hrowB := own_low hrow' (show w0.heap.size ≤ (w0.alloc (.cells #[.string id, .int .i64 want, .slice none 0 0, .bool false] 64)).drew.heap.size from HL.out.size)
         have hcB : ∀ j u, (UE.cells (⟨⟨id, want, [], false⟩, none, 0, 0⟩ : UE))[j]? = some u → y1.cell? ((⟨w0.heap.size, 0, none⟩ : Addr).add j) = some u := lit_stays HLn.out HLs.out hb1
         obtain ⟨m0, m1, m2, m3⟩ := (show _ ∧ _ ∧ _ ∧ _ from ⟨(HX.out _ hB1).2.cell 0 rfl, (HX.out _ hB1).2.cell 1 rfl, (HX.out _ hB1).2.cell 2 rfl, (HX.out _ hB1).2.cell 3 rfl⟩))
      | fail)
    all_goals
      have HU : Hid (UpRow y2 w0.heap.size v2 (L ++ [(⟨⟨id, want, [], false⟩, none, 0, 0⟩ : UE)])) := (by first
        | (have hA2 := hordA2; exact ((hrow.stays ((Below.refl _ _).alloc (Nat.le_refl _) (.cells #[.string id, .int .i64 want, .slice none 0 0, .bool false] 64))).low (Nat.le_refl _)).pushNil rfl (by rw [hLn]; exact hown2) hg2)
        | (have hB2' := hordB2; exact (hrow.low HL.out.size).pushNil rfl (by rw [hLn]; exact hown2) hg2))
      have HM : Hid (L.map UE.u = l.map UE.u) := hmp
      have HB2 : Hid (Below w0.heap.size w0 y2) := hB2
      have hL := hLn
      clear hown2 hg2 hrow hrow' hmp hB1 hB2 hb1 m0 m1 m2 m3 t0 t1 t2 t3 k0 k1 k2 k3 l0 l1 l2 l3
      go_wp2_with fail
      go_meet
      exact ⟨L, hL, HU, HM, HB2⟩
  case rest =>
  obtain ⟨x1, hx1⟩ : ∃ x1, wc = x1 := ⟨_, rfl⟩
  rw [hx1] at hcut ⊢
  clear hx1 HA HL HLn HLs
  obtain ⟨L, hL, HU, HM, HB1⟩ := hcut
  have hLl : (L ++ [(⟨⟨id, want, [], false⟩, none, 0, 0⟩ : UE)]).length = n + 1 := by simp [hL]
  obtain ⟨va, vc, hve⟩ := HU.out.shape
  rw [hLl] at hve
  subst hve
  obtain ⟨g, rfl, _⟩ := HU.out.at hLl.symm (i := 0) (by omega)
  have HO1 : Hid (x1.ownsRow w0.heap.size 64 4 (.slice (some ⟨g, 0, none⟩) (n + 1) vc) (n + 1) (ueCells (L.take n ++ (⟨⟨id, want, [], false⟩, none, 0, 0⟩ : UE) :: L.drop n))) := by
    have h := HU.out.1
    rw [hLl] at h
    rw [← hL, List.take_length, List.drop_length]
    rw [← hL] at h
    exact h
  have HE1 : Hid (∀ e ∈ L, Owns x1 w0.heap.size e.a e.n e.c e.u.zs ∧ ∀ q, e.a.map (·.block) = some q → q ≠ g) := fun e he => ⟨HU.out.2.1 e (List.mem_append_left _ he), fun q hq hqg => HU.out.rowApart (HU.out.2.1 e (List.mem_append_left _ he)) g rfl (by rw [← hqg]; exact hq)⟩
  have HNe : Hid (∀ e ∈ L, ∀ q, e.a.map (·.block) = some q → q ≠ g) := fun e he => (HE1.out e he).2
  have HPw : Hid (L.Pairwise uapart) := (List.pairwise_append.1 HU.out.2.2).1
  have hg0 : w0.heap.size ≤ g := (HU.out.lts.1 g rfl).1
  have hww0 : w.heap.size < w0.heap.size := (HX.out w0 (Below.refl _ _)).2.lt
  clear HU
  go_wp2_with fail
  go_loopw [6] (fun v wr => ∃ (k : Nat) (x : UE), v = .int .i64 (k : Int) ∧ k ≤ n ∧ Hid (wr.ownsRow w0.heap.size 64 4 (.slice (some ⟨g, 0, none⟩) (n + 1) vc) (n + 1) (ueCells (L.take k ++ x :: L.drop k))) ∧ Hid (insK (L.map UE.u) id n = insK (L.map UE.u) id k) ∧ Hid (∀ e ∈ L, Owns wr w0.heap.size e.a e.n e.c e.u.zs) ∧ Hid (Below w0.heap.size w0 wr)) (fun v _ => (intOf v).toNat)
  case atStart => exact ⟨n, (⟨⟨id, want, [], false⟩, none, 0, 0⟩ : UE), by go_num, Nat.le_refl _, HO1, rfl, fun e he => (HE1.out e he).1, HB1⟩
  case round =>
    obtain ⟨k, x, rfl, hkn, HO, HI, HE, HW⟩ := hrel
    clear HO1 HB1
    obtain ⟨b0, b1, b2, b3⟩ := (show _ ∧ _ ∧ _ ∧ _ from ⟨(HX.out _ HW.out).2.cell 0 rfl, (HX.out _ HW.out).2.cell 1 rfl, (HX.out _ HW.out).2.cell 2 rfl, (HX.out _ HW.out).2.cell 3 rfl⟩)
    have HFin : Hid (∀ W, Below wr.heap.size wr W → insK (L.map UE.u) id n = k → UpRow (((((W).setCell ⟨g, k * 4, none⟩ (.string (⟨⟨id, want, [], false⟩, none, 0, 0⟩ : UE).u.id)).setCell ⟨g, k * 4 + 1, none⟩ (.int .i64 (⟨⟨id, want, [], false⟩, none, 0, 0⟩ : UE).u.want)).setCell ⟨g, k * 4 + 2, none⟩ (.slice (⟨⟨id, want, [], false⟩, none, 0, 0⟩ : UE).a (⟨⟨id, want, [], false⟩, none, 0, 0⟩ : UE).n (⟨⟨id, want, [], false⟩, none, 0, 0⟩ : UE).c)).setCell ⟨g, k * 4 + 3, none⟩ (.bool (⟨⟨id, want, [], false⟩, none, 0, 0⟩ : UE).u.done)) w.heap.size (.slice (some ⟨g, 0, none⟩) (n + 1) vc) (L.take k ++ (⟨⟨id, want, [], false⟩, none, 0, 0⟩ : UE) :: L.drop k) ∧ Below w.heap.size w (((((W).setCell ⟨g, k * 4, none⟩ (.string (⟨⟨id, want, [], false⟩, none, 0, 0⟩ : UE).u.id)).setCell ⟨g, k * 4 + 1, none⟩ (.int .i64 (⟨⟨id, want, [], false⟩, none, 0, 0⟩ : UE).u.want)).setCell ⟨g, k * 4 + 2, none⟩ (.slice (⟨⟨id, want, [], false⟩, none, 0, 0⟩ : UE).a (⟨⟨id, want, [], false⟩, none, 0, 0⟩ : UE).n (⟨⟨id, want, [], false⟩, none, 0, 0⟩ : UE).c)).setCell ⟨g, k * 4 + 3, none⟩ (.bool (⟨⟨id, want, [], false⟩, none, 0, 0⟩ : UE).u.done)) ∧ (L.take k ++ (⟨⟨id, want, [], false⟩, none, 0, 0⟩ : UE) :: L.drop k).map UE.u = makeU (l.map UE.u) ⟨id, want, [], false⟩) := fun W hb hik => by
      have hkl : (L.take k).length = k := by simp; omega
      obtain ⟨r1, r2⟩ := row_put (⟨⟨id, want, [], false⟩, none, 0, 0⟩ : UE) (own_below HO.out hb) hkl
      have hsz := HW.out.size
      have hbW : Below w0.heap.size w0 W := HW.out.trans (hb.mono HW.out.size)
      have hbF : Below w0.heap.size w0 (((((W).setCell ⟨g, k * 4, none⟩ (.string (⟨⟨id, want, [], false⟩, none, 0, 0⟩ : UE).u.id)).setCell ⟨g, k * 4 + 1, none⟩ (.int .i64 (⟨⟨id, want, [], false⟩, none, 0, 0⟩ : UE).u.want)).setCell ⟨g, k * 4 + 2, none⟩ (.slice (⟨⟨id, want, [], false⟩, none, 0, 0⟩ : UE).a (⟨⟨id, want, [], false⟩, none, 0, 0⟩ : UE).n (⟨⟨id, want, [], false⟩, none, 0, 0⟩ : UE).c)).setCell ⟨g, k * 4 + 3, none⟩ (.bool (⟨⟨id, want, [], false⟩, none, 0, 0⟩ : UE).u.done)) := hbW.grown r2 hbW.size (fun q hq => by injection hq with hq; omega)
      refine ⟨⟨?_, fun e he => ?_, ?_⟩, HB.out.trans (hbF.mono HB.out.size), ?_⟩
      · rw [show (L.take k ++ (⟨⟨id, want, [], false⟩, none, 0, 0⟩ : UE) :: L.drop k).length = n + 1 by simp; omega]
        exact own_low r1 (by omega)
      · have key : e ∈ L → Owns (((((W).setCell ⟨g, k * 4, none⟩ (.string (⟨⟨id, want, [], false⟩, none, 0, 0⟩ : UE).u.id)).setCell ⟨g, k * 4 + 1, none⟩ (.int .i64 (⟨⟨id, want, [], false⟩, none, 0, 0⟩ : UE).u.want)).setCell ⟨g, k * 4 + 2, none⟩ (.slice (⟨⟨id, want, [], false⟩, none, 0, 0⟩ : UE).a (⟨⟨id, want, [], false⟩, none, 0, 0⟩ : UE).n (⟨⟨id, want, [], false⟩, none, 0, 0⟩ : UE).c)).setCell ⟨g, k * 4 + 3, none⟩ (.bool (⟨⟨id, want, [], false⟩, none, 0, 0⟩ : UE).u.done)) w.heap.size e.a e.n e.c e.u.zs := fun h => ((((HE.out e h).below hb).grown r2 (fun q hq hq2 => by injection hq with hq; exact HNe.out e h q hq2 hq.symm))).low (by omega)
        rcases List.mem_append.1 he with h | h
        · exact key (List.mem_of_mem_take h)
        · rcases List.mem_cons.1 h with rfl | h
          · exact ⟨⟨rfl, .inl ⟨rfl, rfl⟩⟩, by simp⟩
          · exact key (List.mem_of_mem_drop h)
      · have hp := HPw.out
        rw [← List.take_append_drop k L, List.pairwise_append] at hp
        rw [List.pairwise_append, List.pairwise_cons]
        refine ⟨hp.1, ⟨fun y _ q hq => (by cases hq), hp.2.1⟩, fun x hx y hy => ?_⟩
        rcases List.mem_cons.1 hy with rfl | hy
        · intro q _ hq2; cases hq2
        · exact hp.2.2 x hx y hy
      · rw [makeU, ← HM.out, List.map_append, List.map_cons, List.map_take, List.map_drop, List.length_map, hL, hik]
    by_cases hk : k = 0
    · subst hk
      have hx0 : (L.take 0 ++ x :: L.drop 0)[0]? = some x := by simp
      obtain ⟨g0, g1, g2, g3, gf⟩ := row_at HO.out hx0
      have hn1 : (0 : Int) < ((n + 1 : Nat) : Int) := by omega
      have HF2 := (show Hid _ from fun W hb => HFin.out W hb (by rw [HI.out]; rfl))
      clear HFin HI
      go_wp2_with fail
      go_quiet (fail)
      have HQ := (show Hid _ from HF2.out (wr.drewN nq) (below_drewN (Below.refl _ _) nq))
      clear HF2
      go_wp2_with fail
      go_ret
      exact ⟨⟨_, _, rfl, HQ.out.1, HQ.out.2.2⟩, HQ.out.2.1⟩
    obtain ⟨j, rfl⟩ : ∃ j, k = j + 1 := ⟨k - 1, by omega⟩
    have hjL : j < L.length := by omega
    have hlj : (L.take (j + 1) ++ x :: L.drop (j + 1))[j]? = some (L[j]) := by
      rw [List.getElem?_append_left (by simp; omega), List.getElem?_take_of_lt (by omega), List.getElem?_eq_getElem hjL]
    have hlx : (L.take (j + 1) ++ x :: L.drop (j + 1))[j + 1]? = some x := by
      rw [List.getElem?_append_right (by rw [List.length_take]; omega), show (L.take (j + 1)).length = j + 1 by simp; omega, Nat.sub_self]
      rfl
    obtain ⟨g0, g1, g2, g3, gf⟩ := row_at HO.out hlj
    obtain ⟨h0, h1, h2, h3, _⟩ := row_at HO.out hlx
    have hkp : (0 : Int) < ((j + 1 : Nat) : Int) := by omega
    have hjw : IntKind.i64.wrap (((j + 1 : Nat) : Int) - 1) = (j : Int) := by rw [IntWalk.i64_in _ (by omega)]; omega
    have hj0 : (0 : Int) ≤ (j : Int) := by omega
    have hjM : (j : Int) < ((n + 1 : Nat) : Int) := by omega
    have hkM : ((j + 1 : Nat) : Int) < ((n + 1 : Nat) : Int) := by omega
    have hmj : (L.map UE.u)[j]? = some (L[j]).u := by rw [List.getElem?_map, List.getElem?_eq_getElem hjL]; rfl
    have HRow : Hid (L.take (j + 1) ++ L[j] :: L.drop (j + 1) = L.take j ++ L[j] :: L.drop j) := by
      show _ = _
      have e1 : L.take (j + 1) = L.take j ++ [L[j]] := by rw [List.take_add_one, List.getElem?_eq_getElem hjL]; rfl
      have e2 : L.drop j = L[j] :: L.drop (j + 1) := List.drop_eq_getElem_cons hjL
      rw [e1, e2, List.append_assoc]
      rfl
    have hgt : (!(Op.bytesLess (L[j]).u.id.toList id.toList || (L[j]).u.id.toList == id.toList)) = gtS (L[j]).u.id id := rfl
    by_cases hlt : gtS (L[j]).u.id id = true
    · rw [hlt] at hgt
      have HI2 : Hid (insK (L.map UE.u) id n = insK (L.map UE.u) id j) := by show _ = _; rw [HI.out, insK_down hmj hlt]
      have HNx : Hid (∀ W, Below wr.heap.size wr W → (((((W).setCell ⟨g, (j + 1) * 4, none⟩ (.string L[j].u.id)).setCell ⟨g, (j + 1) * 4 + 1, none⟩ (.int .i64 L[j].u.want)).setCell ⟨g, (j + 1) * 4 + 2, none⟩ (.slice L[j].a L[j].n L[j].c)).setCell ⟨g, (j + 1) * 4 + 3, none⟩ (.bool L[j].u.done)).ownsRow w0.heap.size 64 4 (.slice (some ⟨g, 0, none⟩) (n + 1) vc) (n + 1) (ueCells (L.take j ++ L[j] :: L.drop j)) ∧ (∀ e ∈ L, Owns (((((W).setCell ⟨g, (j + 1) * 4, none⟩ (.string L[j].u.id)).setCell ⟨g, (j + 1) * 4 + 1, none⟩ (.int .i64 L[j].u.want)).setCell ⟨g, (j + 1) * 4 + 2, none⟩ (.slice L[j].a L[j].n L[j].c)).setCell ⟨g, (j + 1) * 4 + 3, none⟩ (.bool L[j].u.done)) w0.heap.size e.a e.n e.c e.u.zs) ∧ Below w0.heap.size w0 (((((W).setCell ⟨g, (j + 1) * 4, none⟩ (.string L[j].u.id)).setCell ⟨g, (j + 1) * 4 + 1, none⟩ (.int .i64 L[j].u.want)).setCell ⟨g, (j + 1) * 4 + 2, none⟩ (.slice L[j].a L[j].n L[j].c)).setCell ⟨g, (j + 1) * 4 + 3, none⟩ (.bool L[j].u.done))) := fun W hb => by
        have hkl : (L.take (j + 1)).length = j + 1 := by simp; omega
        obtain ⟨r1, r2⟩ := row_put (L[j]) (own_below HO.out hb) hkl
        have hbW : Below w0.heap.size w0 W := HW.out.trans (hb.mono HW.out.size)
        refine ⟨by rw [← HRow.out]; exact r1, fun e he => ((HE.out e he).below hb).grown r2 (fun q hq hq2 => by injection hq with hq; exact HNe.out e he q hq2 hq.symm), hbW.grown r2 hbW.size (fun q hq => by injection hq with hq; omega)⟩
      clear HFin HI hmj hlj hlx HO HE HW hlt
      go_wp2_with fail
      go_quiet (fail)
      have HQ := (show Hid _ from HNx.out (wr.drewN nq) (below_drewN (Below.refl _ _) nq))
      clear HNx HRow
      go_wp2_with fail
      go_roundw
      case rel => exact ⟨j, L[j], by go_num, by omega, HQ.out.1, HI2, HQ.out.2.1, HQ.out.2.2⟩
      case measure => simp [intOf]
    · have hlf : gtS (L[j]).u.id id = false := by simpa using hlt
      rw [hlf] at hgt
      have HF2 := (show Hid _ from fun W hb => HFin.out W hb (by rw [HI.out, insK_stop hmj hlt]))
      clear HFin HI hmj hlj hlx HO HE HW hlt hlf HRow
      go_wp2_with fail
      go_quiet (fail)
      have HQ := (show Hid _ from HF2.out (wr.drewN nq) (below_drewN (Below.refl _ _) nq))
      clear HF2
      go_wp2_with fail
      go_ret
      exact ⟨⟨_, _, rfl, HQ.out.1, HQ.out.2.2⟩, HQ.out.2.1⟩

end Go.Proofs.YtlkgopoicpnacaaGreatDoor

namespace Go.Proofs.YtlkgopoicpnacaaGreatDoor
open Go.RowKit
set_option linter.unusedVariables false

set_option maxRecDepth 10000 in
set_option maxHeartbeats 800000 in
theorem specAtU_any (a : Option Addr) (n c lo : Nat) (id : ByteArray) (l : List UE) (w : World) (h : UpRow w lo (.slice a n c) l) (hn : n = l.length) (hl : n ≤ 1099511627776) :
    Calls Tryz.prog 80 #[.slice a n c, .string id] w fun e w' => e = .returned (.int .i64 (atI (l.map UE.u) id)) ∧ w' = w := by
  have HR : Hid (UpRow w lo (.slice a n c) l) := h
  have HN : Hid (n = l.length) := hn
  clear h hn
  go_enter Tryz.func80, Tryz.ntmps80
  go_wp2_with fail
  go_loop [5] (fun v => ∃ k : Nat, k ≤ n ∧ v = .int .i64 (k : Int) ∧ Hid (∀ j (hj : j < l.length), j < k → (l[j]).u.id ≠ id)) (fun v => n - (intOf v).toNat)
  case atStart => exact ⟨0, Nat.zero_le _, rfl, fun j _ hj => absurd hj (Nat.not_lt_zero _)⟩
  case round =>
    obtain ⟨k, hk, rfl, HJ⟩ := hrel
    by_cases hlt : k < n
    · have hkl : k < l.length := by rw [← HN.out]; exact hlt
      obtain ⟨g, rfl, g0, _⟩ := HR.out.at HN.out hkl
      have hki : (k : Int) < (n : Int) := by omega
      have hk0 : (0 : Int) ≤ (k : Int) := by omega
      have he := ids_eq (l[k]).u.id id
      by_cases hid : (l[k]).u.id = id
      · rw [decide_eq_true hid] at he
        have HF : Hid (atI (l.map UE.u) id = (k : Int)) := by
          show _ = _
          rw [atI, atU_some (k := k) (by simpa using hkl) (by simpa using hid) (fun j hj hjk => by simpa using HJ.out j (by simpa using hj) hjk)]
        clear hid HJ
        generalize (l[k]).u.id = x at *
        go_wp2_with fail
        go_ret
        exact ⟨ret_int HF.out.symm, rfl⟩
      · rw [decide_eq_false hid] at he
        have HJ2 : Hid (∀ j (hj : j < l.length), j < k + 1 → (l[j]).u.id ≠ id) := fun j hj hjk => by
          by_cases e : j = k
          · subst e; exact hid
          · exact HJ.out j hj (by omega)
        clear hid HJ
        generalize (l[k]).u.id = x at *
        go_wp2_with fail
        go_round
        case rel => exact ⟨k + 1, by omega, by go_num, HJ2⟩
        case measure => simp [intOf]; omega
    · have hkl : k = n := by omega
      have HF : Hid (atI (l.map UE.u) id = -1) := by
        show _ = _
        rw [atI, atU_none (fun j hj => by simpa using HJ.out j (by simpa using hj) (by rw [hkl, HN.out]; simpa using hj))]
      clear HJ
      go_wp2_with fail
      go_ret
      exact ⟨ret_int HF.out.symm, rfl⟩

end Go.Proofs.YtlkgopoicpnacaaGreatDoor

namespace Go.Proofs.YtlkgopoicpnacaaGreatDoor
open Go.RowKit
set_option linter.unusedVariables false

theorem ueCells_data (l : List UE) (e : UE) (m : List UE) (A : Option Addr) (N C : Nat) (zs : List Int) :
    (ueCells (l ++ e :: m)).set (l.length * 4 + 2) (.slice A N C) = ueCells (l ++ ⟨{ e.u with zs := zs }, A, N, C⟩ :: m) := by
  have hl := ueCells_len l
  rw [ueCells_append, ueCells_append, ueCells_cons, ueCells_cons]
  rw [List.set_append_right _ _ (by omega), hl, show l.length * 4 + 2 - l.length * 4 = 2 by omega]
  rfl

theorem UpRow.grew {W W' : World} {base g n c : Nat} {M D : List UE} {e : UE} (h : UpRow W base (.slice (some ⟨g, 0, none⟩) n c) (M ++ e :: D)) (hn : (M ++ e :: D).length = n) {A : Option Addr} {N C : Nat} {zs : List Int} (ho : Owns W' base A N C zs) (hg : W.grownBy W' (e.a.map (·.block))) (hw : A.map (·.block) = e.a.map (·.block) ∨ ∀ q, A.map (·.block) = some q → W.heap.size ≤ q) :
    UpRow (W'.setCell ⟨g, M.length * 4 + 2, none⟩ (.slice A N C)) base (.slice (some ⟨g, 0, none⟩) n c) (M ++ ⟨{ e.u with zs := zs }, A, N, C⟩ :: D) := by
  have he := h.2.1 e (List.mem_append_right _ (List.mem_cons_self ..))
  have hrow := h.rowApart he g rfl
  have hgl : g < W.heap.size := (h.lts.1 g rfl).2
  have hp := h.2.2
  rw [List.pairwise_append, List.pairwise_cons] at hp
  have hAg : A.map (·.block) ≠ some g := fun q => by
    rcases hw with hw | hw
    · exact hrow (hw ▸ q)
    · have := hw g q; omega
  have hother : ∀ x ∈ M ++ D, Owns (W'.setCell ⟨g, M.length * 4 + 2, none⟩ (.slice A N C)) base x.a x.n x.c x.u.zs ∧ (∀ q, x.a.map (·.block) = some q → A.map (·.block) ≠ some q) := by
    intro x hx
    have hx' : x ∈ M ++ e :: D := by
      rcases List.mem_append.1 hx with hx | hx
      · exact List.mem_append_left _ hx
      · exact List.mem_append_right _ (List.mem_cons_of_mem _ hx)
    have hap : ∀ q, x.a.map (·.block) = some q → e.a.map (·.block) ≠ some q := by
      rcases List.mem_append.1 hx with hx | hx
      · exact hp.2.2 x hx e (List.mem_cons_self ..)
      · intro q hq hq2
        exact hp.2.1.1 x hx q hq2 hq
    have hxo := h.2.1 x hx'
    refine ⟨owns_set (hxo.grown hg (fun q hq hq2 => hap q hq2 hq)) (fun q => h.rowApart hxo g rfl q), fun q hq hq2 => ?_⟩
    rcases hw with hw | hw
    · exact hap q hq (by rw [← hw]; exact hq2)
    · have h1 := hw q hq2
      have h2 := (hxo.lt q hq).2
      omega
  refine ⟨?_, ?_, ?_⟩
  · have h1 : W'.ownsRow base 64 4 (.slice (some ⟨g, 0, none⟩) n c) n (ueCells (M ++ e :: D)) := by
      have h0 := h.1
      rw [hn] at h0
      exact h0.kept hg (.inr (fun q => hrow q.symm))
    have h2 := (h1.stored (M.length * 4 + 2) (.slice A N C)).1
    rw [ueCells_data M e D A N C zs] at h2
    rw [show (M ++ (⟨{ e.u with zs := zs }, A, N, C⟩ : UE) :: D).length = n by rw [← hn]; simp]
    exact h2
  · intro x hx
    rcases List.mem_append.1 hx with hx | hx
    · exact (hother x (List.mem_append_left _ hx)).1
    · rcases List.mem_cons.1 hx with rfl | hx
      · exact owns_set ho hAg
      · exact (hother x (List.mem_append_right _ hx)).1
  · rw [List.pairwise_append, List.pairwise_cons]
    refine ⟨hp.1, ⟨fun y hy q hq hq2 => (hother y (List.mem_append_right _ hy)).2 q hq2 hq, hp.2.1.2⟩, fun x hx y hy => ?_⟩
    rcases List.mem_cons.1 hy with rfl | hy
    · exact (hother x (List.mem_append_left _ hx)).2
    · exact hp.2.2 x hx y (List.mem_cons_of_mem _ hy)

end Go.Proofs.YtlkgopoicpnacaaGreatDoor

namespace Go.Proofs.YtlkgopoicpnacaaGreatDoor
open Go.RowKit
set_option linter.unusedVariables false

def setAll (xs : List Value) (o : Nat) : List Value → List Value
  | [] => xs
  | v :: r => setAll (xs.set o v) (o + 1) r

theorem setAll_eq (vs : List Value) : ∀ (xs : List Value) (o : Nat), o + vs.length ≤ xs.length → setAll xs o vs = xs.take o ++ vs ++ xs.drop (o + vs.length) := by
  induction vs with
  | nil => intro xs o _; simp [setAll]
  | cons v r ih =>
    intro xs o h
    simp only [List.length_cons] at h
    rw [setAll, ih _ _ (by simp; omega)]
    have ho : o < xs.length := by omega
    have e1 : (xs.set o v).take (o + 1) = xs.take o ++ [v] := by
      rw [List.take_add_one, List.getElem?_set_self (by omega), List.take_set_of_le (Nat.le_refl _)]
      rfl
    have e2 : (xs.set o v).drop (o + 1 + r.length) = xs.drop (o + 1 + r.length) := List.drop_set_of_lt (by omega)
    rw [e1, e2, List.length_cons, show o + 1 + r.length = o + (r.length + 1) by omega]
    simp

theorem row_setCells {base g n c : Nat} {e : TypeId} {size : Nat} (vs : List Value) : ∀ (W : World) (xs : List Value) (o : Nat), W.ownsRow base e size (.slice (some ⟨g, 0, none⟩) n c) n xs → (W.setCells g o vs).ownsRow base e size (.slice (some ⟨g, 0, none⟩) n c) n (setAll xs o vs) ∧ W.grownBy (W.setCells g o vs) (some g) := by
  induction vs with
  | nil => intro W xs o h; exact ⟨h, ⟨rfl, rfl, rfl, Nat.le_refl _, fun _ _ _ => rfl⟩⟩
  | cons v r ih =>
    intro W xs o h
    have h1 := h.stored o v
    have a1 : World.grownBy _ _ (some g) := h1.2
    obtain ⟨h2, h3⟩ := ih _ _ (o + 1) h1.1
    exact ⟨h2, grow_transU a1 h3⟩

theorem row_short {W : World} {base g n m c : Nat} {e : TypeId} {size : Nat} {xs : List Value} (h : W.ownsRow base e size (.slice (some ⟨g, 0, none⟩) n c) n xs) (hm : m ≤ n) : W.ownsRow base e size (.slice (some ⟨g, 0, none⟩) m c) m (xs.take (m * size)) := by
  have hmn : m * size ≤ n * size := Nat.mul_le_mul_right _ hm
  rcases h.2 with ⟨h0, _⟩ | ⟨g', cap', cur, he, hb, hg, hnc, hcm, hcs, htk⟩
  · cases h0
  · injection he with e1 e2 e3
    injection e1 with e1
    injection e1 with e1
    subst e1 e3
    refine ⟨by rw [List.length_take, h.1]; omega, .inr ⟨g, c, cur, rfl, hb, hg, by omega, hcm, hcs, ?_⟩⟩
    rw [← htk, List.take_take, Nat.min_eq_left hmn]

end Go.Proofs.YtlkgopoicpnacaaGreatDoor
