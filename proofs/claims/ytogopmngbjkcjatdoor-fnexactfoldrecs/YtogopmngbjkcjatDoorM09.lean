/- A cell that is written; no program in it. A row of uploads that another row comes of: some of its uploads, and ones without bytes. No statement of the program but its table of types. The copy of a list of records. -/
import Derived.Test.YtogopmngbjkcjatDoorM08
import Derived.Test.YtogopmngbjkcjatDoorM05
import Derived.Test.YtogopmngbjkcjatDoorM04
import Derived.Test.YtogopmngbjkcjatDoorM06
import Derived.Test.YtogopmngbjkcjatDoorM07
import Derived.Test.YtogopmngbjkcjatDoorM07
namespace Go.Proofs.YtogopmngbjkcjatDoor
open Go.RowKit
set_option linter.unusedVariables false

theorem grownBy_setU (w : World) (b i : Nat) (v : Value) : w.grownBy (w.setCell ⟨b, i, none⟩ v) (some b) := ⟨rfl, rfl, rfl, by simp, fun k _ hk => set_block_ne w k b i v (fun e => hk (by rw [e]))⟩

theorem grown_cell {W W' : World} {q : Option Nat} {g i : Nat} (h : W.grownBy W' q) (hg : g < W.heap.size) (hn : some g ≠ q) : W'.cell? ⟨g, i, none⟩ = W.cell? ⟨g, i, none⟩ := by simp only [World.cell?]; rw [h.block g hg hn]
theorem grown_frozen {W W' : World} {q : Option Nat} {g i : Nat} (h : W.grownBy W' q) (hg : g < W.heap.size) (hn : some g ≠ q) : W'.frozen? ⟨g, i, none⟩ = W.frozen? ⟨g, i, none⟩ := by simp only [World.frozen?]; rw [h.block g hg hn]

end Go.Proofs.YtogopmngbjkcjatDoor

namespace Go.Proofs.YtogopmngbjkcjatDoor
open Go.RowKit
set_option linter.unusedVariables false

theorem owns_nil (W : World) (base : Nat) : Owns W base none 0 0 [] := ⟨⟨rfl, .inl ⟨rfl, rfl⟩⟩, by simp⟩

/-- Another row of the same uploads, and of ones without bytes. -/
theorem UpRow.remade {W W' : World} {base : Nat} {v v' : Value} {l l' : List UE} (h : UpRow W base v l) (ho : W'.ownsRow base 71 4 v' l'.length (ueCells l')) (hg : W.grownBy W' v.ownBlock) (hin : ∀ e ∈ l', e ∈ l ∨ (e.a = none ∧ e.n = 0 ∧ e.c = 0 ∧ e.u.zs = [])) (hp : l'.Pairwise uapart) : UpRow W' base v' l' := by
  refine ⟨ho, fun e he => ?_, hp⟩
  rcases hin e he with h1 | ⟨h1, h2, h3, h4⟩
  · exact (h.2.1 e h1).grown hg (fun q hq => h.rowApart (h.2.1 e h1) q hq)
  · rw [h1, h2, h3, h4]
    exact owns_nil _ _

theorem uapart_none {e x : UE} (h : x.a = none) : uapart e x ∧ uapart x e := ⟨fun q _ => by rw [h]; simp, fun q hq => by rw [h] at hq; simp at hq⟩

theorem upair_ins {l : List UE} {x : UE} (k : Nat) (h : l.Pairwise uapart) (hx : x.a = none) : (l.take k ++ [x] ++ l.drop k).Pairwise uapart := by
  have h2 := h
  rw [← List.take_append_drop k l, List.pairwise_append] at h2
  rw [List.append_assoc, List.pairwise_append]
  refine ⟨h2.1, ?_, fun y hy z hz => ?_⟩
  · rw [List.singleton_append, List.pairwise_cons]
    exact ⟨fun z _ => (uapart_none hx).2, h2.2.1⟩
  · rw [List.singleton_append] at hz
    rcases List.mem_cons.1 hz with rfl | hz
    · exact (uapart_none hx).1
    · exact h2.2.2 y hy z hz

/-- A row of uploads is no variable of another type. -/
theorem BoxN.noRow {W : World} {b base n size : Nat} {t e : TypeId} {vs xs : List Value} {v : Value} (h : BoxN W b t vs) (ho : W.ownsRow base e size v n xs) (hne : t ≠ e) : v.ownBlock ≠ some b := by
  intro hq
  rcases ho.2 with ⟨rfl, _⟩ | ⟨g, cap, cur, rfl, _, hg, _⟩
  · cases hq
  · obtain rfl : g = b := by simpa [Value.ownBlock] using hq
    have h' : W.heap[g]? = some (.cells vs.toArray t (0, 0)) := h
    rw [h'] at hg
    injection hg with hg
    injection hg with _ h2 _
    exact hne h2

/-- Uploads are as they were where a variable of another type is written. -/
theorem UpRow.setBox {W : World} {base b i : Nat} {t : TypeId} {vs : List Value} {v u : Value} {l : List UE} (h : UpRow W base v l) (hb : BoxN W b t vs) (h1 : t ≠ 71) (h2 : t ≠ 5) : UpRow (W.setCell ⟨b, i, none⟩ u) base v l := by
  refine h.grown (grownBy_setU W b i u) (fun q hq => ?_) (fun e he q hq => ?_)
  · injection hq with hq
    subst hq
    exact hb.noRow h.1 h1
  · injection hq with hq
    subst hq
    have := hb.noRow (h.2.1 e he).1 h2
    rwa [ownBlock_sU] at this

end Go.Proofs.YtogopmngbjkcjatDoor

namespace Go.Proofs.YtogopmngbjkcjatDoor
open Go.RowKit
set_option linter.unusedVariables false

/-- A record of noughts. -/
abbrev rnil : RE := ⟨⟨0, 0, 0, ⟨#[]⟩, 0, []⟩, none, 0, 0⟩

theorem made_rec (n : Nat) : (madeCells #[.int .i64 0, .int .i64 0, .int .i64 0, .string ⟨#[]⟩, .int .i64 0, .slice none 0 0] (n * 6)).toList = reCells (List.replicate n rnil) := by
  have hl : (reCells (List.replicate n rnil)).length = n * 6 := by rw [reCells_len, List.length_replicate]
  apply List.ext_getElem?
  intro j
  by_cases hj : j < n * 6
  · have hq : j / 6 < (List.replicate n rnil).length := by rw [List.length_replicate]; omega
    obtain ⟨h0, h1, h2, h3, h4, h5⟩ := reCells_at (List.replicate n rnil) (j / 6) hq
    rw [List.getElem_replicate] at h0 h1 h2 h3 h4 h5
    have : j % 6 = 0 ∨ j % 6 = 1 ∨ j % 6 = 2 ∨ j % 6 = 3 ∨ j % 6 = 4 ∨ j % 6 = 5 := by omega
    rcases this with h | h | h | h | h | h
    · rw [show j / 6 * 6 = j by omega] at h0; rw [h0]; simp [madeCells, hj, h]
    · rw [show j / 6 * 6 + 1 = j by omega] at h1; rw [h1]; simp [madeCells, hj, h]
    · rw [show j / 6 * 6 + 2 = j by omega] at h2; rw [h2]; simp [madeCells, hj, h]
    · rw [show j / 6 * 6 + 3 = j by omega] at h3; rw [h3]; simp [madeCells, hj, h]
    · rw [show j / 6 * 6 + 4 = j by omega] at h4; rw [h4]; simp [madeCells, hj, h]
    · rw [show j / 6 * 6 + 5 = j by omega] at h5; rw [h5]; simp [madeCells, hj, h]
  · have h2 : (reCells (List.replicate n rnil))[j]? = none := List.getElem?_eq_none (by omega)
    rw [h2]
    simp [madeCells, hj]

theorem reCells_put6 (M D : List RE) (e x : RE) : ((((((((((((reCells (M ++ e :: D)).set (M.length * 6) (.int .i64 x.r.e))).set (M.length * 6 + 1) (.int .i64 x.r.q))).set (M.length * 6 + 2) (.int .i64 x.r.k))).set (M.length * 6 + 3) (.string x.r.id))).set (M.length * 6 + 4) (.int .i64 x.r.n))).set (M.length * 6 + 5) (.slice x.a x.n x.c)) = reCells (M ++ x :: D) := by
  have h0 := reCells_put M e (⟨⟨x.r.e, e.r.q, e.r.k, e.r.id, e.r.n, e.r.zs⟩, e.a, e.n, e.c⟩ : RE) D 0 (by decide) (.int .i64 x.r.e) rfl
  have h1 := reCells_put M (⟨⟨x.r.e, e.r.q, e.r.k, e.r.id, e.r.n, e.r.zs⟩, e.a, e.n, e.c⟩ : RE) (⟨⟨x.r.e, x.r.q, e.r.k, e.r.id, e.r.n, e.r.zs⟩, e.a, e.n, e.c⟩ : RE) D 1 (by decide) (.int .i64 x.r.q) rfl
  have h2 := reCells_put M (⟨⟨x.r.e, x.r.q, e.r.k, e.r.id, e.r.n, e.r.zs⟩, e.a, e.n, e.c⟩ : RE) (⟨⟨x.r.e, x.r.q, x.r.k, e.r.id, e.r.n, e.r.zs⟩, e.a, e.n, e.c⟩ : RE) D 2 (by decide) (.int .i64 x.r.k) rfl
  have h3 := reCells_put M (⟨⟨x.r.e, x.r.q, x.r.k, e.r.id, e.r.n, e.r.zs⟩, e.a, e.n, e.c⟩ : RE) (⟨⟨x.r.e, x.r.q, x.r.k, x.r.id, e.r.n, e.r.zs⟩, e.a, e.n, e.c⟩ : RE) D 3 (by decide) (.string x.r.id) rfl
  have h4 := reCells_put M (⟨⟨x.r.e, x.r.q, x.r.k, x.r.id, e.r.n, e.r.zs⟩, e.a, e.n, e.c⟩ : RE) (⟨⟨x.r.e, x.r.q, x.r.k, x.r.id, x.r.n, e.r.zs⟩, e.a, e.n, e.c⟩ : RE) D 4 (by decide) (.int .i64 x.r.n) rfl
  have h5 := reCells_put M (⟨⟨x.r.e, x.r.q, x.r.k, x.r.id, x.r.n, e.r.zs⟩, e.a, e.n, e.c⟩ : RE) x D 5 (by decide) (.slice x.a x.n x.c) rfl
  rw [Nat.add_zero] at h0
  rw [h0, h1, h2, h3, h4, h5]

/-- A record comes into a row, with bytes of its own. -/
theorem RcRow.laid {W W' : World} {base g n c B : Nat} {M D : List RE} {e x : RE} (h : RcRow W base (.slice (some ⟨g, 0, none⟩) n c) (M ++ e :: D)) (hn : (M ++ e :: D).length = n) (hb : Below W.heap.size W W') (hx : Owns W' B x.a x.n x.c x.r.zs) (hB : W.heap.size ≤ B) :
    RcRow ((((((W'.setCell ⟨g, M.length * 6, none⟩ (.int .i64 x.r.e)).setCell ⟨g, M.length * 6 + 1, none⟩ (.int .i64 x.r.q)).setCell ⟨g, M.length * 6 + 2, none⟩ (.int .i64 x.r.k)).setCell ⟨g, M.length * 6 + 3, none⟩ (.string x.r.id)).setCell ⟨g, M.length * 6 + 4, none⟩ (.int .i64 x.r.n)).setCell ⟨g, M.length * 6 + 5, none⟩ (.slice x.a x.n x.c)) base (.slice (some ⟨g, 0, none⟩) n c) (M ++ x :: D) ∧ W'.grownBy ((((((W'.setCell ⟨g, M.length * 6, none⟩ (.int .i64 x.r.e)).setCell ⟨g, M.length * 6 + 1, none⟩ (.int .i64 x.r.q)).setCell ⟨g, M.length * 6 + 2, none⟩ (.int .i64 x.r.k)).setCell ⟨g, M.length * 6 + 3, none⟩ (.string x.r.id)).setCell ⟨g, M.length * 6 + 4, none⟩ (.int .i64 x.r.n)).setCell ⟨g, M.length * 6 + 5, none⟩ (.slice x.a x.n x.c)) (some g) := by
  have h' := h.stays hb
  have h0 := h'.1
  rw [hn] at h0
  have k0 := h0.stored (M.length * 6) (.int .i64 x.r.e)
  have k1 := k0.1.stored (M.length * 6 + 1) (.int .i64 x.r.q)
  have k2 := k1.1.stored (M.length * 6 + 2) (.int .i64 x.r.k)
  have k3 := k2.1.stored (M.length * 6 + 3) (.string x.r.id)
  have k4 := k3.1.stored (M.length * 6 + 4) (.int .i64 x.r.n)
  have k5 := k4.1.stored (M.length * 6 + 5) (.slice x.a x.n x.c)
  have k6 := k5.1
  rw [reCells_put6] at k6
  have hg : W'.grownBy ((((((W'.setCell ⟨g, M.length * 6, none⟩ (.int .i64 x.r.e)).setCell ⟨g, M.length * 6 + 1, none⟩ (.int .i64 x.r.q)).setCell ⟨g, M.length * 6 + 2, none⟩ (.int .i64 x.r.k)).setCell ⟨g, M.length * 6 + 3, none⟩ (.string x.r.id)).setCell ⟨g, M.length * 6 + 4, none⟩ (.int .i64 x.r.n)).setCell ⟨g, M.length * 6 + 5, none⟩ (.slice x.a x.n x.c)) (some g) := World.grownBy.trans (World.grownBy.trans (World.grownBy.trans (World.grownBy.trans (World.grownBy.trans k0.2 k1.2) k2.2) k3.2) k4.2) k5.2
  clear k0 k1 k2 k3 k4 k5
  have hgl : g < W.heap.size := (h.lts.1 g rfl).2
  have hbg : base ≤ W.heap.size := by have := (h.lts.1 g rfl).1; omega
  have hxg : ∀ q, x.a.map (·.block) = some q → W.heap.size ≤ q := fun q hq => Nat.le_trans hB (hx.lt q hq).1
  refine ⟨⟨?_, ?_, ?_⟩, hg⟩
  · rw [show (M ++ x :: D).length = n by rw [← hn]; simp]
    exact k6
  · intro y hy
    have key : ∀ v ∈ M ++ e :: D, Owns _ base v.a v.n v.c v.r.zs := fun v hv => (h'.2.1 v hv).grown hg (fun q hq => h'.rowApart (h'.2.1 v hv) q (by injection hq with hq; subst hq; rfl))
    rcases List.mem_append.1 hy with hy | hy
    · exact key y (List.mem_append_left _ hy)
    · rcases List.mem_cons.1 hy with rfl | hy
      · exact owns_lowR (hx.grown hg (fun q hq hq2 => by injection hq with hq; have := hxg q hq2; omega)) (by omega)
      · exact key y (List.mem_append_right _ (List.mem_cons_of_mem _ hy))
  · have h2 := h.2.2
    rw [List.pairwise_append, List.pairwise_cons] at h2 ⊢
    have hold : ∀ v ∈ M ++ e :: D, ∀ q, v.a.map (·.block) = some q → q < W.heap.size := fun v hv q hq => (h.lts.2 v hv q hq).2
    refine ⟨h2.1, ⟨fun y hy q hq hq2 => ?_, h2.2.1.2⟩, fun y hy z hz => ?_⟩
    · have h3 := hxg q hq
      have h4 := hold y (List.mem_append_right _ (List.mem_cons_of_mem _ hy)) q hq2
      omega
    · rcases List.mem_cons.1 hz with rfl | hz
      · intro q hq hq2
        have h3 := hxg q hq2
        have h4 := hold y (List.mem_append_left _ hy) q hq
        omega
      · exact h2.2.2 y hy z (List.mem_cons_of_mem _ hz)

set_option maxRecDepth 10000 in
set_option maxHeartbeats 1600000 in
theorem toRecS_any (a : Option Addr) (n c : Nat) (l : List RE) (w : World) (hx : RcsI w a n l) (hs : SzR n l) :
    Calls Tryd.prog 13 #[.slice a n c] w fun e w' => (∃ g l', e = .returned (.slice (some ⟨g, 0, none⟩) n n) ∧ RcRow w' w.heap.size (.slice (some ⟨g, 0, none⟩) n n) l' ∧ l'.map RE.r = l.map RE.r ∧ ∀ e ∈ l', e.n ≤ 1048576) ∧ Below w.heap.size w w' := by
  obtain ⟨i0, hi, hz0, hz1, hz2⟩ := info_parts info_rec
  have HX : Hid (∀ W, Below w.heap.size w W → RcsI W a n l) := fun W hb => hx.below hb
  have HS : Hid (SzR n l) := hs
  have HL : Hid (l.length = n) := hx.1
  have hn : n ≤ 1048576 := hs.1
  clear hx hs
  go_enter Tryd.func13, Tryd.ntmps13
  go_wp2_with (at_make; refine wpList_make_full _ rfl _ _ 36 rfl w.heap.size 56 i0 (.agg #[.int .i64 0, .int .i64 0, .int .i64 0, .string ⟨#[]⟩, .int .i64 0, .slice none 0 0]) 6 Tryd.underlying36 hi hz0 hz1 _ _ _ _ n rfl rfl rfl rfl (by rw [hz2]; omega) (by unfold maxLen; omega) (Nat.le_refl _) ?_; intro w1 hown hgrow)
  have hrow : RcRow w1 w.heap.size (.slice (some ⟨w.heap.size, 0, none⟩) n n) (List.replicate n rnil) := by
    refine ⟨?_, fun e he => ?_, ?_⟩
    · rw [List.length_replicate, ← made_rec]
      exact hown
    · obtain rfl : e = rnil := List.eq_of_mem_replicate he
      exact owns_nil _ _
    · rw [List.pairwise_replicate]
      right
      intro q hq
      simp at hq
  have HR : Hid (RcRow w1 w.heap.size (.slice (some ⟨w.heap.size, 0, none⟩) n n) (List.replicate n rnil)) := hrow
  have HB : Hid (Below w.heap.size w w1) := (Below.refl _ _).grown hgrow (Nat.le_refl _) (by simp)
  clear hown hgrow hrow
  go_loopw [4] (fun i wr => ∃ (k : Nat) (M : List RE), k ≤ n ∧ i = .int .i64 k ∧ M.length = k ∧ Hid (RcRow wr w.heap.size (.slice (some ⟨w.heap.size, 0, none⟩) n n) (M ++ List.replicate (n - k) rnil)) ∧ Hid (M.map RE.r = (l.map RE.r).take k) ∧ Hid (∀ e ∈ M, e.n ≤ 1048576) ∧ Hid (Below w.heap.size w wr)) (fun i _ => n - (intOf i).toNat)
  case atStart => exact ⟨0, [], Nat.zero_le _, rfl, rfl, HR, rfl, (fun e he => absurd he (List.not_mem_nil)), HB⟩
  case round =>
    clear HR HB
    obtain ⟨k, M, hk, rfl, hM, HO, HM, HZ, HB⟩ := hrel
    by_cases hlt : k < n
    · have hkl : k < l.length := by rw [HL.out]; exact hlt
      obtain ⟨b, off, rfl, g0, g1, g2, g3, g4, g5⟩ := (HX.out _ HB.out).at hkl
      have hsg := (HX.out _ HB.out).2.1 (l[k]) (List.getElem_mem hkl)
      have HSg : Hid (Seg wr (l[k]).a (l[k]).n (l[k]).r.zs) := hsg
      have hen : (l[k]).n ≤ 1048576 := (HS.out.2 _ (List.getElem_mem hkl)).2
      have HM2 : Hid (M.map RE.r ++ [(l[k]).r] = (l.map RE.r).take (k + 1)) := by show _ = _; rw [List.take_add_one, List.getElem?_map, List.getElem?_eq_getElem hkl, HM.out]; rfl
      clear HM hsg
      have hki : (k : Int) < (n : Int) := by omega
      have hk0 : (0 : Int) ≤ (k : Int) := by omega
      generalize l[k] = x at *
      go_wp2_with fail
      refine (toRec_any x.r.e x.r.q x.r.k x.r.id x.r.n x.a x.n x.c x.r.zs _ HSg.out hen).mono ?_
      rintro e x3 ⟨⟨gA, rfl, ho3⟩, hb3⟩
      have hrep : List.replicate (n - k) rnil = rnil :: List.replicate (n - (k + 1)) rnil := by rw [← List.replicate_succ]; congr 1; omega
      have hO := HO.out
      rw [hrep] at hO
      have hOlen : (M ++ rnil :: List.replicate (n - (k + 1)) rnil).length = n := by simp; omega
      have hgs : w.heap.size < wr.heap.size := (hO.lts.1 _ rfl).2
      have hl3 := hO.laid (x := ⟨x.r, some ⟨gA, 0, none⟩, x.n, x.n⟩) hOlen hb3 ho3 (Nat.le_refl _)
      rw [hM] at hl3
      have hst := (hO.stays hb3).1
      rw [hOlen] at hst
      have hcl : (reCells (M ++ rnil :: List.replicate (n - (k + 1)) rnil)).length = n * 6 := by rw [reCells_len, hOlen]
      have f0 : x3.frozen? ⟨w.heap.size, k * 6, none⟩ = false := hst.frozenAt _
      have f1 : x3.frozen? ⟨w.heap.size, k * 6 + 1, none⟩ = false := hst.frozenAt _
      have f2 : x3.frozen? ⟨w.heap.size, k * 6 + 2, none⟩ = false := hst.frozenAt _
      have f3 : x3.frozen? ⟨w.heap.size, k * 6 + 3, none⟩ = false := hst.frozenAt _
      have f4 : x3.frozen? ⟨w.heap.size, k * 6 + 4, none⟩ = false := hst.frozenAt _
      have f5 : x3.frozen? ⟨w.heap.size, k * 6 + 5, none⟩ = false := hst.frozenAt _
      obtain ⟨u0, hu0⟩ : ∃ u, x3.cell? ⟨w.heap.size, k * 6, none⟩ = some u := by rw [hst.cellAt _ (by omega)]; exact ⟨_, List.getElem?_eq_getElem (by omega)⟩
      obtain ⟨u1, hu1⟩ : ∃ u, x3.cell? ⟨w.heap.size, k * 6 + 1, none⟩ = some u := by rw [hst.cellAt _ (by omega)]; exact ⟨_, List.getElem?_eq_getElem (by omega)⟩
      obtain ⟨u2, hu2⟩ : ∃ u, x3.cell? ⟨w.heap.size, k * 6 + 2, none⟩ = some u := by rw [hst.cellAt _ (by omega)]; exact ⟨_, List.getElem?_eq_getElem (by omega)⟩
      obtain ⟨u3, hu3⟩ : ∃ u, x3.cell? ⟨w.heap.size, k * 6 + 3, none⟩ = some u := by rw [hst.cellAt _ (by omega)]; exact ⟨_, List.getElem?_eq_getElem (by omega)⟩
      obtain ⟨u4, hu4⟩ : ∃ u, x3.cell? ⟨w.heap.size, k * 6 + 4, none⟩ = some u := by rw [hst.cellAt _ (by omega)]; exact ⟨_, List.getElem?_eq_getElem (by omega)⟩
      obtain ⟨u5, hu5⟩ : ∃ u, x3.cell? ⟨w.heap.size, k * 6 + 5, none⟩ = some u := by rw [hst.cellAt _ (by omega)]; exact ⟨_, List.getElem?_eq_getElem (by omega)⟩
      have HO3 : Hid (RcRow ((((((x3.setCell ⟨w.heap.size, k * 6, none⟩ (.int .i64 x.r.e)).setCell ⟨w.heap.size, k * 6 + 1, none⟩ (.int .i64 x.r.q)).setCell ⟨w.heap.size, k * 6 + 2, none⟩ (.int .i64 x.r.k)).setCell ⟨w.heap.size, k * 6 + 3, none⟩ (.string x.r.id)).setCell ⟨w.heap.size, k * 6 + 4, none⟩ (.int .i64 x.r.n)).setCell ⟨w.heap.size, k * 6 + 5, none⟩ (.slice (some ⟨gA, 0, none⟩) x.n x.n)) w.heap.size (.slice (some ⟨w.heap.size, 0, none⟩) n n) (M ++ [⟨x.r, some ⟨gA, 0, none⟩, x.n, x.n⟩] ++ List.replicate (n - (k + 1)) rnil)) := by rw [List.append_assoc]; exact hl3.1
      have HB3 : Hid (Below w.heap.size w ((((((x3.setCell ⟨w.heap.size, k * 6, none⟩ (.int .i64 x.r.e)).setCell ⟨w.heap.size, k * 6 + 1, none⟩ (.int .i64 x.r.q)).setCell ⟨w.heap.size, k * 6 + 2, none⟩ (.int .i64 x.r.k)).setCell ⟨w.heap.size, k * 6 + 3, none⟩ (.string x.r.id)).setCell ⟨w.heap.size, k * 6 + 4, none⟩ (.int .i64 x.r.n)).setCell ⟨w.heap.size, k * 6 + 5, none⟩ (.slice (some ⟨gA, 0, none⟩) x.n x.n))) := ((((((HB.out.trans (hb3.mono HB.out.size)).setCell (Nat.le_refl _) _).setCell (Nat.le_refl _) _).setCell (Nat.le_refl _) _).setCell (Nat.le_refl _) _).setCell (Nat.le_refl _) _).setCell (Nat.le_refl _) _
      have HM3 : Hid ((M ++ [(⟨x.r, some ⟨gA, 0, none⟩, x.n, x.n⟩ : RE)]).map RE.r = (l.map RE.r).take (k + 1)) := by show _ = _; rw [List.map_append]; exact HM2.out
      have HZ3 : Hid (∀ e ∈ M ++ [(⟨x.r, some ⟨gA, 0, none⟩, x.n, x.n⟩ : RE)], e.n ≤ 1048576) := fun e he => by
        rcases List.mem_append.1 he with he | he
        · exact HZ.out e he
        · obtain rfl : e = ⟨x.r, some ⟨gA, 0, none⟩, x.n, x.n⟩ := by simpa using he
          exact hen
      clear hl3 hst hcl hO hrep hOlen ho3 hb3 HM2 g0 g1 g2 g3 g4 g5 HO HB
      go_wp2
      go_roundw
      case rel => exact ⟨k + 1, M ++ [⟨x.r, some ⟨gA, 0, none⟩, x.n, x.n⟩], by omega, by go_num, by simp [hM], HO3, HM3, HZ3, HB3⟩
      case measure => simp [intOf]; omega
    · obtain rfl : k = n := by omega
      have HO2 : Hid (RcRow wr w.heap.size (.slice (some ⟨w.heap.size, 0, none⟩) k k) M) := by
        have h := HO.out
        rw [Nat.sub_self, List.replicate_zero, List.append_nil] at h
        exact h
      have HE : Hid (M.map RE.r = l.map RE.r) := by show _ = _; rw [HM.out, List.take_of_length_le (by rw [List.length_map, HL.out]; exact Nat.le_refl _)]
      clear HO HM
      go_wp2
      go_ret
      exact ⟨⟨w.heap.size, M, rfl, HO2.out, HE.out, HZ.out⟩, HB.out⟩

end Go.Proofs.YtogopmngbjkcjatDoor
