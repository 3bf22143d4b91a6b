/- What the laws' own functions do with rows of clients: the size. The copy of clients. The walk of the law FnExactWorldNew. From what the row lists of the program's table of kinds to its cells: no statement of the program but its table of types. -/
import Derived.Test.YtemcjenpgdieoaaGreatDoorM45
import Derived.Test.YtemcjenpgdieoaaGreatDoorM37
import Derived.Test.YtemcjenpgdieoaaGreatDoorM07
import Derived.Test.YtemcjenpgdieoaaGreatDoorM04
import Derived.Test.YtemcjenpgdieoaaGreatDoorM38
import Derived.Deep.CutBlock
import Derived.Test.YtemcjenpgdieoaaGreatDoorM31
import Derived.LaidLaws
import Derived.LaidHandle
import Derived.Lib.LaidTab
import Derived.Lib.SmallJoins
import Derived.OpenShut
import Derived.ChangeOld
namespace Go.Proofs.YtemcjenpgdieoaaGreatDoor
open Go.RowKit
set_option linter.unusedVariables false

set_option maxRecDepth 10000 in
set_option maxHeartbeats 800000 in
theorem szClientX_any (x : CE) (m : Int) (w : World) (hn : 0 ≤ m) (hn2 : m ≤ 1048576) (hi : x.u.id.size ≤ maxLen) (hl : x.n ≤ maxLen) :
    Calls Tryz.prog 13 #[.agg #[.string x.u.id, .slice x.a x.n x.c, .int .i64 x.u.st, .int .i64 x.u.off], .int .i64 m] w fun r w' => (∃ L : Int, r = .returned (.int .i64 L) ∧ (L < 0 ∨ (x.u.id.size ≤ 1048576 ∧ x.n ≤ 1048576 ∧ 0 ≤ L ∧ L ≤ m))) ∧ Below w.heap.size w w' := by
  have hm : maxLen < 9223372036854775808 := by decide
  have HB : Hid (Below w.heap.size w (w.alloc (.cells #[.string x.u.id, .slice x.a x.n x.c, .int .i64 x.u.st, .int .i64 x.u.off] 49))) := (Below.refl _ _).alloc (Nat.le_refl _) _
  by_cases h1 : m - (x.u.id.size : Int) < 0
  · go_enter Tryz.func13, Tryz.ntmps13
    go_wp2_with fail
    go_ret
    exact ⟨⟨-1, rfl, .inl (by omega)⟩, HB.out⟩
  by_cases h2 : m - (x.u.id.size : Int) - (x.n : Int) < 0
  · go_enter Tryz.func13, Tryz.ntmps13
    go_wp2
    go_ret
    exact ⟨⟨-1, rfl, .inl (by omega)⟩, HB.out⟩
  · go_enter Tryz.func13, Tryz.ntmps13
    go_wp2
    go_ret
    exact ⟨⟨m - (x.u.id.size : Int) - (x.n : Int), rfl, .inr ⟨by omega, by omega, by omega, by omega⟩⟩, HB.out⟩

/-- How great clients may be. -/
def SzC (n : Nat) (l : List CE) : Prop := n ≤ 1048576 ∧ ∀ e ∈ l, e.u.id.size ≤ 1048576 ∧ e.n ≤ 1048576

set_option maxRecDepth 10000 in
set_option maxHeartbeats 800000 in
theorem szClientS_any (a : Option Addr) (n c : Nat) (l : List CE) (m : Int) (w : World) (hx : ClsI w a n l) (hn : 0 ≤ m) (hn2 : m ≤ 1048576) (hl : n ≤ maxLen) :
    Calls Tryz.prog 4 #[.slice a n c, .int .i64 m] w fun e w' => (∃ L : Int, e = .returned (.int .i64 L) ∧ (L < 0 ∨ (SzC n l ∧ 0 ≤ L ∧ L ≤ m))) ∧ Below w.heap.size w w' := by
  have HX : Hid (ClsI w a n l) := hx
  clear hx
  have hm : maxLen < 9223372036854775808 := by decide
  by_cases h0 : m - n < 0
  · go_enter Tryz.func4, Tryz.ntmps4
    go_wp2
    go_ret
    exact ⟨⟨-1, rfl, .inl (by omega)⟩, Below.refl _ _⟩
  · go_enter Tryz.func4, Tryz.ntmps4
    go_wp2
    go_loopw [1, 5] (fun v i wr => ∃ (k : Nat) (u : Int), k ≤ n ∧ i = .int .i64 k ∧ v = .int .i64 u ∧ 0 ≤ u ∧ u ≤ m ∧ Hid (∀ j (hj : j < l.length), j < k → (l[j]).u.id.size ≤ 1048576 ∧ (l[j]).n ≤ 1048576) ∧ Hid (Below w.heap.size w wr)) (fun _ i _ => n - (intOf i).toNat)
    case atStart => exact ⟨0, m - n, Nat.zero_le _, rfl, rfl, by omega, by omega, fun j _ hj => absurd hj (Nat.not_lt_zero _), Below.refl _ _⟩
    case round =>
      obtain ⟨k, u, hk, rfl, rfl, hu, hum, HJ, HW⟩ := hrel
      by_cases hlt : k < n
      · have hkl : k < l.length := by rw [HX.out.1]; exact hlt
        obtain ⟨b, off, rfl, hb, g0, g1, g2, g3⟩ := (HX.out.below HW.out).at hkl
        have hsz := HX.out.2.1 (l[k]) (List.getElem_mem hkl)
        have HJ2 : Hid ((l[k]).u.id.size ≤ 1048576 ∧ (l[k]).n ≤ 1048576 → ∀ j (hj : j < l.length), j < k + 1 → (l[j]).u.id.size ≤ 1048576 ∧ (l[j]).n ≤ 1048576) := fun h j hj hjk => by
          by_cases e : j = k
          · subst e; exact h
          · exact HJ.out j hj (by omega)
        have hs1 := hsz.1
        have hs2 := hsz.2.1
        clear hsz HJ
        have hki : (k : Int) < (n : Int) := by omega
        have hk0 : (0 : Int) ≤ (k : Int) := by omega
        have hu2 : u ≤ 1048576 := by omega
        generalize l[k] = x at *
        go_wp2_with fail
        refine (szClientX_any x u _ hu hu2 hs1 hs2).mono ?_
        rintro e x3 ⟨⟨L, rfl, hL⟩, hb3⟩
        have HB3 : Hid (Below w.heap.size w x3) := HW.out.trans (hb3.mono HW.out.size)
        have HL : Hid (L < 0 ∨ (x.u.id.size ≤ 1048576 ∧ x.n ≤ 1048576 ∧ 0 ≤ L ∧ L ≤ u)) := hL
        clear hb3 hL g0 g1 g2 g3
        by_cases hneg : L < 0
        · go_wp2
          go_ret
          exact ⟨⟨-1, rfl, .inl (by omega)⟩, HB3.out⟩
        · have h4 : x.u.id.size ≤ 1048576 ∧ x.n ≤ 1048576 ∧ 0 ≤ L ∧ L ≤ u := by
            rcases HL.out with h | h
            · exact absurd h hneg
            · exact h
          have HJ3 := HJ2.out ⟨h4.1, h4.2.1⟩
          have hL2 : L ≤ u := h4.2.2.2
          clear h4
          have HJ4 : Hid (∀ j (hj : j < l.length), j < k + 1 → (l[j]).u.id.size ≤ 1048576 ∧ (l[j]).n ≤ 1048576) := HJ3
          clear HJ3
          go_wp2
          go_roundw
          case rel => exact ⟨k + 1, L, by omega, by go_num, rfl, by omega, by omega, HJ4, HB3⟩
          case measure => simp [intOf]; omega
      · have HS : Hid (SzC n l) := ⟨by omega, fun e he => by
          obtain ⟨j, hj, rfl⟩ := List.getElem_of_mem he
          exact HJ.out j hj (by have := HX.out.1; omega)⟩
        clear HJ
        go_wp2
        go_ret
        exact ⟨⟨u, rfl, .inr ⟨HS.out, hu, hum⟩⟩, HW.out⟩

end Go.Proofs.YtemcjenpgdieoaaGreatDoor

namespace Go.Proofs.YtemcjenpgdieoaaGreatDoor
open Go.RowKit
set_option linter.unusedVariables false

/-- A client of noughts. -/
abbrev cnil : CE := ⟨⟨⟨#[]⟩, 0, [], 0⟩, none, 0, 0⟩

theorem made_cl (n : Nat) : (madeCells #[.string ⟨#[]⟩, .slice none 0 0, .int .i64 0, .int .i64 0] (n * 4)).toList = ceCells (List.replicate n cnil) := by
  have hl : (ceCells (List.replicate n cnil)).length = n * 4 := by rw [ceCells_len, List.length_replicate]
  apply List.ext_getElem?
  intro j
  by_cases hj : j < n * 4
  · have hq : j / 4 < (List.replicate n cnil).length := by rw [List.length_replicate]; omega
    obtain ⟨h0, h1, h2, h3⟩ := ceCells_at (List.replicate n cnil) (j / 4) hq
    rw [List.getElem_replicate] at h0 h1 h2 h3
    have : j % 4 = 0 ∨ j % 4 = 1 ∨ j % 4 = 2 ∨ j % 4 = 3 := by omega
    rcases this with h | h | h | h
    · rw [show j / 4 * 4 = j by omega] at h0; rw [h0]; simp [madeCells, hj, h]
    · rw [show j / 4 * 4 + 1 = j by omega] at h2; rw [h2]; simp [madeCells, hj, h]
    · rw [show j / 4 * 4 + 2 = j by omega] at h1; rw [h1]; simp [madeCells, hj, h]
    · rw [show j / 4 * 4 + 3 = j by omega] at h3; rw [h3]; simp [madeCells, hj, h]
  · have h2 : (ceCells (List.replicate n cnil))[j]? = none := List.getElem?_eq_none (by omega)
    rw [h2]
    simp [madeCells, hj]

/-- A client comes into a row, with bytes of its own. -/
theorem ClRow.laid {W W' : World} {base g n c B : Nat} {M D : List CE} {e x : CE} (h : ClRow W base (.slice (some ⟨g, 0, none⟩) n c) (M ++ e :: D)) (hn : (M ++ e :: D).length = n) (hb : Below W.heap.size W W') (hx : Owns W' B x.a x.n x.c x.u.zs) (hB : W.heap.size ≤ B) :
    ClRow ((((W'.setCell ⟨g, M.length * 4, none⟩ (.string x.u.id)).setCell ⟨g, M.length * 4 + 1, none⟩ (.slice x.a x.n x.c)).setCell ⟨g, M.length * 4 + 2, none⟩ (.int .i64 x.u.st)).setCell ⟨g, M.length * 4 + 3, none⟩ (.int .i64 x.u.off)) base (.slice (some ⟨g, 0, none⟩) n c) (M ++ x :: D) ∧ W'.grownBy ((((W'.setCell ⟨g, M.length * 4, none⟩ (.string x.u.id)).setCell ⟨g, M.length * 4 + 1, none⟩ (.slice x.a x.n x.c)).setCell ⟨g, M.length * 4 + 2, none⟩ (.int .i64 x.u.st)).setCell ⟨g, M.length * 4 + 3, none⟩ (.int .i64 x.u.off)) (some g) := by
  have h' := h.stays hb
  have ho : OwnCl W' base (some ⟨g, 0, none⟩) n c (M ++ e :: D) := by
    have := h'.1
    rw [hn] at this
    exact this
  have hp := ho.put x
  have hgl : g < W.heap.size := (h.lts.1 g rfl).2
  have hbg : base ≤ W.heap.size := by have := (h.lts.1 g rfl).1; omega
  have hxg : ∀ q, x.a.map (·.block) = some q → W.heap.size ≤ q := fun q hq => Nat.le_trans hB (hx.lt q hq).1
  refine ⟨⟨?_, ?_, ?_⟩, hp.2⟩
  · rw [show (M ++ x :: D).length = n by rw [← hn]; simp]
    exact hp.1
  · intro y hy
    have key : ∀ v ∈ M ++ e :: D, Owns _ base v.a v.n v.c v.u.zs := fun v hv => (h'.2.1 v hv).grown hp.2 (fun q hq => h'.rowApart (h'.2.1 v hv) q (by injection hq with hq; subst hq; rfl))
    rcases List.mem_append.1 hy with hy | hy
    · exact key y (List.mem_append_left _ hy)
    · rcases List.mem_cons.1 hy with rfl | hy
      · exact (hx.grown hp.2 (fun q hq hq2 => by injection hq with hq; have := hxg q hq2; omega)).low (by omega)
      · exact key y (List.mem_append_right _ (List.mem_cons_of_mem _ hy))
  · have h2 := h.2.2
    rw [List.pairwise_append, List.pairwise_cons] at h2 ⊢
    have hold : ∀ v ∈ M ++ e :: D, ∀ q, v.a.map (·.block) = some q → q < W.heap.size := fun v hv q hq => (h.lts.2 v hv q hq).2
    refine ⟨h2.1, ⟨fun y hy q hq hq2 => ?_, h2.2.1.2⟩, fun y hy z hz => ?_⟩
    · have h3 := hxg q hq
      have h4 := hold y (List.mem_append_right _ (List.mem_cons_of_mem _ hy)) q hq2
      omega
    · rcases List.mem_cons.1 hz with rfl | hz
      · intro q hq hq2
        have h3 := hxg q hq2
        have h4 := hold y (List.mem_append_left _ hy) q hq
        omega
      · exact h2.2.2 y hy z (List.mem_cons_of_mem _ hz)

set_option maxRecDepth 10000 in
set_option maxHeartbeats 1600000 in
theorem toClientS_any (a : Option Addr) (n c : Nat) (l : List CE) (w : World) (hx : ClsI w a n l) (hs : SzC n l) :
    Calls Tryz.prog 6 #[.slice a n c] w fun e w' => (∃ g l', e = .returned (.slice (some ⟨g, 0, none⟩) n n) ∧ ClRow w' w.heap.size (.slice (some ⟨g, 0, none⟩) n n) l' ∧ l'.map CE.u = l.map CE.u ∧ ∀ e ∈ l', e.n ≤ 1048576) ∧ Below w.heap.size w w' := by
  obtain ⟨i0, hi, hz0, hz1, hz2⟩ := info_parts info_cl
  have HX : Hid (∀ W, Below w.heap.size w W → ClsI W a n l) := fun W hb => hx.below hb
  have HS : Hid (SzC n l) := hs
  have HL : Hid (l.length = n) := hx.1
  have hn : n ≤ 1048576 := hs.1
  clear hx hs
  go_enter Tryz.func6, Tryz.ntmps6
  go_wp2_with (at_make; refine wpList_make_full _ rfl _ _ 33 rfl w.heap.size 51 i0 (.agg #[.string ⟨#[]⟩, .slice none 0 0, .int .i64 0, .int .i64 0]) 4 Tryz.underlying33 hi hz0 hz1 _ _ _ _ n rfl rfl rfl rfl (by rw [hz2]; omega) (by unfold maxLen; omega) (Nat.le_refl _) ?_; intro w1 hown hgrow)
  have hrow : ClRow w1 w.heap.size (.slice (some ⟨w.heap.size, 0, none⟩) n n) (List.replicate n cnil) := by
    refine ⟨?_, fun e he => ?_, ?_⟩
    · rw [List.length_replicate, ← made_cl]
      exact hown
    · obtain rfl : e = cnil := List.eq_of_mem_replicate he
      exact owns_nil _ _
    · rw [List.pairwise_replicate]
      right
      intro q hq
      simp at hq
  have HR : Hid (ClRow w1 w.heap.size (.slice (some ⟨w.heap.size, 0, none⟩) n n) (List.replicate n cnil)) := hrow
  have HB : Hid (Below w.heap.size w w1) := (Below.refl _ _).grown hgrow (Nat.le_refl _) (by simp)
  clear hown hgrow hrow
  go_loopw [4] (fun i wr => ∃ (k : Nat) (M : List CE), k ≤ n ∧ i = .int .i64 k ∧ M.length = k ∧ Hid (ClRow wr w.heap.size (.slice (some ⟨w.heap.size, 0, none⟩) n n) (M ++ List.replicate (n - k) cnil)) ∧ Hid (M.map CE.u = (l.map CE.u).take k) ∧ Hid (∀ e ∈ M, e.n ≤ 1048576) ∧ Hid (Below w.heap.size w wr)) (fun i _ => n - (intOf i).toNat)
  case atStart => exact ⟨0, [], Nat.zero_le _, rfl, rfl, HR, rfl, (fun e he => absurd he (List.not_mem_nil)), HB⟩
  case round =>
    clear HR HB
    obtain ⟨k, M, hk, rfl, hM, HO, HM, HZ, HB⟩ := hrel
    by_cases hlt : k < n
    · have hkl : k < l.length := by rw [HL.out]; exact hlt
      obtain ⟨b, off, rfl, hb, g0, g1, g2, g3⟩ := (HX.out _ HB.out).at hkl
      have hsg := (HX.out _ HB.out).2.1 (l[k]) (List.getElem_mem hkl)
      have HSg : Hid (Seg wr (l[k]).a (l[k]).n (l[k]).u.zs) := hsg.2.2
      have hen : (l[k]).n ≤ 1048576 := (HS.out.2 _ (List.getElem_mem hkl)).2
      have HM2 : Hid (M.map CE.u ++ [(l[k]).u] = (l.map CE.u).take (k + 1)) := by show _ = _; rw [List.take_add_one, List.getElem?_map, List.getElem?_eq_getElem hkl, HM.out]; rfl
      clear HM hsg
      have hki : (k : Int) < (n : Int) := by omega
      have hk0 : (0 : Int) ≤ (k : Int) := by omega
      generalize l[k] = x at *
      go_wp2_with fail
      refine (toClient_any x.u.id x.a x.n x.c x.u.zs x.u.st x.u.off _ HSg.out hen).mono ?_
      rintro e x3 ⟨⟨gA, rfl, ho3⟩, hb3⟩
      have hrep : List.replicate (n - k) cnil = cnil :: List.replicate (n - (k + 1)) cnil := by rw [← List.replicate_succ]; congr 1; omega
      have hO := HO.out
      rw [hrep] at hO
      have hOlen : (M ++ cnil :: List.replicate (n - (k + 1)) cnil).length = n := by simp; omega
      have hgs : w.heap.size < wr.heap.size := (hO.lts.1 _ rfl).2
      have hl3 := hO.laid (x := ⟨x.u, some ⟨gA, 0, none⟩, x.n, x.n⟩) hOlen hb3 ho3 (Nat.le_refl _)
      rw [hM] at hl3
      have hst := (hO.stays hb3).1
      rw [hOlen] at hst
      have hcl : (ceCells (M ++ cnil :: List.replicate (n - (k + 1)) cnil)).length = n * 4 := by rw [ceCells_len, hOlen]
      have f0 : x3.frozen? ⟨w.heap.size, k * 4, none⟩ = false := hst.frozenAt _
      have f1 : x3.frozen? ⟨w.heap.size, k * 4 + 1, none⟩ = false := hst.frozenAt _
      have f2 : x3.frozen? ⟨w.heap.size, k * 4 + 2, none⟩ = false := hst.frozenAt _
      have f3 : x3.frozen? ⟨w.heap.size, k * 4 + 3, none⟩ = false := hst.frozenAt _
      obtain ⟨u0, hu0⟩ : ∃ u, x3.cell? ⟨w.heap.size, k * 4, none⟩ = some u := by rw [hst.cellAt _ (by omega)]; exact ⟨_, List.getElem?_eq_getElem (by omega)⟩
      obtain ⟨u1, hu1⟩ : ∃ u, x3.cell? ⟨w.heap.size, k * 4 + 1, none⟩ = some u := by rw [hst.cellAt _ (by omega)]; exact ⟨_, List.getElem?_eq_getElem (by omega)⟩
      obtain ⟨u2, hu2⟩ : ∃ u, x3.cell? ⟨w.heap.size, k * 4 + 2, none⟩ = some u := by rw [hst.cellAt _ (by omega)]; exact ⟨_, List.getElem?_eq_getElem (by omega)⟩
      obtain ⟨u3, hu3⟩ : ∃ u, x3.cell? ⟨w.heap.size, k * 4 + 3, none⟩ = some u := by rw [hst.cellAt _ (by omega)]; exact ⟨_, List.getElem?_eq_getElem (by omega)⟩
      have HO3 : Hid (ClRow ((((x3.setCell ⟨w.heap.size, k * 4, none⟩ (.string x.u.id)).setCell ⟨w.heap.size, k * 4 + 1, none⟩ (.slice (some ⟨gA, 0, none⟩) x.n x.n)).setCell ⟨w.heap.size, k * 4 + 2, none⟩ (.int .i64 x.u.st)).setCell ⟨w.heap.size, k * 4 + 3, none⟩ (.int .i64 x.u.off)) w.heap.size (.slice (some ⟨w.heap.size, 0, none⟩) n n) (M ++ [⟨x.u, some ⟨gA, 0, none⟩, x.n, x.n⟩] ++ List.replicate (n - (k + 1)) cnil)) := by rw [List.append_assoc]; exact hl3.1
      have HB3 : Hid (Below w.heap.size w ((((x3.setCell ⟨w.heap.size, k * 4, none⟩ (.string x.u.id)).setCell ⟨w.heap.size, k * 4 + 1, none⟩ (.slice (some ⟨gA, 0, none⟩) x.n x.n)).setCell ⟨w.heap.size, k * 4 + 2, none⟩ (.int .i64 x.u.st)).setCell ⟨w.heap.size, k * 4 + 3, none⟩ (.int .i64 x.u.off))) := ((((HB.out.trans (hb3.mono HB.out.size)).setCell (Nat.le_refl _) _).setCell (Nat.le_refl _) _).setCell (Nat.le_refl _) _).setCell (Nat.le_refl _) _
      have HM3 : Hid ((M ++ [(⟨x.u, some ⟨gA, 0, none⟩, x.n, x.n⟩ : CE)]).map CE.u = (l.map CE.u).take (k + 1)) := by show _ = _; rw [List.map_append]; exact HM2.out
      have HZ3 : Hid (∀ e ∈ M ++ [(⟨x.u, some ⟨gA, 0, none⟩, x.n, x.n⟩ : CE)], e.n ≤ 1048576) := fun e he => by
        rcases List.mem_append.1 he with he | he
        · exact HZ.out e he
        · obtain rfl : e = ⟨x.u, some ⟨gA, 0, none⟩, x.n, x.n⟩ := by simpa using he
          exact hen
      clear hl3 hst hcl hO hrep hOlen ho3 hb3 HM2 g0 g1 g2 g3 HO HB
      go_wp2
      go_roundw
      case rel => exact ⟨k + 1, M ++ [⟨x.u, some ⟨gA, 0, none⟩, x.n, x.n⟩], by omega, by go_num, by simp [hM], HO3, HM3, HZ3, HB3⟩
      case measure => simp [intOf]; omega
    · obtain rfl : k = n := by omega
      have HO2 : Hid (ClRow wr w.heap.size (.slice (some ⟨w.heap.size, 0, none⟩) k k) M) := by
        have h := HO.out
        rw [Nat.sub_self, List.replicate_zero, List.append_nil] at h
        exact h
      have HE : Hid (M.map CE.u = l.map CE.u) := by show _ = _; rw [HM.out, List.take_of_length_le (by rw [List.length_map, HL.out]; exact Nat.le_refl _)]
      clear HO HM
      go_wp2
      go_ret
      exact ⟨⟨w.heap.size, M, rfl, HO2.out, HE.out, HZ.out⟩, HB.out⟩

end Go.Proofs.YtemcjenpgdieoaaGreatDoor

namespace Go.Proofs.YtemcjenpgdieoaaGreatDoor
open Go.RowKit
set_option linter.unusedVariables false

theorem newN_le (n : Int) : newN n ≤ 200 := by
  unfold newN
  split <;> omega

theorem wd_le {M k : Nat} {us : List Cu} {B : Nat} (hz : ∀ u ∈ us, u.zs.length ≤ B) : wdM M us ≤ M ∧ (wdU M us).length ≤ us.length ∧ ∀ u ∈ wdU M us, u.zs.length ≤ B := by
  by_cases h : wdB M us = true
  · rw [(wdM_yes h).1, (wdM_yes h).2]
    exact ⟨Nat.le_refl _, Nat.le_refl _, hz⟩
  · have h := wdM_no (Bool.eq_false_iff.2 h)
    rw [h.1, h.2]
    exact ⟨Nat.zero_le _, Nat.zero_le _, by simp⟩

set_option maxRecDepth 10000 in
set_option maxHeartbeats 6400000 in
theorem wdNewWalk (n : Int) (a : Option Addr) (k c : Nat) (l : List CE) (w : World) (hl : k ≤ maxLen) (hI : ClsI w a k l) (ht : RecT w) (he : ErrN w) :
    Calls Tryz.prog 3 #[.int .i64 n, .slice a k c] w fun e w' => e = .returned (.bool true) ∧ Below w.heap.size w w' := by
  have hmm : maxLen < 9223372036854775808 := by decide
  go_enter Tryz.func3, Tryz.ntmps3
  go_wp2_with fail
  refine (szClientS_any a k c l 1048576 w hI (by omega) (by omega) hl).mono ?_
  rintro e x0 ⟨⟨L, rfl, hL⟩, hb0⟩
  have HB0 : Hid (Below w.heap.size w x0) := hb0
  clear hb0
  by_cases hneg : L < 0
  · clear hL
    go_wp2_with fail
    go_ret
    exact ⟨rfl, HB0.out⟩
  have hS : SzC k l := by rcases hL with h | h; exact absurd h hneg; exact h.1
  have hk : k ≤ 1048576 := hS.1
  have hzl : ∀ u ∈ l.map CE.u, u.zs.length ≤ 1048576 := fun u hu => by
    obtain ⟨e, he', rfl⟩ := List.mem_map.1 hu
    have h1 := (hI.2.1 e he').2.2.1
    have h2 := (hS.2 e he').2
    omega
  have hid : ∀ e ∈ l, e.u.id.size ≤ maxLen := fun e he' => (hI.2.1 e he').1
  have hwd := wd_le (M := newN n) (k := k) hzl
  have hMn := newN_le n
  obtain ⟨M1, hM1⟩ : ∃ M1, wdM (newN n) (l.map CE.u) = M1 := ⟨_, rfl⟩
  obtain ⟨U1, hU1⟩ : ∃ U1, wdU (newN n) (l.map CE.u) = U1 := ⟨_, rfl⟩
  obtain ⟨N1, hN1⟩ : ∃ N1, U1.length = N1 := ⟨_, rfl⟩
  rw [hM1, hU1, List.length_map, hI.1] at hwd
  have hM1b : M1 ≤ 1048576 := by omega
  have hN1b : N1 ≤ 1048576 := by omega
  have HZ1 : Hid (∀ (l' : List CE) (W : World) (lo : Nat) (v : Value), ClRow W lo v l' → l'.map CE.u = U1 → ∀ e ∈ l', e.n ≤ 1048576) := fun l' W lo v h hm e he' => by
    rw [h.len e he']
    exact hwd.2.2 _ (by rw [← hm]; exact List.mem_map_of_mem he')
  have hids : ∀ l' : List CE, l'.map CE.u = l.map CE.u → (∀ e ∈ l', e.n ≤ 1048576) → ∀ e ∈ l', e.u.id.size ≤ maxLen ∧ e.n ≤ 1048576 := fun l' hm hz e he' => by
    have hmem : e.u ∈ l.map CE.u := by rw [← hm]; exact List.mem_map_of_mem he'
    obtain ⟨x, hx, hxe⟩ := List.mem_map.1 hmem
    exact ⟨by rw [← hxe]; exact hid x hx, hz e he'⟩
  have hlen' : ∀ l' : List CE, l'.map CE.u = l.map CE.u → k = l'.length := fun l' hm => by
    have h1 := congrArg List.length hm
    rw [List.length_map, List.length_map, hI.1] at h1
    exact h1.symm
  have HT : Hid (∀ W, Below w.heap.size w W → Calls Tryz.prog 6 #[.slice a k c] W fun e w' => (∃ g l', e = .returned (.slice (some ⟨g, 0, none⟩) k k) ∧ ClRow w' W.heap.size (.slice (some ⟨g, 0, none⟩) k k) l' ∧ l'.map CE.u = l.map CE.u ∧ ∀ e ∈ l', e.n ≤ 1048576) ∧ Below W.heap.size W w') := fun W hb => toClientS_any a k c l W (hI.below hb) hS
  have HSp : Hid (∀ (W : World) (lo g : Nat) (l' : List CE), Below w.heap.size w W → ClRow W lo (.slice (some ⟨g, 0, none⟩) k k) l' → l'.map CE.u = l.map CE.u → (∀ e ∈ l', e.n ≤ 1048576) → Calls Tryz.prog 5 #[.int .i64 n, .slice (some ⟨g, 0, none⟩) k k] W fun e w' => (∃ v, e = .returned v ∧ AnsWd W.heap.size M1 U1 v w') ∧ Below W.heap.size W w') := fun W lo g l' hb hr hm hz => by
    have h := specWdNew_any n (newN n) rfl (by omega) (some ⟨g, 0, none⟩) k k lo l' W hr (hlen' l' hm) hk (hids l' hm hz)
    rw [hm, hM1, hU1] at h
    exact h
  have HIm : Hid (∀ (W : World) (lo g : Nat) (l' : List CE), Below w.heap.size w W → ClRow W lo (.slice (some ⟨g, 0, none⟩) k k) l' → l'.map CE.u = l.map CE.u → (∀ e ∈ l', e.n ≤ 1048576) → Calls Tryz.prog 7 #[.int .i64 n, .slice (some ⟨g, 0, none⟩) k k] W fun e w' => (∃ v, e = .returned v ∧ AnsWd W.heap.size M1 U1 v w') ∧ Below W.heap.size W w') := fun W lo g l' hb hr hm hz => by
    have h := implWdNew_any n (newN n) rfl (by omega) (some ⟨g, 0, none⟩) k k lo l' W hr (hlen' l' hm) hk (hids l' hm hz) (ht.below hb) (he.below hb)
    rw [hm, hM1, hU1] at h
    exact h
  have HLk : Hid (∀ l' : List CE, l'.map CE.u = l.map CE.u → k = l'.length) := hlen'
  clear hL hI hS hzl hid hwd hids hlen' ht he hM1 hU1 hMn
  go_wp2_with fail
  refine (HT.out _ HB0.out).mono ?_
  rintro e x1 ⟨⟨g1, l1, rfl, hr1, hm1, hz1⟩, hb1⟩
  have HB1 : Hid (Below w.heap.size w x1) := HB0.out.trans (hb1.mono HB0.out.size)
  have HC1 : Hid (ClRow x1 x0.heap.size (.slice (some ⟨g1, 0, none⟩) k k) l1 ∧ l1.map CE.u = l.map CE.u ∧ ∀ e ∈ l1, e.n ≤ 1048576) := ⟨hr1, hm1, hz1⟩
  clear hr1 hm1 hz1 hb1 HB0
  go_wp2_with fail
  refine (HSp.out _ _ _ _ HB1.out HC1.out.1 HC1.out.2.1 HC1.out.2.2).mono ?_
  rintro e x2 ⟨⟨v, rfl, hv⟩, hb2⟩
  obtain ⟨Wx1, Wy1, Wx2, Wy2, Wx3, Wy3, Wx4, Wy4, Wx5, Wy5, Wx6, Wy6, Wx7, Wy7, Wx8, Wy8, Wx9, Wy9, N', lW, rfl, hAt, hm, hN'⟩ := hv
  obtain rfl : N1 = N' := by rw [hN', hN1]
  have HU2 : Hid (lW.map CE.u = U1) := hm
  obtain ⟨x3, hx3⟩ : ∃ x3, x2.alloc (.cells #[.slice Wx1 M1 Wy1, .slice Wx2 M1 Wy2, .int .i64 0, .int .i64 0, .slice Wx3 0 Wy3, .slice Wx4 0 Wy4, .slice Wx5 N1 Wy5, .slice Wx6 N1 Wy6, .slice Wx7 0 Wy7, .slice Wx8 0 Wy8, .slice Wx9 N1 Wy9] 38) = x3 := ⟨_, rfl⟩
  obtain ⟨bw, hbw⟩ : ∃ bw, x2.heap.size = bw := ⟨_, rfl⟩
  have h23 : Below x2.heap.size x2 x3 := by rw [← hx3]; exact (Below.refl _ _).alloc (Nat.le_refl _) _
  have HE3 : Hid (x2.alloc (.cells #[.slice Wx1 M1 Wy1, .slice Wx2 M1 Wy2, .int .i64 0, .int .i64 0, .slice Wx3 0 Wy3, .slice Wx4 0 Wy4, .slice Wx5 N1 Wy5, .slice Wx6 N1 Wy6, .slice Wx7 0 Wy7, .slice Wx8 0 Wy8, .slice Wx9 N1 Wy9] 38) = x3 ∧ x2.heap.size = bw) := ⟨hx3, hbw⟩
  have HBw3 : Hid (BoxN x3 bw 38 [.slice Wx1 M1 Wy1, .slice Wx2 M1 Wy2, .int .i64 0, .int .i64 0, .slice Wx3 0 Wy3, .slice Wx4 0 Wy4, .slice Wx5 N1 Wy5, .slice Wx6 N1 Wy6, .slice Wx7 0 Wy7, .slice Wx8 0 Wy8, .slice Wx9 N1 Wy9]) := by show BoxN _ _ _ _; rw [← hx3, ← hbw]; exact BoxN.new _ _ _
  have HAw3 : Hid (WdAt x3 x1.heap.size M1 Wx1 Wy1 Wx2 Wy2 Wx3 Wy3 Wx5 Wy5 Wx6 Wy6 Wx9 Wy9 N1 lW) := hAt.stays h23
  have HIw : Hid (WdIn Wx1 Wx2 Wx3 Wx5 Wx6 Wx9 lW bw) := by have h9 := hAt.inn; rw [hbw] at h9; exact h9
  have HB3 : Hid (Below w.heap.size w x3) := HB1.out.trans ((hb2.trans (h23.mono hb2.size)).mono HB1.out.size)
  have hw1 : w.heap.size ≤ x1.heap.size := HB1.out.size
  have hw2 : x1.heap.size ≤ bw := by rw [← hbw]; exact hb2.size
  have hw3 : bw < x3.heap.size := HBw3.out.lt
  clear hAt hm hN' hx3 hbw h23 hb2 HB1 HC1 HSp
  go_upto_region 6 with fail
  rw [HE3.out.1, HE3.out.2]
  clear HE3
  go_wp2_with fail
  refine (HT.out _ HB3.out).mono ?_
  rintro e x4 ⟨⟨g2, l2, rfl, hr2, hm2, hz2⟩, hb4⟩
  have HB4 : Hid (Below w.heap.size w x4) := HB3.out.trans (hb4.mono HB3.out.size)
  have HC4 : Hid (ClRow x4 x3.heap.size (.slice (some ⟨g2, 0, none⟩) k k) l2 ∧ l2.map CE.u = l.map CE.u ∧ ∀ e ∈ l2, e.n ≤ 1048576) := ⟨hr2, hm2, hz2⟩
  have HI2 : Hid ((∀ q, (some (⟨g2, 0, none⟩ : Addr)).map (·.block) = some q → q < x4.heap.size) ∧ ∀ e ∈ l2, ∀ q, e.a.map (·.block) = some q → q < x4.heap.size) := ⟨fun q hq => (hr2.1.lt q (by rw [ownBlock_sU]; exact hq)).2, fun e he' q hq => ((hr2.2.1 e he').lt q hq).2⟩
  have HBw4 : Hid (BoxN x4 bw 38 [.slice Wx1 M1 Wy1, .slice Wx2 M1 Wy2, .int .i64 0, .int .i64 0, .slice Wx3 0 Wy3, .slice Wx4 0 Wy4, .slice Wx5 N1 Wy5, .slice Wx6 N1 Wy6, .slice Wx7 0 Wy7, .slice Wx8 0 Wy8, .slice Wx9 N1 Wy9]) := HBw3.out.stays hb4
  have HAw4 : Hid (WdAt x4 x1.heap.size M1 Wx1 Wy1 Wx2 Wy2 Wx3 Wy3 Wx5 Wy5 Wx6 Wy6 Wx9 Wy9 N1 lW) := HAw3.out.stays hb4
  have hw4 : x3.heap.size ≤ x4.heap.size := hb4.size
  clear hr2 hm2 hz2 hb4 HB3 HBw3 HAw3
  go_wp2_with fail
  refine (HIm.out _ _ _ _ HB4.out HC4.out.1 HC4.out.2.1 HC4.out.2.2).mono ?_
  rintro e x5 ⟨⟨v, rfl, hv⟩, hb5⟩
  obtain ⟨Gx1, Gy1, Gx2, Gy2, Gx3, Gy3, Gx4, Gy4, Gx5, Gy5, Gx6, Gy6, Gx7, Gy7, Gx8, Gy8, Gx9, Gy9, N', lG, rfl, hAt, hm, hN'⟩ := hv
  obtain rfl : N1 = N' := by rw [hN', hN1]
  have HU5 : Hid (lG.map CE.u = U1) := hm
  obtain ⟨x6, hx6⟩ : ∃ x6, x5.alloc (.cells #[.slice Gx1 M1 Gy1, .slice Gx2 M1 Gy2, .int .i64 0, .int .i64 0, .slice Gx3 0 Gy3, .slice Gx4 0 Gy4, .slice Gx5 N1 Gy5, .slice Gx6 N1 Gy6, .slice Gx7 0 Gy7, .slice Gx8 0 Gy8, .slice Gx9 N1 Gy9] 38) = x6 := ⟨_, rfl⟩
  obtain ⟨bg, hbg⟩ : ∃ bg, x5.heap.size = bg := ⟨_, rfl⟩
  have h56 : Below x5.heap.size x5 x6 := by rw [← hx6]; exact (Below.refl _ _).alloc (Nat.le_refl _) _
  have HE6 : Hid (x5.alloc (.cells #[.slice Gx1 M1 Gy1, .slice Gx2 M1 Gy2, .int .i64 0, .int .i64 0, .slice Gx3 0 Gy3, .slice Gx4 0 Gy4, .slice Gx5 N1 Gy5, .slice Gx6 N1 Gy6, .slice Gx7 0 Gy7, .slice Gx8 0 Gy8, .slice Gx9 N1 Gy9] 38) = x6 ∧ x5.heap.size = bg) := ⟨hx6, hbg⟩
  have h46 : Below x4.heap.size x4 x6 := hb5.trans (h56.mono hb5.size)
  have HBg6 : Hid (BoxN x6 bg 38 [.slice Gx1 M1 Gy1, .slice Gx2 M1 Gy2, .int .i64 0, .int .i64 0, .slice Gx3 0 Gy3, .slice Gx4 0 Gy4, .slice Gx5 N1 Gy5, .slice Gx6 N1 Gy6, .slice Gx7 0 Gy7, .slice Gx8 0 Gy8, .slice Gx9 N1 Gy9]) := by show BoxN _ _ _ _; rw [← hx6, ← hbg]; exact BoxN.new _ _ _
  have HAg6 : Hid (WdAt x6 x4.heap.size M1 Gx1 Gy1 Gx2 Gy2 Gx3 Gy3 Gx5 Gy5 Gx6 Gy6 Gx9 Gy9 N1 lG) := hAt.stays h56
  have HIg : Hid (WdIn Gx1 Gx2 Gx3 Gx5 Gx6 Gx9 lG bg) := by have h9 := hAt.inn; rw [hbg] at h9; exact h9
  have HB6 : Hid (Below w.heap.size w x6) := HB4.out.trans (h46.mono HB4.out.size)
  have HBw6 : Hid (BoxN x6 bw 38 [.slice Wx1 M1 Wy1, .slice Wx2 M1 Wy2, .int .i64 0, .int .i64 0, .slice Wx3 0 Wy3, .slice Wx4 0 Wy4, .slice Wx5 N1 Wy5, .slice Wx6 N1 Wy6, .slice Wx7 0 Wy7, .slice Wx8 0 Wy8, .slice Wx9 N1 Wy9]) := HBw4.out.stays h46
  have HAw6 : Hid (WdAt x6 x1.heap.size M1 Wx1 Wy1 Wx2 Wy2 Wx3 Wy3 Wx5 Wy5 Wx6 Wy6 Wx9 Wy9 N1 lW) := HAw4.out.stays h46
  have HC6 : Hid (ClRow x6 x3.heap.size (.slice (some ⟨g2, 0, none⟩) k k) l2) := HC4.out.1.stays h46
  have hw5 : x4.heap.size ≤ bg := by rw [← hbg]; exact hb5.size
  have hw6 : bg < x6.heap.size := HBg6.out.lt
  clear hAt hm hN' hx6 hbg h56 h46 hb5 HB4 HBw4 HAw4
  go_upto_region 8 with fail
  rw [HE6.out.1, HE6.out.2]
  clear HE6
  obtain ⟨c0, c1, c2, c3, c4, c5, c6, c7, c8, c9, c10⟩ := (show _ ∧ _ ∧ _ ∧ _ ∧ _ ∧ _ ∧ _ ∧ _ ∧ _ ∧ _ ∧ _ from ⟨HBw6.out.cell 0 rfl, HBw6.out.cell 1 rfl, HBw6.out.cell 2 rfl, HBw6.out.cell 3 rfl, HBw6.out.cell 4 rfl, HBw6.out.cell 5 rfl, HBw6.out.cell 6 rfl, HBw6.out.cell 7 rfl, HBw6.out.cell 8 rfl, HBw6.out.cell 9 rfl, HBw6.out.cell 10 rfl⟩)
  obtain ⟨d0, d1, d2, d3, d4, d5, d6, d7, d8, d9, d10⟩ := (show _ ∧ _ ∧ _ ∧ _ ∧ _ ∧ _ ∧ _ ∧ _ ∧ _ ∧ _ ∧ _ from ⟨HBg6.out.cell 0 rfl, HBg6.out.cell 1 rfl, HBg6.out.cell 2 rfl, HBg6.out.cell 3 rfl, HBg6.out.cell 4 rfl, HBg6.out.cell 5 rfl, HBg6.out.cell 6 rfl, HBg6.out.cell 7 rfl, HBg6.out.cell 8 rfl, HBg6.out.cell 9 rfl, HBg6.out.cell 10 rfl⟩)
  go_wp2_with fail
  refine (eqWd_any Gx1 Gx2 Gx3 Gx4 Gx5 Gx6 Gx7 Gx8 Gx9 Gy1 Gy2 Gy3 Gy4 Gy5 Gy6 Gy7 Gy8 Gy9 Wx1 Wx2 Wx3 Wx4 Wx5 Wx6 Wx7 Wx8 Wx9 Wy1 Wy2 Wy3 Wy4 Wy5 Wy6 Wy7 Wy8 Wy9 M1 N1 x4.heap.size x1.heap.size lG lW x6 HAg6.out HAw6.out (by rw [HU5.out, HU2.out]) hM1b hN1b (HZ1.out lG x6 _ _ HAg6.out.cls HU5.out)).mono ?_
  rintro e x7 ⟨rfl, hb7⟩
  have HB7 : Hid (Below w.heap.size w x7) := HB6.out.trans (hb7.mono HB6.out.size)
  have HBw7 : Hid (BoxN x7 bw 38 [.slice Wx1 M1 Wy1, .slice Wx2 M1 Wy2, .int .i64 0, .int .i64 0, .slice Wx3 0 Wy3, .slice Wx4 0 Wy4, .slice Wx5 N1 Wy5, .slice Wx6 N1 Wy6, .slice Wx7 0 Wy7, .slice Wx8 0 Wy8, .slice Wx9 N1 Wy9]) := HBw6.out.stays hb7
  have HAw7 : Hid (WdAt x7 x1.heap.size M1 Wx1 Wy1 Wx2 Wy2 Wx3 Wy3 Wx5 Wy5 Wx6 Wy6 Wx9 Wy9 N1 lW) := HAw6.out.stays hb7
  have HBg7 : Hid (BoxN x7 bg 38 [.slice Gx1 M1 Gy1, .slice Gx2 M1 Gy2, .int .i64 0, .int .i64 0, .slice Gx3 0 Gy3, .slice Gx4 0 Gy4, .slice Gx5 N1 Gy5, .slice Gx6 N1 Gy6, .slice Gx7 0 Gy7, .slice Gx8 0 Gy8, .slice Gx9 N1 Gy9]) := HBg6.out.stays hb7
  have HAg7 : Hid (WdAt x7 x4.heap.size M1 Gx1 Gy1 Gx2 Gy2 Gx3 Gy3 Gx5 Gy5 Gx6 Gy6 Gx9 Gy9 N1 lG) := HAg6.out.stays hb7
  have HC7 : Hid (ClRow x7 x3.heap.size (.slice (some ⟨g2, 0, none⟩) k k) l2) := HC6.out.stays hb7
  have hw7 : x6.heap.size ≤ x7.heap.size := hb7.size
  clear hb7 HB6 HBw6 HAw6 HBg6 HAg6 HC6 c0 c1 c2 c3 c4 c5 c6 c7 c8 c9 c10 d0 d1 d2 d3 d4 d5 d6 d7 d8 d9 d10
  go_wp2_with fail
  refine (HT.out _ HB7.out).mono ?_
  rintro e x8 ⟨⟨g3, l3, rfl, hr3, hm3, hz3⟩, hb8⟩
  have HC8 : Hid (ClRow x8 x7.heap.size (.slice (some ⟨g3, 0, none⟩) k k) l3 ∧ l3.map CE.u = l.map CE.u) := ⟨hr3, hm3⟩
  have HD8 : Hid (ClRow x8 x3.heap.size (.slice (some ⟨g2, 0, none⟩) k k) l2) := HC7.out.stays hb8
  have HB78 : Hid (Below x7.heap.size x7 x8) := hb8
  clear hr3 hm3 hz3 hb8 HC7
  go_wp2_with fail
  refine (eqClientS_same (some ⟨g2, 0, none⟩) k k x3.heap.size l2 (some ⟨g3, 0, none⟩) k k x7.heap.size l3 x8 HD8.out HC8.out.1 (HLk.out l2 HC4.out.2.1) (HLk.out l3 HC8.out.2) (by rw [HC4.out.2.1, HC8.out.2]) (by omega) (fun e he' => Nat.le_trans (HC4.out.2.2 e he') (by decide))).mono ?_
  rintro e x9 ⟨rfl, hb9⟩
  have h79 : Below x7.heap.size x7 x9 := HB78.out.trans (hb9.mono HB78.out.size)
  have HB9 : Hid (Below w.heap.size w x9) := HB7.out.trans (h79.mono HB7.out.size)
  have HBw9 : Hid (BoxN x9 bw 38 [.slice Wx1 M1 Wy1, .slice Wx2 M1 Wy2, .int .i64 0, .int .i64 0, .slice Wx3 0 Wy3, .slice Wx4 0 Wy4, .slice Wx5 N1 Wy5, .slice Wx6 N1 Wy6, .slice Wx7 0 Wy7, .slice Wx8 0 Wy8, .slice Wx9 N1 Wy9]) := HBw7.out.stays h79
  have HAw9 : Hid (WdAt x9 x1.heap.size M1 Wx1 Wy1 Wx2 Wy2 Wx3 Wy3 Wx5 Wy5 Wx6 Wy6 Wx9 Wy9 N1 lW) := HAw7.out.stays h79
  have HBg9 : Hid (BoxN x9 bg 38 [.slice Gx1 M1 Gy1, .slice Gx2 M1 Gy2, .int .i64 0, .int .i64 0, .slice Gx3 0 Gy3, .slice Gx4 0 Gy4, .slice Gx5 N1 Gy5, .slice Gx6 N1 Gy6, .slice Gx7 0 Gy7, .slice Gx8 0 Gy8, .slice Gx9 N1 Gy9]) := HBg7.out.stays h79
  have HAg9 : Hid (WdAt x9 x4.heap.size M1 Gx1 Gy1 Gx2 Gy2 Gx3 Gy3 Gx5 Gy5 Gx6 Gy6 Gx9 Gy9 N1 lG) := HAg7.out.stays h79
  have HC9 : Hid (ClRow x9 x3.heap.size (.slice (some ⟨g2, 0, none⟩) k k) l2) := HD8.out.stays hb9
  have hw9 : x7.heap.size ≤ x9.heap.size := h79.size
  clear hb9 h79 HB78 HC8 HD8 HB7 HBw7 HAw7 HBg7 HAg7
  go_wp2_with fail
  have hmc : mkCEnd 1 l2 ≤ 1200000000000 := by
    have h1 := mkCEnd_le 1 1048576 l2 HC4.out.2.2
    have h2 := HLk.out l2 HC4.out.2.1
    have h3 : (3 + 1048576) * l2.length ≤ (3 + 1048576) * 1048576 := Nat.mul_le_mul_left _ (by omega)
    omega
  refine (markClientS_any x3.heap.size (some ⟨g2, 0, none⟩) k k 1 l2 x9 HC9.out (HLk.out l2 HC4.out.2.1).symm (by omega) (by omega) x4.heap.size HI2.out).mono ?_
  rintro e x10 ⟨rfl, _, hw, _⟩
  obtain ⟨E2, hE2⟩ : ∃ E2, ((mkCEnd 1 l2 : Nat) : Int) = E2 := ⟨_, rfl⟩
  have hE2p : ¬ E2 < 0 := by omega
  have hE2d : decide (E2 < 0) = false := by simp; omega
  rw [hE2]
  have HB10 : Hid (Below w.heap.size w x10) := HB9.out.trans ((hw.below (by omega)).mono (by omega))
  have HBw10 : Hid (BoxN x10 bw 38 [.slice Wx1 M1 Wy1, .slice Wx2 M1 Wy2, .int .i64 0, .int .i64 0, .slice Wx3 0 Wy3, .slice Wx4 0 Wy4, .slice Wx5 N1 Wy5, .slice Wx6 N1 Wy6, .slice Wx7 0 Wy7, .slice Wx8 0 Wy8, .slice Wx9 N1 Wy9]) := (hw.block _ HBw9.out.lt (.inl hw3)).trans HBw9.out
  have HAw10 : Hid (WdAt x10 x1.heap.size M1 Wx1 Wy1 Wx2 Wy2 Wx3 Wy3 Wx5 Wy5 Wx6 Wy6 Wx9 Wy9 N1 lW) := HAw9.out.out HIw.out hw (.inl (by omega))
  have HBg10 : Hid (BoxN x10 bg 38 [.slice Gx1 M1 Gy1, .slice Gx2 M1 Gy2, .int .i64 0, .int .i64 0, .slice Gx3 0 Gy3, .slice Gx4 0 Gy4, .slice Gx5 N1 Gy5, .slice Gx6 N1 Gy6, .slice Gx7 0 Gy7, .slice Gx8 0 Gy8, .slice Gx9 N1 Gy9]) := (hw.block _ HBg9.out.lt (.inr hw5)).trans HBg9.out
  have HAg10 : Hid (WdAt x10 x4.heap.size M1 Gx1 Gy1 Gx2 Gy2 Gx3 Gy3 Gx5 Gy5 Gx6 Gy6 Gx9 Gy9 N1 lG) := HAg9.out.out HIg.out hw (.inr (Nat.le_refl _))
  have hw10 : x9.heap.size ≤ x10.heap.size := hw.size
  clear hw hmc hE2 HB9 HBw9 HAw9 HBg9 HAg9 HC9 HI2 HC4
  obtain ⟨c0, c1, c2, c3, c4, c5, c6, c7, c8, c9, c10⟩ := (show _ ∧ _ ∧ _ ∧ _ ∧ _ ∧ _ ∧ _ ∧ _ ∧ _ ∧ _ ∧ _ from ⟨HBw10.out.cell 0 rfl, HBw10.out.cell 1 rfl, HBw10.out.cell 2 rfl, HBw10.out.cell 3 rfl, HBw10.out.cell 4 rfl, HBw10.out.cell 5 rfl, HBw10.out.cell 6 rfl, HBw10.out.cell 7 rfl, HBw10.out.cell 8 rfl, HBw10.out.cell 9 rfl, HBw10.out.cell 10 rfl⟩)
  obtain ⟨d0, d1, d2, d3, d4, d5, d6, d7, d8, d9, d10⟩ := (show _ ∧ _ ∧ _ ∧ _ ∧ _ ∧ _ ∧ _ ∧ _ ∧ _ ∧ _ ∧ _ from ⟨HBg10.out.cell 0 rfl, HBg10.out.cell 1 rfl, HBg10.out.cell 2 rfl, HBg10.out.cell 3 rfl, HBg10.out.cell 4 rfl, HBg10.out.cell 5 rfl, HBg10.out.cell 6 rfl, HBg10.out.cell 7 rfl, HBg10.out.cell 8 rfl, HBg10.out.cell 9 rfl, HBg10.out.cell 10 rfl⟩)
  go_wp2_with fail
  refine (eqWd_any Gx1 Gx2 Gx3 Gx4 Gx5 Gx6 Gx7 Gx8 Gx9 Gy1 Gy2 Gy3 Gy4 Gy5 Gy6 Gy7 Gy8 Gy9 Wx1 Wx2 Wx3 Wx4 Wx5 Wx6 Wx7 Wx8 Wx9 Wy1 Wy2 Wy3 Wy4 Wy5 Wy6 Wy7 Wy8 Wy9 M1 N1 x4.heap.size x1.heap.size lG lW x10 HAg10.out HAw10.out (by rw [HU5.out, HU2.out]) hM1b hN1b (HZ1.out lG x10 _ _ HAg10.out.cls HU5.out)).mono ?_
  rintro e x11 ⟨rfl, hb11⟩
  have HB11 : Hid (Below w.heap.size w x11) := HB10.out.trans (hb11.mono HB10.out.size)
  have HBw11 : Hid (BoxN x11 bw 38 [.slice Wx1 M1 Wy1, .slice Wx2 M1 Wy2, .int .i64 0, .int .i64 0, .slice Wx3 0 Wy3, .slice Wx4 0 Wy4, .slice Wx5 N1 Wy5, .slice Wx6 N1 Wy6, .slice Wx7 0 Wy7, .slice Wx8 0 Wy8, .slice Wx9 N1 Wy9]) := HBw10.out.stays hb11
  have HAw11 : Hid (WdAt x11 x1.heap.size M1 Wx1 Wy1 Wx2 Wy2 Wx3 Wy3 Wx5 Wy5 Wx6 Wy6 Wx9 Wy9 N1 lW) := HAw10.out.stays hb11
  have HBg11 : Hid (BoxN x11 bg 38 [.slice Gx1 M1 Gy1, .slice Gx2 M1 Gy2, .int .i64 0, .int .i64 0, .slice Gx3 0 Gy3, .slice Gx4 0 Gy4, .slice Gx5 N1 Gy5, .slice Gx6 N1 Gy6, .slice Gx7 0 Gy7, .slice Gx8 0 Gy8, .slice Gx9 N1 Gy9]) := HBg10.out.stays hb11
  have HAg11 : Hid (WdAt x11 x4.heap.size M1 Gx1 Gy1 Gx2 Gy2 Gx3 Gy3 Gx5 Gy5 Gx6 Gy6 Gx9 Gy9 N1 lG) := HAg10.out.stays hb11
  have hw11 : x10.heap.size ≤ x11.heap.size := hb11.size
  clear hb11 HB10 HBw10 HAw10 HBg10 HAg10 c0 c1 c2 c3 c4 c5 c6 c7 c8 c9 c10 d0 d1 d2 d3 d4 d5 d6 d7 d8 d9 d10
  obtain ⟨d0, d1, d2, d3, d4, d5, d6, d7, d8, d9, d10⟩ := (show _ ∧ _ ∧ _ ∧ _ ∧ _ ∧ _ ∧ _ ∧ _ ∧ _ ∧ _ ∧ _ from ⟨HBg11.out.cell 0 rfl, HBg11.out.cell 1 rfl, HBg11.out.cell 2 rfl, HBg11.out.cell 3 rfl, HBg11.out.cell 4 rfl, HBg11.out.cell 5 rfl, HBg11.out.cell 6 rfl, HBg11.out.cell 7 rfl, HBg11.out.cell 8 rfl, HBg11.out.cell 9 rfl, HBg11.out.cell 10 rfl⟩)
  go_wp2_with fail
  refine (markWd_any Gx1 Gx2 Gx3 Gx4 Gx5 Gx6 Gx7 Gx8 Gx9 Gy1 Gy2 Gy3 Gy4 Gy5 Gy6 Gy7 Gy8 Gy9 M1 N1 x4.heap.size lG x11 HAg11.out hM1b hN1b (HZ1.out lG x11 _ _ HAg11.out.cls HU5.out) bg HIg.out (by omega)).mono ?_
  rintro e x12 ⟨rfl, hmk, hw⟩
  have HB12 : Hid (Below w.heap.size w x12) := HB11.out.trans ((hw.below (by omega)).mono (by omega))
  have HBw12 : Hid (BoxN x12 bw 38 [.slice Wx1 M1 Wy1, .slice Wx2 M1 Wy2, .int .i64 0, .int .i64 0, .slice Wx3 0 Wy3, .slice Wx4 0 Wy4, .slice Wx5 N1 Wy5, .slice Wx6 N1 Wy6, .slice Wx7 0 Wy7, .slice Wx8 0 Wy8, .slice Wx9 N1 Wy9]) := (hw.block _ HBw11.out.lt (.inl (by omega))).trans HBw11.out
  have HAw12 : Hid (WdAt x12 x1.heap.size M1 Wx1 Wy1 Wx2 Wy2 Wx3 Wy3 Wx5 Wy5 Wx6 Wy6 Wx9 Wy9 N1 lW) := HAw11.out.out HIw.out hw (.inl (by omega))
  have HBg12 : Hid (BoxN x12 bg 38 [.slice Gx1 M1 Gy1, .slice Gx2 M1 Gy2, .int .i64 0, .int .i64 0, .slice Gx3 0 Gy3, .slice Gx4 0 Gy4, .slice Gx5 N1 Gy5, .slice Gx6 N1 Gy6, .slice Gx7 0 Gy7, .slice Gx8 0 Gy8, .slice Gx9 N1 Gy9]) := (hw.block _ HBg11.out.lt (.inr (Nat.le_refl _))).trans HBg11.out
  have HMg12 : Hid (WdMkd x12 x4.heap.size M1 Gx1 Gy1 Gx2 Gy2 Gx3 Gy3 Gx5 Gy5 Gx6 Gy6 Gx9 Gy9 N1 lG) := hmk
  have hNl : N1 = lG.length := HAg11.out.len
  have HHd : Hid (∀ W, WdMkd W x4.heap.size M1 Gx1 Gy1 Gx2 Gy2 Gx3 Gy3 Gx5 Gy5 Gx6 Gy6 Gx9 Gy9 N1 lG → Calls Tryz.prog 12 #[.agg #[.slice Gx1 M1 Gy1, .slice Gx2 M1 Gy2, .int .i64 0, .int .i64 0, .slice Gx3 0 Gy3, .slice Gx4 0 Gy4, .slice Gx5 N1 Gy5, .slice Gx6 N1 Gy6, .slice Gx7 0 Gy7, .slice Gx8 0 Gy8, .slice Gx9 N1 Gy9], .int .i64 1] W fun e w' => e = .returned (.int .i64 (wdEnd M1 N1 lG : Int)) ∧ Below W.heap.size W w') := by
    have hz9 := HZ1.out lG x11 _ _ HAg11.out.cls HU5.out
    exact fun W h => heldWd_any Gx1 Gx2 Gx3 Gx4 Gx5 Gx6 Gx7 Gx8 Gx9 Gy1 Gy2 Gy3 Gy4 Gy5 Gy6 Gy7 Gy8 Gy9 M1 N1 x4.heap.size lG W h hNl hM1b hN1b hz9
  clear hmk hw HB11 HBw11 HAw11 HBg11 HAg11 hNl d0 d1 d2 d3 d4 d5 d6 d7 d8 d9 d10
  generalize hq : ((wdEnd M1 N1 lG : Nat) : Int) = qe at *
  have hqp : ¬ qe < 0 := by omega
  have hqd : decide (qe < 0) = false := by simp; omega
  have hqe : (qe != qe) = false := by simp
  clear hq
  obtain ⟨d0, d1, d2, d3, d4, d5, d6, d7, d8, d9, d10⟩ := (show _ ∧ _ ∧ _ ∧ _ ∧ _ ∧ _ ∧ _ ∧ _ ∧ _ ∧ _ ∧ _ from ⟨HBg12.out.cell 0 rfl, HBg12.out.cell 1 rfl, HBg12.out.cell 2 rfl, HBg12.out.cell 3 rfl, HBg12.out.cell 4 rfl, HBg12.out.cell 5 rfl, HBg12.out.cell 6 rfl, HBg12.out.cell 7 rfl, HBg12.out.cell 8 rfl, HBg12.out.cell 9 rfl, HBg12.out.cell 10 rfl⟩)
  go_wp2_with fail
  refine (HHd.out _ HMg12.out).mono ?_
  rintro e x13 ⟨rfl, hb13⟩
  have HB13 : Hid (Below w.heap.size w x13) := HB12.out.trans (hb13.mono HB12.out.size)
  have HBw13 : Hid (BoxN x13 bw 38 [.slice Wx1 M1 Wy1, .slice Wx2 M1 Wy2, .int .i64 0, .int .i64 0, .slice Wx3 0 Wy3, .slice Wx4 0 Wy4, .slice Wx5 N1 Wy5, .slice Wx6 N1 Wy6, .slice Wx7 0 Wy7, .slice Wx8 0 Wy8, .slice Wx9 N1 Wy9]) := HBw12.out.stays hb13
  have HAw13 : Hid (WdAt x13 x1.heap.size M1 Wx1 Wy1 Wx2 Wy2 Wx3 Wy3 Wx5 Wy5 Wx6 Wy6 Wx9 Wy9 N1 lW) := HAw12.out.stays hb13
  have HBg13 : Hid (BoxN x13 bg 38 [.slice Gx1 M1 Gy1, .slice Gx2 M1 Gy2, .int .i64 0, .int .i64 0, .slice Gx3 0 Gy3, .slice Gx4 0 Gy4, .slice Gx5 N1 Gy5, .slice Gx6 N1 Gy6, .slice Gx7 0 Gy7, .slice Gx8 0 Gy8, .slice Gx9 N1 Gy9]) := HBg12.out.stays hb13
  have HMg13 : Hid (WdMkd x13 x4.heap.size M1 Gx1 Gy1 Gx2 Gy2 Gx3 Gy3 Gx5 Gy5 Gx6 Gy6 Gx9 Gy9 N1 lG) := HMg12.out.stays hb13
  clear hb13 HB12 HBw12 HAw12 HBg12 HMg12 d0 d1 d2 d3 d4 d5 d6 d7 d8 d9 d10
  go_wp2_with fail
  refine (HT.out _ HB13.out).mono ?_
  rintro e x14 ⟨⟨g4, l4, rfl, hr4, hm4, hz4⟩, hb14⟩
  have HB14 : Hid (Below w.heap.size w x14) := HB13.out.trans (hb14.mono HB13.out.size)
  have HC14 : Hid (ClRow x14 x13.heap.size (.slice (some ⟨g4, 0, none⟩) k k) l4 ∧ l4.map CE.u = l.map CE.u ∧ ∀ e ∈ l4, e.n ≤ 1048576) := ⟨hr4, hm4, hz4⟩
  have H1314 : Hid (Below x13.heap.size x13 x14) := hb14
  clear hr4 hm4 hz4 hb14 HT
  go_wp2_with fail
  refine (HIm.out _ _ _ _ HB14.out HC14.out.1 HC14.out.2.1 HC14.out.2.2).mono ?_
  rintro e x15 ⟨⟨v, rfl, hv⟩, hb15⟩
  obtain ⟨Jx1, Jy1, Jx2, Jy2, Jx3, Jy3, Jx4, Jy4, Jx5, Jy5, Jx6, Jy6, Jx7, Jy7, Jx8, Jy8, Jx9, Jy9, N', lJ, rfl, hAt, hm, hN'⟩ := hv
  obtain rfl : N1 = N' := by rw [hN', hN1]
  have HU15 : Hid (lJ.map CE.u = U1) := hm
  obtain ⟨x16, hx16⟩ : ∃ x16, x15.alloc (.cells #[.slice Jx1 M1 Jy1, .slice Jx2 M1 Jy2, .int .i64 0, .int .i64 0, .slice Jx3 0 Jy3, .slice Jx4 0 Jy4, .slice Jx5 N1 Jy5, .slice Jx6 N1 Jy6, .slice Jx7 0 Jy7, .slice Jx8 0 Jy8, .slice Jx9 N1 Jy9] 38) = x16 := ⟨_, rfl⟩
  obtain ⟨bh, hbh⟩ : ∃ bh, x15.heap.size = bh := ⟨_, rfl⟩
  have h1516 : Below x15.heap.size x15 x16 := by rw [← hx16]; exact (Below.refl _ _).alloc (Nat.le_refl _) _
  have HE16 : Hid (x15.alloc (.cells #[.slice Jx1 M1 Jy1, .slice Jx2 M1 Jy2, .int .i64 0, .int .i64 0, .slice Jx3 0 Jy3, .slice Jx4 0 Jy4, .slice Jx5 N1 Jy5, .slice Jx6 N1 Jy6, .slice Jx7 0 Jy7, .slice Jx8 0 Jy8, .slice Jx9 N1 Jy9] 38) = x16 ∧ x15.heap.size = bh) := ⟨hx16, hbh⟩
  have h1316 : Below x13.heap.size x13 x16 := H1314.out.trans ((hb15.trans (h1516.mono hb15.size)).mono H1314.out.size)
  have HBh16 : Hid (BoxN x16 bh 38 [.slice Jx1 M1 Jy1, .slice Jx2 M1 Jy2, .int .i64 0, .int .i64 0, .slice Jx3 0 Jy3, .slice Jx4 0 Jy4, .slice Jx5 N1 Jy5, .slice Jx6 N1 Jy6, .slice Jx7 0 Jy7, .slice Jx8 0 Jy8, .slice Jx9 N1 Jy9]) := by show BoxN _ _ _ _; rw [← hx16, ← hbh]; exact BoxN.new _ _ _
  have HAh16 : Hid (WdAt x16 x14.heap.size M1 Jx1 Jy1 Jx2 Jy2 Jx3 Jy3 Jx5 Jy5 Jx6 Jy6 Jx9 Jy9 N1 lJ) := hAt.stays h1516
  have HB16 : Hid (Below w.heap.size w x16) := HB13.out.trans (h1316.mono HB13.out.size)
  have HBw16 : Hid (BoxN x16 bw 38 [.slice Wx1 M1 Wy1, .slice Wx2 M1 Wy2, .int .i64 0, .int .i64 0, .slice Wx3 0 Wy3, .slice Wx4 0 Wy4, .slice Wx5 N1 Wy5, .slice Wx6 N1 Wy6, .slice Wx7 0 Wy7, .slice Wx8 0 Wy8, .slice Wx9 N1 Wy9]) := HBw13.out.stays h1316
  have HAw16 : Hid (WdAt x16 x1.heap.size M1 Wx1 Wy1 Wx2 Wy2 Wx3 Wy3 Wx5 Wy5 Wx6 Wy6 Wx9 Wy9 N1 lW) := HAw13.out.stays h1316
  have HBg16 : Hid (BoxN x16 bg 38 [.slice Gx1 M1 Gy1, .slice Gx2 M1 Gy2, .int .i64 0, .int .i64 0, .slice Gx3 0 Gy3, .slice Gx4 0 Gy4, .slice Gx5 N1 Gy5, .slice Gx6 N1 Gy6, .slice Gx7 0 Gy7, .slice Gx8 0 Gy8, .slice Gx9 N1 Gy9]) := HBg13.out.stays h1316
  have HMg16 : Hid (WdMkd x16 x4.heap.size M1 Gx1 Gy1 Gx2 Gy2 Gx3 Gy3 Gx5 Gy5 Gx6 Gy6 Gx9 Gy9 N1 lG) := HMg13.out.stays h1316
  clear hAt hm hN' hx16 hbh h1516 h1316 hb15 H1314 HB13 HB14 HC14 HBw13 HAw13 HBg13 HMg13 HIm
  go_upto_region 25 with fail
  rw [HE16.out.1, HE16.out.2]
  clear HE16
  obtain ⟨c0, c1, c2, c3, c4, c5, c6, c7, c8, c9, c10⟩ := (show _ ∧ _ ∧ _ ∧ _ ∧ _ ∧ _ ∧ _ ∧ _ ∧ _ ∧ _ ∧ _ from ⟨HBw16.out.cell 0 rfl, HBw16.out.cell 1 rfl, HBw16.out.cell 2 rfl, HBw16.out.cell 3 rfl, HBw16.out.cell 4 rfl, HBw16.out.cell 5 rfl, HBw16.out.cell 6 rfl, HBw16.out.cell 7 rfl, HBw16.out.cell 8 rfl, HBw16.out.cell 9 rfl, HBw16.out.cell 10 rfl⟩)
  obtain ⟨d0, d1, d2, d3, d4, d5, d6, d7, d8, d9, d10⟩ := (show _ ∧ _ ∧ _ ∧ _ ∧ _ ∧ _ ∧ _ ∧ _ ∧ _ ∧ _ ∧ _ from ⟨HBh16.out.cell 0 rfl, HBh16.out.cell 1 rfl, HBh16.out.cell 2 rfl, HBh16.out.cell 3 rfl, HBh16.out.cell 4 rfl, HBh16.out.cell 5 rfl, HBh16.out.cell 6 rfl, HBh16.out.cell 7 rfl, HBh16.out.cell 8 rfl, HBh16.out.cell 9 rfl, HBh16.out.cell 10 rfl⟩)
  go_wp2_with fail
  refine (eqWd_any Jx1 Jx2 Jx3 Jx4 Jx5 Jx6 Jx7 Jx8 Jx9 Jy1 Jy2 Jy3 Jy4 Jy5 Jy6 Jy7 Jy8 Jy9 Wx1 Wx2 Wx3 Wx4 Wx5 Wx6 Wx7 Wx8 Wx9 Wy1 Wy2 Wy3 Wy4 Wy5 Wy6 Wy7 Wy8 Wy9 M1 N1 x14.heap.size x1.heap.size lJ lW x16 HAh16.out HAw16.out (by rw [HU15.out, HU2.out]) hM1b hN1b (HZ1.out lJ x16 _ _ HAh16.out.cls HU15.out)).mono ?_
  rintro e x17 ⟨rfl, hb17⟩
  have HB17 : Hid (Below w.heap.size w x17) := HB16.out.trans (hb17.mono HB16.out.size)
  have HBg17 : Hid (BoxN x17 bg 38 [.slice Gx1 M1 Gy1, .slice Gx2 M1 Gy2, .int .i64 0, .int .i64 0, .slice Gx3 0 Gy3, .slice Gx4 0 Gy4, .slice Gx5 N1 Gy5, .slice Gx6 N1 Gy6, .slice Gx7 0 Gy7, .slice Gx8 0 Gy8, .slice Gx9 N1 Gy9]) := HBg16.out.stays hb17
  have HMg17 : Hid (WdMkd x17 x4.heap.size M1 Gx1 Gy1 Gx2 Gy2 Gx3 Gy3 Gx5 Gy5 Gx6 Gy6 Gx9 Gy9 N1 lG) := HMg16.out.stays hb17
  clear hb17 HB16 HBw16 HAw16 HBg16 HMg16 HBh16 HAh16 c0 c1 c2 c3 c4 c5 c6 c7 c8 c9 c10 d0 d1 d2 d3 d4 d5 d6 d7 d8 d9 d10
  obtain ⟨d0, d1, d2, d3, d4, d5, d6, d7, d8, d9, d10⟩ := (show _ ∧ _ ∧ _ ∧ _ ∧ _ ∧ _ ∧ _ ∧ _ ∧ _ ∧ _ ∧ _ from ⟨HBg17.out.cell 0 rfl, HBg17.out.cell 1 rfl, HBg17.out.cell 2 rfl, HBg17.out.cell 3 rfl, HBg17.out.cell 4 rfl, HBg17.out.cell 5 rfl, HBg17.out.cell 6 rfl, HBg17.out.cell 7 rfl, HBg17.out.cell 8 rfl, HBg17.out.cell 9 rfl, HBg17.out.cell 10 rfl⟩)
  go_wp2_with fail
  refine (HHd.out _ HMg17.out).mono ?_
  rintro e x18 ⟨rfl, hb18⟩
  have HB18 : Hid (Below w.heap.size w x18) := HB17.out.trans (hb18.mono HB17.out.size)
  clear hb18 d0 d1 d2 d3 d4 d5 d6 d7 d8 d9 d10
  go_wp2_with fail
  go_ret
  exact ⟨rfl, HB18.out⟩

end Go.Proofs.YtemcjenpgdieoaaGreatDoor

namespace Go.Proofs.YtemcjenpgdieoaaGreatDoor
open Go.RowKit Go.ChangeShapes Go.WideShapes
set_option linter.unusedVariables false

/-- A row of the table, as it is read. -/
def rcD {H : Type} (k : Nat) : DataW H := .agg [.lit (.int .i64 (rMost k)), .lit (.int .i64 (rLo k)), .lit (.int .i64 (rHi k))]

/-- The table, as it is read. -/
def rcTabD {H : Type} : DataW H := .agg ((List.range 5).map rcD)

theorem rcInt_of {H : Type} {enc : TypeId × Value → H} {w : World} {base fuel : Nat} {sp : Nat → Bool} {held : Bool} {x : Value} {n : Int} {p : List MemPlace}
    (h : DataW.trod enc Tryz.prog w base sp held fuel 3 [x] = some (.lit (.int .i64 n), p)) : x = .int .i64 n := by
  obtain ⟨z, e1, e2, _⟩ := DataW.trod_int Tryz.underlying3 h
  simp only [Prod.mk.injEq, DataW.lit.injEq, Lit.int.injEq] at e2
  rw [e2.1.2]
  simpa using e1

theorem rcCellsE : Tryz.prog.cellsOf 184 = 3 := by kernel_rfl
theorem rcCellsI : Tryz.prog.cellsOf 3 = 1 := by kernel_rfl
theorem rcCellsT : Tryz.prog.cellsOf 185 = 15 := by kernel_rfl

theorem rcThree {l : List Value} (h : l.length = 3) : ∃ a b c, l = [a, b, c] := by
  rcases l with _ | ⟨a, _ | ⟨b, _ | ⟨c, _ | ⟨d, r⟩⟩⟩⟩
  · cases h
  · cases h
  · cases h
  · exact ⟨a, b, c, rfl⟩
  · exact absurd h (by simp)

theorem rcRow_of {H : Type} {enc : TypeId × Value → H} {w : World} {base fuel : Nat} {sp : Nat → Bool} {held : Bool} {cs : List Value} {k : Nat} {p : List MemPlace}
    (h : DataW.trod enc Tryz.prog w base sp held fuel 184 cs = some (rcD k, p)) : cs = [.int .i64 (rMost k), .int .i64 (rLo k), .int .i64 (rHi k)] := by
  cases fuel with
  | zero => simp [DataW.trod] at h
  | succ fuel =>
    simp only [DataW.trod, Tryz.underlying184, rcCellsE] at h
    split at h
    · rename_i hl
      obtain ⟨a, b, c, rfl⟩ := rcThree hl
      simp [rcCellsI, rcD, Option.bind_eq_some_iff] at h
      obtain ⟨r1, p1, h1, l, ⟨r2, p2, h2, l2, ⟨r3, p3, h3, rfl⟩, rfl⟩, ⟨e1, e2⟩, _⟩ := h
      simp at e2
      obtain ⟨e2, e3⟩ := e2
      subst e1 e2 e3
      rw [rcInt_of h1, rcInt_of h2, rcInt_of h3]
    · cases h

theorem rcG : Tryz.prog.globalNamed "loop.example/g00199/impl.recForms" = some 1 := by kernel_rfl
theorem rcGT : (Tryz.prog.globals[1]?).map (·.type) = some 185 := by kernel_rfl

theorem recT_of_laid {W : World} {rest : List (String × DataW Unit)} (h : laidMet Tryz.prog (("loop.example/g00199/impl.recForms", rcTabD) :: rest) W) : RecT W := by
  obtain ⟨ps, ⟨g', t', cs, fuel, p, q, hg', ht', hvar, hd, _, _⟩, _⟩ := h
  obtain rfl := Option.some.inj (rcG.symm.trans hg')
  obtain rfl := Option.some.inj (rcGT.symm.trans ht')
  have hcell := fun i => World.var?_cell rcG hvar i
  have hrow : ∀ k, k < 5 → (cs.toList.drop (k * 3)).take 3 = [.int .i64 (rMost k), .int .i64 (rLo k), .int .i64 (rHi k)] := by
    intro k hk
    cases fuel with
    | zero => simp [DataW.trod] at hd
    | succ fuel =>
      simp only [DataW.trod, Tryz.underlying185, rcCellsE, rcCellsT] at hd
      split at hd
      · obtain ⟨xs, hm, hx⟩ := Option.map_eq_some_iff.1 hd
        have hxs : xs.map (·.1) = (List.range 5).map rcD := by
          have := congrArg Prod.fst hx
          simpa [rcTabD] using this
        obtain ⟨b, hb, hf⟩ := Lib.mapM_at hm k k (by simp [hk])
        have h2 : (xs.map (·.1))[k]? = some b.1 := by simp [hb]
        rw [hxs, List.getElem?_map, List.getElem?_range hk] at h2
        simp only [Option.map_some, Option.some.injEq] at h2
        obtain ⟨b1, b2⟩ := b
        dsimp only at h2
        subst h2
        exact rcRow_of hf
      · cases hd
  refine ⟨?_, fun k hk => ?_⟩
  · have h0 := hrow 0 (by omega)
    have := hcell 0
    have h1 : cs[0]? = some (.int .i64 (rMost 0)) := by
      have := congrArg (·[0]?) h0
      simpa using this
    rw [h1] at this
    exact lt_of_cell this
  · have h0 := hrow k (by omega)
    rw [hcell, hcell, hcell]
    have h1 := congrArg (·[0]?) h0
    have h2 := congrArg (·[1]?) h0
    have h3 := congrArg (·[2]?) h0
    simp only [List.getElem?_take, List.getElem?_drop] at h1 h2 h3
    simp at h1 h2 h3
    exact ⟨h1, h2, h3⟩

end Go.Proofs.YtemcjenpgdieoaaGreatDoor
