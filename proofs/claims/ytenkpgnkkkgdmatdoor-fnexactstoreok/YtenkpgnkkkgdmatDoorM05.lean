/- Uploads that come in: their cells, their bytes wherever they lie. An upload written into a row. No program in it but its table of types. The comparison of bytes that the laws call. For slices of at most 2^40 bytes. What the functions that the laws call do to the world: the copy of bytes. Each for slices of at most 2^40 bytes. A region that draws its order, whose operations only read and whose callees leave all that was there: walked once, in the order of the text. No program in it. -/
import Derived.Test.YtenkpgnkkkgdmatDoorM03
import Derived.Test.YtenkpgnkkkgdmatDoorM04
import Derived.OpenShut
import Derived.ChangeOld
import Derived.WalkKit
import Derived.ProofKit
import Derived.Deep.SlicePairs
import Derived.Test.YtenkpgnkkkgdmatDoorRows
import Derived.Test.YtenkpgnkkkgdmatDoorM01
import Derived.Deep.QuietTactic
import Derived.BigQuiet
namespace Go.Proofs.YtenkpgnkkkgdmatDoor
open Go.RowKit Go.ChangeShapes Go.WideShapes Go.Joins Go.Deep
set_option linter.unusedVariables false

/-- The slice (a, n) names these uploads. -/
def UpsI (w : World) (a : Option Addr) (n : Nat) (l : List UE) : Prop :=
  l.length = n ∧ (∀ e ∈ l, e.u.id.size ≤ maxLen ∧ e.n ≤ maxLen ∧ Seg w e.a e.n e.u.zs) ∧
  (n = 0 ∨ ∃ b off, a = some ⟨b, off, none⟩ ∧ b < w.heap.size ∧ ∀ i (hi : i < l.length), w.cell? ⟨b, off + i * 4, none⟩ = some (.string (l[i]).u.id) ∧ w.cell? ⟨b, off + i * 4 + 1, none⟩ = some (.int .i64 (l[i]).u.want) ∧ w.cell? ⟨b, off + i * 4 + 2, none⟩ = some (.slice (l[i]).a (l[i]).n (l[i]).c) ∧ w.cell? ⟨b, off + i * 4 + 3, none⟩ = some (.bool (l[i]).u.done))

theorem UpsI.below {w w' : World} {a : Option Addr} {n : Nat} {l : List UE} (h : UpsI w a n l) (hb : Below w.heap.size w w') : UpsI w' a n l := by
  obtain ⟨h1, h2, h3⟩ := h
  refine ⟨h1, fun e he => ⟨(h2 e he).1, (h2 e he).2.1, (h2 e he).2.2.below hb⟩, ?_⟩
  rcases h3 with h3 | ⟨b, off, rfl, hlt, hc⟩
  · exact .inl h3
  · refine .inr ⟨b, off, rfl, Nat.lt_of_lt_of_le hlt hb.size, fun i hi => ?_⟩
    obtain ⟨c0, c1, c2, c3⟩ := hc i hi
    exact ⟨(hb.cell (p := ⟨b, _, none⟩) hlt).trans c0, (hb.cell (p := ⟨b, _, none⟩) hlt).trans c1, (hb.cell (p := ⟨b, _, none⟩) hlt).trans c2, (hb.cell (p := ⟨b, _, none⟩) hlt).trans c3⟩

theorem UpsI.at {w : World} {a : Option Addr} {n : Nat} {l : List UE} (h : UpsI w a n l) {i : Nat} (hi : i < l.length) :
    ∃ b off, a = some ⟨b, off, none⟩ ∧ b < w.heap.size ∧ w.cell? ⟨b, off + i * 4, none⟩ = some (.string (l[i]).u.id) ∧ w.cell? ⟨b, off + i * 4 + 1, none⟩ = some (.int .i64 (l[i]).u.want) ∧ w.cell? ⟨b, off + i * 4 + 2, none⟩ = some (.slice (l[i]).a (l[i]).n (l[i]).c) ∧ w.cell? ⟨b, off + i * 4 + 3, none⟩ = some (.bool (l[i]).u.done) := by
  obtain ⟨h1, h2, h3⟩ := h
  rcases h3 with h3 | ⟨b, off, rfl, hlt, hc⟩
  · omega
  · exact ⟨b, off, rfl, hlt, hc i hi⟩

set_option maxRecDepth 100000 in
theorem up_cells {H : Type} {enc : TypeId × Value → H} {w : World} {n : Nat} {cs : List Value} {x : DataW H × List MemPlace} (h : DataW.trod enc Tryd.prog w 0 (fun _ => true) true n 101 cs = some x) :
    ∃ e : UE, cs = e.cells ∧ e.u.id.size ≤ maxLen ∧ e.n ≤ maxLen ∧ Seg w e.a e.n e.u.zs := by
  obtain ⟨xs, m, _, _, hl, hlen, hg⟩ := DataW.trod_struct Tryd.underlying101 h
  have hC : Tryd.prog.cellsOf 101 = 4 := by kernel_rfl
  rw [hC] at hl
  have k3 : Tryd.prog.cellsOf 3 = 1 := by kernel_rfl
  have k4 : Tryd.prog.cellsOf 4 = 1 := by kernel_rfl
  have k9 : Tryd.prog.cellsOf 9 = 1 := by kernel_rfl
  have kb : Tryd.prog.cellsOf 54 = 1 := by kernel_rfl
  match xs, hlen, cs, hl with
  | [y0, y1, y2, y3], _, [v0, v1, v2, v3], _ =>
    have g0 := hg 0 _ rfl
    have g1 := hg 1 _ rfl
    have g2 := hg 2 _ rfl
    have g3 := hg 3 _ rfl
    simp [k3, k4, k9, kb] at g0 g1 g2 g3
    obtain ⟨s, e0, _, z0⟩ := DataW.trod_string Tryd.underlying9 g0
    obtain ⟨i, e1, _, _⟩ := DataW.trod_int Tryd.underlying3 g1
    obtain ⟨b, e3, _⟩ := DataW.trod_bool Tryd.underlying4 g3
    obtain ⟨a, len, cap, zs, e2, _, hlm, hs⟩ := bytes_opened g2
    refine ⟨⟨⟨s, i, zs, b⟩, a, len, cap⟩, ?_, z0, hlm, hs⟩
    simp only [List.cons.injEq, and_true] at e0 e1 e3
    rw [UE.cells, e0, e1, e2, e3]

theorem UpsI.opened {H : Type} {enc : TypeId × Value → H} {w : World} {fuel : Nat} {v : Value} {x : DataW H × List MemPlace} (h : DataW.trod enc Tryd.prog w 0 (fun _ => true) true fuel 43 [v] = some x) :
    ∃ a len cap l, v = .slice a len cap ∧ len ≤ maxLen ∧ UpsI w a len l := by
  rcases Go.Deep.open_slice Tryd.underlying43 h with ⟨hcs, _⟩ | ⟨a, len, cap, m, n, D, Pl, hcs, _, hl, hm, hmm, _, hc⟩
  · simp at hcs
    exact ⟨none, 0, 0, [], hcs, Nat.zero_le _, rfl, by simp, .inl rfl⟩
  · simp at hcs hmm
    subst hmm
    have hC : Tryd.prog.cellsOf 101 = 4 := by kernel_rfl
    rw [hC] at hc
    have hs : ∀ i, i < m → ∃ e : UE, (w.cell? (a.add (i * 4)) = some (.string e.u.id) ∧ w.cell? (a.add (i * 4 + 1)) = some (.int .i64 e.u.want) ∧ w.cell? (a.add (i * 4 + 2)) = some (.slice e.a e.n e.c) ∧ w.cell? (a.add (i * 4 + 3)) = some (.bool e.u.done)) ∧ e.u.id.size ≤ maxLen ∧ e.n ≤ maxLen ∧ Seg w e.a e.n e.u.zs := by
      intro i hi
      obtain ⟨cs', h1, h2⟩ := hc i hi
      obtain ⟨e, rfl, r⟩ := up_cells h2
      obtain ⟨_, hlen, hcell⟩ := World.cells?_some h1
      have e0 := hcell 0 (by omega)
      have e1 := hcell 1 (by omega)
      have e2 := hcell 2 (by omega)
      have e3 := hcell 3 (by omega)
      rw [Go.Deep.add_add] at e0 e1 e2 e3
      exact ⟨e, ⟨by simpa [UE.cells] using e0, by simpa [UE.cells] using e1, by simpa [UE.cells] using e2, by simpa [UE.cells] using e3⟩, r⟩
    refine ⟨some a, len, m, (List.range len).map fun i => if hi : i < m then Classical.choose (hs i hi) else ⟨⟨⟨#[]⟩, 0, [], false⟩, none, 0, 0⟩, hcs, by omega, by simp, ?_, ?_⟩
    · intro f hf
      obtain ⟨i, hi, rfl⟩ := List.mem_map.1 hf
      have him : i < m := by have := List.mem_range.1 hi; omega
      rw [dif_pos him]
      exact (Classical.choose_spec (hs i him)).2
    · by_cases h0 : len = 0
      · exact .inl h0
      · right
        obtain ⟨b, off, spot⟩ := a
        have hspot : spot = none := by simpa [Addr.add] using World.cell?_spot (Classical.choose_spec (hs 0 (by omega))).1.1
        subst hspot
        have key : ∀ i (hi : i < m), w.cell? ⟨b, off + i * 4, none⟩ = some (.string (Classical.choose (hs i hi)).u.id) ∧ w.cell? ⟨b, off + i * 4 + 1, none⟩ = some (.int .i64 (Classical.choose (hs i hi)).u.want) ∧ w.cell? ⟨b, off + i * 4 + 2, none⟩ = some (.slice (Classical.choose (hs i hi)).a (Classical.choose (hs i hi)).n (Classical.choose (hs i hi)).c) ∧ w.cell? ⟨b, off + i * 4 + 3, none⟩ = some (.bool (Classical.choose (hs i hi)).u.done) := by
          intro i hi
          obtain ⟨⟨q0, q1, q2, q3⟩, _⟩ := Classical.choose_spec (hs i hi)
          generalize Classical.choose (hs i hi) = e at *
          refine ⟨?_, ?_, ?_, ?_⟩
          · by_cases hi0 : i = 0
            · subst hi0
              simpa [Addr.add] using q0
            · simpa [Addr.add, show ¬ i * 4 = 0 by omega] using q0
          · simpa [Addr.add, Nat.add_assoc] using q1
          · simpa [Addr.add, Nat.add_assoc] using q2
          · simpa [Addr.add, Nat.add_assoc] using q3
        refine ⟨b, off, rfl, lt_of_cell (key 0 (by omega)).1, fun i hi => ?_⟩
        have hil : i < len := by simpa using hi
        have := key i (by omega)
        simpa [show i < m by omega] using this

end Go.Proofs.YtenkpgnkkkgdmatDoor

namespace Go.Proofs.YtenkpgnkkkgdmatDoor
open Go.RowKit
set_option linter.unusedVariables false

/-- An upload is written into a row of the call's own. -/
theorem ueCells_put (M D : List UE) (e x : UE) :
    ((((ueCells (M ++ e :: D)).set (M.length * 4) (.string x.u.id)).set (M.length * 4 + 1) (.int .i64 x.u.want)).set (M.length * 4 + 2) (.slice x.a x.n x.c)).set (M.length * 4 + 3) (.bool x.u.done) = ueCells (M ++ x :: D) := by
  have hl := ueCells_len M
  rw [ueCells_append, ueCells_append, ueCells_cons, ueCells_cons]
  rw [List.set_append_right _ _ (by omega), hl, Nat.sub_self, List.set_cons_zero]
  rw [List.set_append_right _ _ (by omega), hl, show M.length * 4 + 1 - M.length * 4 = 1 by omega]
  rw [List.set_append_right _ _ (by omega), hl, show M.length * 4 + 2 - M.length * 4 = 2 by omega]
  rw [List.set_append_right _ _ (by omega), hl, show M.length * 4 + 3 - M.length * 4 = 3 by omega]
  rfl

theorem OwnU.put {w : World} {base g n C : Nat} {M D : List UE} {e : UE} (h : OwnU w base (some ⟨g, 0, none⟩) n C (M ++ e :: D)) (x : UE) :
    OwnU ((((w.setCell ⟨g, M.length * 4, none⟩ (.string x.u.id)).setCell ⟨g, M.length * 4 + 1, none⟩ (.int .i64 x.u.want)).setCell ⟨g, M.length * 4 + 2, none⟩ (.slice x.a x.n x.c)).setCell ⟨g, M.length * 4 + 3, none⟩ (.bool x.u.done)) base (some ⟨g, 0, none⟩) n C (M ++ x :: D) ∧ w.grownBy ((((w.setCell ⟨g, M.length * 4, none⟩ (.string x.u.id)).setCell ⟨g, M.length * 4 + 1, none⟩ (.int .i64 x.u.want)).setCell ⟨g, M.length * 4 + 2, none⟩ (.slice x.a x.n x.c)).setCell ⟨g, M.length * 4 + 3, none⟩ (.bool x.u.done)) (some g) := by
  have h0 : w.ownsRow base 71 4 (.slice (some ⟨g, 0, none⟩) n C) n (ueCells (M ++ e :: D)) := h
  have h1 := h0.stored (M.length * 4) (.string x.u.id)
  have h2 := h1.1.stored (M.length * 4 + 1) (.int .i64 x.u.want)
  have h3 := h2.1.stored (M.length * 4 + 2) (.slice x.a x.n x.c)
  have h4 := h3.1.stored (M.length * 4 + 3) (.bool x.u.done)
  have h5 := h4.1
  rw [ueCells_put] at h5
  exact ⟨h5, World.grownBy.trans (World.grownBy.trans (World.grownBy.trans h1.2 h2.2) h3.2) h4.2⟩

end Go.Proofs.YtenkpgnkkkgdmatDoor

namespace Go.Proofs.YtenkpgnkkkgdmatDoor
open Go.RowKit
set_option linter.unusedVariables false

set_option maxHeartbeats 400000 in
theorem eqByteS_same (a b : Option Addr) (len ca cb : Nat) (xs : List Int) (w : World) (hx : Seg w a len xs) (hy : Seg w b len xs) (hla : len ≤ 1099511627776) :
    Calls Tryd.prog 68 #[.slice a len ca, .slice b len cb] w fun e w' => e = .returned (.bool true) ∧ ∃ n, w' = w.drewN n := by
  have HX : Hid (Seg w a len xs) := hx
  have HY : Hid (Seg w b len xs) := hy
  clear hx hy
  have hne : ((len : Int) != (len : Int)) = false := by simp
  go_enter Tryd.func68, Tryd.ntmps68
  go_wp2
  go_loopw [5] (fun i wr => ∃ k : Nat, k ≤ len ∧ i = .int .i64 k ∧ Hid (∃ n, wr = w.drewN n)) (fun i _ => len - (intOf i).toNat)
  case atStart => exact ⟨0, Nat.zero_le _, rfl, ⟨0, rfl⟩⟩
  case round =>
    obtain ⟨k, hk, rfl, HW⟩ := hrel
    by_cases hlt : k < len
    · obtain ⟨ba, oa, rfl, hba, hca⟩ : ∃ b off, a = some ⟨b, off, none⟩ ∧ b < w.heap.size ∧ ∀ i, i < len → w.cell? ⟨b, off + i, none⟩ = some (.int .u8 (xs.getD i 0)) := by
        rcases HX.out.2.2 with h | h
        · omega
        · exact h
      obtain ⟨bb, ob, rfl, hbb, hcb⟩ : ∃ b' off, b = some ⟨b', off, none⟩ ∧ b' < w.heap.size ∧ ∀ i, i < len → w.cell? ⟨b', off + i, none⟩ = some (.int .u8 (xs.getD i 0)) := by
        rcases HY.out.2.2 with h | h
        · omega
        · exact h
      have ha : wr.cell? ⟨ba, oa + k, none⟩ = some (.int .u8 (xs.getD k 0)) := by obtain ⟨n, rfl⟩ := HW; exact hca k hlt
      have hb : wr.cell? ⟨bb, ob + k, none⟩ = some (.int .u8 (xs.getD k 0)) := by obtain ⟨n, rfl⟩ := HW; exact hcb k hlt
      clear hca hcb
      have hki : (k : Int) < (len : Int) := by omega
      have hk0 : (0 : Int) ≤ (k : Int) := by omega
      go_wp2
      go_quiet (fail)
      go_wp2
      go_roundw
      case rel =>
        refine ⟨k + 1, by omega, by go_num, ?_⟩
        obtain ⟨n, rfl⟩ := HW.out
        exact ⟨_, World.drewN_drewN _ _ _⟩
      case measure => simp [intOf]; omega
    · go_wp2
      go_ret
      exact ⟨rfl, HW.out⟩

end Go.Proofs.YtenkpgnkkkgdmatDoor

namespace Go.Proofs.YtenkpgnkkkgdmatDoor
open Go.RowKit
set_option linter.unusedVariables false

set_option maxHeartbeats 400000 in
theorem toByteS_any (a : Option Addr) (len cap : Nat) (zs : List Int) (w : World) (hs : Seg w a len zs) (hl : len ≤ 1099511627776) :
    Calls Tryd.prog 61 #[.slice a len cap] w fun e w' => e = .returned (.slice (some ⟨w.heap.size, 0, none⟩) len len) ∧
      w'.ownsRow w.heap.size 5 1 (.slice (some ⟨w.heap.size, 0, none⟩) len len) len (zs.map (Value.int .u8)) ∧ Below w.heap.size w w' := by
  obtain ⟨i0, hi, hz0, hz1, hz2⟩ := info_parts Tryd.info5
  have hzs : zs.length = len := hs.1
  have HS : Hid (Seg w a len zs) := hs
  clear hs
  go_enter Tryd.func61, Tryd.ntmps61
  go_wp2_with (at_make; refine wpList_make_full _ rfl _ _ 54 rfl w.heap.size 5 i0 (.int .u8 0) 1 Tryd.underlying54 hi hz0 hz1 _ _ _ _ len rfl rfl rfl rfl (by rw [hz2]; omega) (by unfold maxLen; omega) (Nat.le_refl _) ?_; intro w1 hown hgrow)
  have hrow : w1.ownsRow w.heap.size 5 1 (.slice (some ⟨w.heap.size, 0, none⟩) len len) len ((zs.take 0 ++ List.replicate (len - 0) 0).map (Value.int .u8)) := by
    simpa [toList_madeCells_one, Value.cells] using hown
  have hbel : Below w.heap.size w w1 := (Below.refl _ _).grown hgrow (Nat.le_refl _) (by simp)
  have HR := (show Hid _ from hrow)
  have HB := (show Hid _ from hbel)
  clear hown hgrow hrow hbel
  go_loopw [4] (fun i wr => ∃ k : Nat, k ≤ len ∧ i = .int .i64 k ∧ Hid (wr.ownsRow w.heap.size 5 1 (.slice (some ⟨w.heap.size, 0, none⟩) len len) len ((zs.take k ++ List.replicate (len - k) 0).map (Value.int .u8))) ∧ Hid (Below w.heap.size w wr)) (fun i _ => len - (intOf i).toNat)
  case atStart => exact ⟨0, Nat.zero_le _, rfl, HR, HB⟩
  case round =>
    clear HR HB
    obtain ⟨k, hk, rfl, HO, HB⟩ := hrel
    by_cases hlt : k < len
    · obtain ⟨b, off, rfl, hb, hc⟩ : ∃ b off, a = some ⟨b, off, none⟩ ∧ b < w.heap.size ∧ ∀ i, i < len → w.cell? ⟨b, off + i, none⟩ = some (.int .u8 (zs.getD i 0)) := by
        rcases HS.out.2.2 with h | h
        · omega
        · exact h
      have hcell : wr.cell? ⟨b, off + k, none⟩ = some (.int .u8 (zs.getD k 0)) := (HB.out.cell (p := ⟨b, off + k, none⟩) hb).trans (hc k hlt)
      have hfro : wr.frozen? ⟨w.heap.size, k, none⟩ = false := HO.out.frozenAt k
      obtain ⟨u, hu⟩ : ∃ u, wr.cell? ⟨w.heap.size, k, none⟩ = some u := by
        rw [HO.out.cellAt k (by omega)]
        exact ⟨_, List.getElem?_eq_getElem (by simp; omega)⟩
      clear hc
      go_wp2
      go_roundw
      case rel => 
        refine ⟨k + 1, by omega, by go_num, ?_, ?_⟩
        · have h := (HO.out.stored k (.int .u8 (zs.getD k 0))).1
          rw [copied_step zs k len hlt hzs] at h
          have hkz : k < zs.length := by omega
          show World.ownsRow _ _ _ _ _ _ _
          simpa [hkz] using h
        · exact HB.out.setCell (Nat.le_refl _) _
      case measure => simp [intOf]; omega
    · go_wp2
      go_ret
      have hkl : k = len := by omega
      subst hkl
      refine ⟨rfl, ?_, HB.out⟩
      have h := HO.out
      rw [List.take_of_length_le (by omega)] at h
      simpa using h

end Go.Proofs.YtenkpgnkkkgdmatDoor

namespace Go.Proofs.YtenkpgnkkkgdmatDoor
open Go.RowKit

/-- A world in which all that lay in w is as it was. -/
structure Past (w : World) where
  world : World
  below : Below w.heap.size w world

theorem wp_region_past {P : Program} {id : Nat} {Q : Exit → Act → World → Prop} {a : Act} {w : World} {l : List Oper} (hm : P.follows .mixedOrders = true) (hB : Region.lexB .any l.toArray = true)
    (h : wpQuiet P l.toArray (fun w' => ∃ p : Past w, w' = p.world) (fun a' => ∀ w', (∃ p : Past w, w' = p.world) → Q .normal a' w') l a) : (Code.region id l.toArray true).wp P Q a w :=
  wp_region_quiet (C := fun w' => ∃ p : Past w, w' = p.world) hm hB ⟨⟨w.drew, (Below.refl _ _).drew⟩, rfl⟩ (by simpa using h)

theorem calls_past {P : Program} {f : FuncId} {args : Array Value} {w : World} {p : Past w} {v : Value}
    (h : Calls P f args p.world fun e w' => e = .returned v ∧ Below p.world.heap.size p.world w') : Calls P f args p.world fun e w'' => e = .returned v ∧ ∃ p : Past w, w'' = p.world :=
  h.mono fun _ w' ⟨he, hb⟩ => ⟨he, ⟨w', p.below.trans (hb.mono p.below.size)⟩, rfl⟩

/-- One operation that is wanted. -/
theorem quiet_do {P : Program} {ops : Array Oper} {C : World → Prop} {Q : Act → Prop} {a : Act} {o : Oper} {rest : List Oper} (hw : Region.wanted o (yielded ops a.tmps) = true)
    (h : ∀ K : Act → Prop, (∀ a, wpQuiet P ops C Q rest a → K a) → o.quiet P a C K) : wpQuiet P ops C Q (o :: rest) a :=
  wpQuiet_step fun K hK => by rw [if_pos hw]; exact h K hK

/-- One that is not. -/
theorem quiet_skip {P : Program} {ops : Array Oper} {C : World → Prop} {Q : Act → Prop} {a : Act} {o : Oper} {rest : List Oper} (hw : Region.wanted o (yielded ops a.tmps) = false)
    (h : ∀ K : Act → Prop, (∀ a, wpQuiet P ops C Q rest a → K a) → K (a.put o.dst undef)) : wpQuiet P ops C Q (o :: rest) a :=
  wpQuiet_step fun K hK => by rw [if_neg (by rw [hw]; simp)]; exact h K hK

/-- One that is not: what is behind it. -/
theorem quiet_past {P : Program} {ops : Array Oper} {C : World → Prop} {Q : Act → Prop} {a : Act} {o : Oper} {rest : List Oper} (hw : Region.wanted o (yielded ops a.tmps) = false) (h : wpQuiet P ops C Q rest (a.put o.dst undef)) : wpQuiet P ops C Q (o :: rest) a :=
  quiet_skip hw fun _ hK => hK _ h

/-- As wp_region_past, the region's row hidden behind a name: then what an unwanted operation would do is not looked at. -/
theorem wp_region_pastO {P : Program} {id : Nat} {Q : Exit → Act → World → Prop} {a : Act} {w : World} {l : List Oper} (hm : P.follows .mixedOrders = true) (hB : Region.lexB .any l.toArray = true)
    (h : ∀ ops : Array Oper, Hid (ops = l.toArray) → wpQuiet P ops (fun w' => ∃ p : Past w, w' = p.world) (fun a' => ∀ w', (∃ p : Past w, w' = p.world) → Q .normal a' w') l a) : (Code.region id l.toArray true).wp P Q a w :=
  wp_region_past hm hB (h _ rfl)

theorem past_some (w : World) : Nonempty (Past w) := ⟨⟨w, Below.refl _ _⟩⟩

theorem Past.cell {w : World} (p : Past w) {a : Addr} {v : Value} (hb : a.block < w.heap.size) (h : w.cell? a = some v) : p.world.cell? a = some v := (p.below.cell hb).trans h

end Go.Proofs.YtenkpgnkkkgdmatDoor
