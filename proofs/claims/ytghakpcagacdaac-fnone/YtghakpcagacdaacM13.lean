/- The library's Concat of two slices of fields. The program's ring of fields: made smaller; its fields as a list; a ring of a table's fields. The library's iterator Backward over fields: from the last one on. A loop over an iterator whose variable is a struct of its own in each round (Turns has the loops over plain variables). No program in it. Maps whose keys are fields, or texts: how a key reads; the least number of each key, from a place on. -/
import Derived.Test.YtghakpcagacdaacM12
import Derived.Laws.MakeOwn
import Derived.Shelf.Abstract
import Derived.RangeFuncBound
import Derived.RangeFuncCalls
import Derived.Shelf.RegionOpen
import Derived.OwnWalkIn
import Derived.TacticsInMore
import Derived.LoopNIn
import Derived.LoopIn
import Derived.Test.YtghakpcagacdaacM06
import Derived.Test.YtghakpcagacdaacM11
import Derived.Test.YtghakpcagacdaacM07
import Derived.Maps.Views
import Derived.Maps.Own
import Derived.Maps.OwnSet
import Derived.DeepKeys4
namespace Go.Proofs.Ytghakpcagacdaac
open Go.RowKit
set_option linter.unusedVariables false

theorem row_some {w : World} {base n : Nat} {e : TypeId} {s : Nat} {v : Value} {xs : List Value} (h : w.ownsRow base e s v n xs) (hn : 0 < n) : ∃ g cap, v = .slice (some ⟨g, 0, none⟩) n cap ∧ base ≤ g ∧ g < w.heap.size := by
  rcases h.2 with ⟨_, h0⟩ | ⟨g, cap, cur, rfl, hb, hg, _⟩
  · omega
  · exact ⟨g, cap, rfl, hb, (Array.getElem?_eq_some_iff.1 hg).1⟩

set_option maxRecDepth 10000 in
set_option maxHeartbeats 1600000 in
theorem concat_any (g c : Nat) (a1 a2 : Option Addr) (n1 n2 c1 c2 : Nat) (xs ys : List Fld) (w : World) (hg : w.heap[g]? = some (.cells #[.slice a1 n1 c1, .slice a2 n2 c2] 24 (0, 0))) (h1 : Flds w a1 n1 xs) (h2 : Flds w a2 n2 ys) (h0 : 0 < n1) (hl1 : n1 ≤ 100) (hl2 : n2 ≤ 2097152) :
    Calls Try.prog 92 #[.slice (some ⟨g, 0, none⟩) 2 2] w fun e w' => ∃ g' cap, e = .returned (.slice (some ⟨g', 0, none⟩) (n1 + n2) cap) ∧ OwnF w' w.heap.size (.slice (some ⟨g', 0, none⟩) (n1 + n2) cap) (n1 + n2) (xs ++ ys) ∧ Below w.heap.size w w' := by
  obtain ⟨i0, hi, hz0, hz1, hz2⟩ := info_parts info_field
  have hgl := (Array.getElem?_eq_some_iff.1 hg).1
  have k0 : w.cell? ⟨g, 0, none⟩ = some (.slice a1 n1 c1) := by rw [cell_of_row _ _ _ _ _ _ hg]; rfl
  have k1 : w.cell? ⟨g, 1, none⟩ = some (.slice a2 n2 c2) := by rw [cell_of_row _ _ _ _ _ _ hg]; rfl
  have HK : Hid (∀ W, Below w.heap.size w W → W.cell? ⟨g, 0, none⟩ = some (.slice a1 n1 c1) ∧ W.cell? ⟨g, 1, none⟩ = some (.slice a2 n2 c2) ∧ Flds W a1 n1 xs ∧ Flds W a2 n2 ys) := fun W hW =>
    ⟨(hW.cell (p := ⟨_, _, none⟩) hgl).trans k0, (hW.cell (p := ⟨_, _, none⟩) hgl).trans k1, h1.below hW, h2.below hW⟩
  have HX : Hid (xs.length = n1 ∧ ys.length = n2 ∧ (a1 = none → n1 = 0) ∧ (a2 = none → n2 = 0)) := ⟨h1.1, h2.1, fun h => h1.none_nil h, fun h => h2.none_nil h⟩
  have HS : Hid ((∀ f ∈ xs, f.1.size ≤ maxLen ∧ f.2.size ≤ maxLen) ∧ (∀ f ∈ ys, f.1.size ≤ maxLen ∧ f.2.size ≤ maxLen)) := ⟨h1.2.1, h2.2.1⟩
  have HA : Hid (0 + n1 ≤ maxLen ∧ (0 + n1) * 32 ≤ 140737488355328 ∧ (fieldCells xs).length = n1 * 2 ∧ n1 + n2 ≤ maxLen ∧ (n1 + n2) * 32 ≤ 140737488355328 ∧ (fieldCells ys).length = n2 * 2) := by
    have e1 := h1.1
    have e2 := h2.1
    refine ⟨by unfold maxLen; omega, by omega, by rw [fieldCells_len]; omega, by unfold maxLen; omega, by omega, by rw [fieldCells_len]; omega⟩
  clear h1 h2 hg hgl
  go_enter Try.func92, Try.ntmps92
  go_wp2_with fail
  go_loopw [3, 11] (fun v i wr => w = wr ∧ ((i = .int .i64 0 ∧ v = .int .i64 0) ∨ (i = .int .i64 1 ∧ v = .int .i64 n1) ∨ (i = .int .i64 2 ∧ v = .int .i64 (n1 + n2 : Nat)))) (fun _ i _ => 2 - (intOf i).toNat)
  case atStart => exact ⟨rfl, .inl ⟨rfl, rfl⟩⟩
  case round =>
    obtain ⟨rfl, ⟨rfl, rfl⟩ | ⟨rfl, rfl⟩ | ⟨rfl, rfl⟩⟩ := hrel
    · go_wp2
      go_roundw
      case rel => exact ⟨by first | rfl | trivial, .inr (.inl ⟨rfl, rfl⟩)⟩
      case measure => simp [intOf]
    · have hp : (0 : Int) ≤ (n1 : Int) + (n2 : Int) := by omega
      go_wp2
      go_roundw
      case rel => exact ⟨by first | rfl | trivial, .inr (.inr ⟨rfl, by go_num⟩)⟩
      case measure => simp [intOf]
    · clear k0 k1
      go_wp2_with fail
      refine (grow_any (n1 + n2) _ (by omega) (by omega)).mono ?_
      rintro e w1 ⟨g1, cap1, rfl, hown1, hb1⟩
      have HO1 : Hid (OwnF w1 w.heap.size (.slice (some ⟨g1, 0, none⟩) 0 cap1) 0 []) := hown1
      have HB1 : Hid (Below w.heap.size w w1) := hb1
      clear hown1 hb1
      go_wp2_with fail
      go_loopw [6, 27] (fun v i wr => Hid (Below w.heap.size w wr) ∧ ((i = .int .i64 0 ∧ ∃ g cap, v = .slice (some ⟨g, 0, none⟩) 0 cap ∧ Hid (OwnF wr w.heap.size (.slice (some ⟨g, 0, none⟩) 0 cap) 0 [])) ∨ (i = .int .i64 1 ∧ ∃ g cap, v = .slice (some ⟨g, 0, none⟩) n1 cap ∧ Hid (OwnF wr w.heap.size (.slice (some ⟨g, 0, none⟩) n1 cap) n1 xs)) ∨ (i = .int .i64 2 ∧ ∃ g cap, v = .slice (some ⟨g, 0, none⟩) (n1 + n2) cap ∧ Hid (OwnF wr w.heap.size (.slice (some ⟨g, 0, none⟩) (n1 + n2) cap) (n1 + n2) (xs ++ ys))))) (fun _ i _ => 2 - (intOf i).toNat)
      case atStart => exact ⟨HB1, .inl ⟨rfl, g1, cap1, rfl, HO1⟩⟩
      case round =>
        clear HO1 HB1
        obtain ⟨HB, ⟨rfl, g2, cap2, rfl, HO⟩ | ⟨rfl, g2, cap2, rfl, HO⟩ | ⟨rfl, g2, cap2, rfl, HO⟩⟩ := hrel
        · have k0 := (HK.out _ HB.out).1
          go_wp2_with (first | (refine wpList_plain rfl fun K hK => ?_; refine wp_append_src (.tmp 31) (.tmp 32) 24 rfl w.heap.size 36 i0 (.agg #[.string ⟨#[]⟩, .string ⟨#[]⟩]) 2 32 Try.underlying24 hi hz0 hz1 hz2 rfl (by decide) g2 0 cap2 [] rfl HO.out.1 a1 n1 c1 (fieldCells xs) rfl HX.out.2.2.1 HA.out.2.2.1 (HK.out _ HB.out).2.2.1.cells (fieldCells_one xs) HA.out.1 HA.out.2.1 HB.out.size ?_; intro v4 w4 hown hgrow; obtain ⟨g4, cap4, rfl, hg4, hg4'⟩ := row_some hown (by omega); refine hK _ _ ?_) | fail)
          have hlo : w.heap.size ≤ g2 := (HO.out.1.lt _ rfl).1
          have HB4 : Hid (Below w.heap.size w w4) := HB.out.grown hgrow HB.out.size (fun k hk => by injection hk with hk; omega)
          have HO4 : Hid (OwnF w4 w.heap.size (.slice (some ⟨g4, 0, none⟩) n1 cap4) n1 xs) := by
            refine ⟨?_, HS.out.1⟩
            have := hown
            rw [Nat.zero_add, List.nil_append] at this
            exact this
          clear hown hgrow
          go_roundw
          case rel => exact ⟨HB4, .inr (.inl ⟨rfl, g4, cap4, rfl, HO4⟩)⟩
          case measure => simp [intOf]
        · have k1 := (HK.out _ HB.out).2.1
          go_wp2_with (first | (refine wpList_plain rfl fun K hK => ?_; refine wp_append_src (.tmp 31) (.tmp 32) 24 rfl w.heap.size 36 i0 (.agg #[.string ⟨#[]⟩, .string ⟨#[]⟩]) 2 32 Try.underlying24 hi hz0 hz1 hz2 rfl (by decide) g2 n1 cap2 (fieldCells xs) rfl HO.out.1 a2 n2 c2 (fieldCells ys) rfl HX.out.2.2.2 HA.out.2.2.2.2.2 (HK.out _ HB.out).2.2.2.cells (fieldCells_one ys) HA.out.2.2.2.1 HA.out.2.2.2.2.1 HB.out.size ?_; intro v4 w4 hown hgrow; obtain ⟨g4, cap4, rfl, hg4, hg4'⟩ := row_some hown (by omega); refine hK _ _ ?_) | fail)
          have hlo : w.heap.size ≤ g2 := (HO.out.1.lt _ rfl).1
          have HB4 : Hid (Below w.heap.size w w4) := HB.out.grown hgrow HB.out.size (fun k hk => by injection hk with hk; omega)
          have HO4 : Hid (OwnF w4 w.heap.size (.slice (some ⟨g4, 0, none⟩) (n1 + n2) cap4) (n1 + n2) (xs ++ ys)) := by
            refine ⟨?_, fun f hf => ?_⟩
            · rw [fieldCells_append]
              exact hown
            · rcases List.mem_append.1 hf with h | h
              · exact HS.out.1 f h
              · exact HS.out.2 f h
          clear hown hgrow
          go_roundw
          case rel => exact ⟨HB4, .inr (.inr ⟨rfl, g4, cap4, rfl, HO4⟩)⟩
          case measure => simp [intOf]
        · go_wp2
          go_ret
          exact ⟨g2, cap2, rfl, HO.out, HB.out⟩

end Go.Proofs.Ytghakpcagacdaac

namespace Go.Proofs.Ytghakpcagacdaac
open Go.RowKit Go.Shelf
set_option linter.unusedVariables false

/-- How many of the newest fields are left for most bytes: all, or as many as fit. -/
def Left (most : Int) (fs : List Fld) (k : Nat) : Prop := k ≤ fs.length ∧ (k = 0 ∨ (szL (fs.take k) : Int) ≤ most) ∧ (k = fs.length ∨ most < (szL (fs.take (k + 1)) : Int))

theorem gb_trans {w W V : World} {b : Nat} (h : w.grownBy W (some b)) (k : W.grownBy V (some b)) : w.grownBy V (some b) :=
  ⟨k.os.trans h.os, k.tape.trans h.tape, k.output.trans h.output, Nat.le_trans h.size k.size, fun q hq hne => (k.block q (Nat.lt_of_lt_of_le hq h.size) hne).trans (h.block q hq hne)⟩

/-- The count in the ring's block. -/
def cntIn (b : Nat) (W : World) : Nat := match W.cell? ⟨b, 257, none⟩ with | some (.int _ n) => n.toNat | _ => 0

theorem Ring.cells {W : World} {b p : Nat} {fs : List Fld} (h : Ring W b p fs) : W.cell? ⟨b, 256, none⟩ = some (.int .i64 (p : Int)) ∧ W.cell? ⟨b, 257, none⟩ = some (.int .i64 (fs.length : Int)) ∧ W.cell? ⟨b, 258, none⟩ = some (.int .i64 (szL fs : Int)) := by
  obtain ⟨cs, h, r⟩ := h
  exact ⟨(cell_of_row _ _ _ _ _ _ h).trans r.front, (cell_of_row _ _ _ _ _ _ h).trans r.count, (cell_of_row _ _ _ _ _ _ h).trans r.sum⟩

theorem Ring.cnt {W : World} {b p : Nat} {fs : List Fld} (h : Ring W b p fs) : cntIn b W = fs.length := by
  rw [cntIn, h.cells.2.1]
  exact Int.toNat_natCast _

set_option maxRecDepth 10000 in
set_option maxHeartbeats 1600000 in
theorem shrink_any (b p : Nat) (fs : List Fld) (most : Int) (w : World) (h : Ring w b p fs) (hs : szL fs ≤ 100000) :
    Calls Try.prog 99 #[.pointer (some ⟨b, 0, none⟩), .int .i64 most] w fun e w' => ∃ v k, e = .returned v ∧ Left most fs k ∧ Ring w' b p (fs.take k) ∧ w.grownBy w' (some b) := by
  have HR : Hid (Ring w b p fs) := h
  clear h
  go_enter Try.func99, Try.ntmps99
  go_wp2_with fail
  go_loopw [] (fun wr => ∃ k, k ≤ fs.length ∧ Hid (Ring wr b p (fs.take k)) ∧ Hid (w.grownBy wr (some b)) ∧ Hid (k = fs.length ∨ most < (szL (fs.take (k + 1)) : Int))) (fun wr => cntIn b wr)
  case atStart => exact ⟨fs.length, Nat.le_refl _, by rw [List.take_length]; exact HR, ⟨rfl, rfl, rfl, Nat.le_refl _, fun _ _ _ => rfl⟩, .inl rfl⟩
  case round =>
    clear HR
    obtain ⟨k, hk, HR, HG, HL⟩ := hrel
    have hl : (fs.take k).length = k := by rw [List.length_take]; omega
    obtain ⟨_, c1, c2⟩ := HR.out.cells
    rw [hl] at c1
    have hcn := HR.out.cnt
    rw [hl] at hcn
    have hz : szL (fs.take k) ≤ 100000 := Nat.le_trans (szL_take_le fs k) hs
    cases k with
    | zero =>
      go_wp2
      go_end0
      exact ⟨_, 0, rfl, ⟨Nat.zero_le _, .inl rfl, HL.out⟩, HR.out, HG.out⟩
    | succ n =>
      have hn0 : (0 : Int) < ((n + 1 : Nat) : Int) := by omega
      by_cases hm : most < (szL (fs.take (n + 1)) : Int)
      · go_wp2_with fail
        refine (drop_any b p (fs.take (n + 1)) n _ HR.out hl hz).mono ?_
        rintro e V ⟨v, rfl, hR, hG⟩
        have HR2 : Hid (Ring V b p (fs.take n)) := by
          show Ring _ _ _ _
          have := hR
          rw [List.take_take, show min n (n + 1) = n by omega] at this
          exact this
        have HG2 : Hid (w.grownBy V (some b)) := gb_trans HG.out hG
        have hc2 := HR2.out.cnt
        rw [List.length_take, show min n fs.length = n by omega] at hc2
        clear hR hG c1 c2
        go_wp2
        go_roundw
        case rel => exact ⟨n, by omega, HR2, HG2, .inr hm⟩
        case measure => rw [hcn, hc2]; omega
      · go_wp2
        go_end0
        have hL : Left most fs (n + 1) := ⟨hk, .inr (by omega), HL.out⟩
        first
          | exact ⟨_, n + 1, rfl, hL, HR.out, HG.out⟩
          | exact ⟨⟨_, rfl⟩, n + 1, hL, HR.out, HG.out⟩

theorem step_call_two {P : Program} {ops : Array Oper} {o : Oper} {a : Act} {w : World} {K : Act → World → Prop} {Q : Exit → Act → World → Prop} {E : Prop}
    (hg : o.guard = none) (f : FuncId) (x y : Operand) (t t' : TypeId) (ho : o.op = .call { callee := .value (.func f), args := #[x, y], argTypes := #[t, t'] })
    (hent : ∀ args w, (callFunc f args).run P w = .ok (.enter f args) w) (u v : Value) (hx : a.eval x = u) (hy : a.eval y = v) (R : Ending → World → Prop)
    (hc : Calls P f #[u, v] w R) (h : ∀ e w', R e w' → ∃ v, e = .returned v ∧ K (a.put o.dst v) w') :
    if Region.wanted o (yielded ops a.tmps) = true then Oper.wp P o a w K Q else E := by
  have hw : Region.wanted o (yielded ops a.tmps) = true := by simp [Region.wanted, hg]
  rw [if_pos hw]
  have hf : a.eval (.func f) = .func (.func f) #[] #[] := rfl
  unfold Oper.wp
  simp [execOp, ho, resolve, invoke, Deferred.ofValue, hent, hf, hx, hy, Oper.upon_enter]
  refine hc.mono ?_
  intro e w' hr
  obtain ⟨v, rfl, hk⟩ := h e w' hr
  exact hk

theorem wpList_make_own {P : Program} (w : World) {ops : Array Oper} {rest : List Oper} {o : Oper} {a : Act} {Q : Exit → Act → World → Prop}
    (hg : o.guard = none) (l c : Operand) (t : TypeId) (hop : o.op = Op.makeSlice t l c)
    (e : TypeId) (i : TypeInfo) (z : Value) (h1 : P.underlying t = some (.slice e)) (h2 : P.info? e = some i) (h3 : i.zero = some z) (m : Nat) (hl : a.eval l = .int .i64 0) (hc : a.eval c = .int .i64 (m : Int)) (hb : i.bytes * m ≤ 281474976710656) (hm : m ≤ maxLen)
    (hK : ∀ w', w'.ownsRow w.heap.size e i.size (.slice (some ⟨w.heap.size, 0, none⟩) 0 m) 0 [] → Below w.heap.size w w' → wpList P ops Q rest (a.put o.dst (.slice (some ⟨w.heap.size, 0, none⟩) 0 m)) w') :
    wpList P ops Q (o :: rest) a w := by
  refine wpList_plain hg fun K hK' => ?_
  have hm' : (m : Int) ≤ 9223372036854775807 := by unfold maxLen at hm; omega
  have hr := run_make (P := P) w t e i z h1 h2 h3 .i64 .i64 0 (m : Int) (by omega) (by omega) (by rw [← Int.natCast_mul]; omega) hm'
  simp only [Int.toNat_natCast, Int.toNat_zero] at hr
  unfold Oper.wp
  simp [execOp, hop, hl, hc, hr, Result.andThen]
  refine hK' _ _ (hK _ (World.ownsRow_made w _ m (Nat.le_refl _) hm ?_) ((Below.refl _ _).alloc (Nat.le_refl _) _))
  simp [madeCells]

theorem Ring.at {W : World} {b p : Nat} {fs : List Fld} (h : Ring W b p fs) (i : Nat) (hi : i < fs.length) : W.cell? ⟨b, (p + i) % 128 * 2, none⟩ = some (.string (fs[i]).1) ∧ W.cell? ⟨b, (p + i) % 128 * 2 + 1, none⟩ = some (.string (fs[i]).2) := by
  obtain ⟨cs, h, r⟩ := h
  exact ⟨(cell_of_row _ _ _ _ _ _ h).trans (r.slot i hi).1, (cell_of_row _ _ _ _ _ _ h).trans (r.slot i hi).2⟩

theorem Ring.few {W : World} {b p : Nat} {fs : List Fld} (h : Ring W b p fs) : fs.length ≤ 128 ∧ p < 128 := by
  obtain ⟨cs, h, r⟩ := h
  exact ⟨r.few, r.lt⟩

theorem two_new (w : World) (x y : ByteArray) (t : TypeId) : ∀ ad, (some ⟨w.heap.size, 0, none⟩ : Option Addr) = some ad → ∀ j u, (fieldCells [(x, y)])[j]? = some u → (w.alloc (.cells #[.string x, .string y] t)).cell? (ad.add j) = some u := by
  intro ad e j u hj
  injection e with e
  subst e
  have hadd : (⟨w.heap.size, 0, none⟩ : Addr).add j = ⟨w.heap.size, j, none⟩ := by unfold Addr.add; split <;> simp_all
  rw [hadd, cell_of_row _ _ _ _ _ _ (heap_alloc_new w (.cells #[.string x, .string y] t))]
  simpa [fieldCells] using hj

set_option maxRecDepth 10000 in
set_option maxHeartbeats 1600000 in
theorem list_any (b p : Nat) (fs : List Fld) (w : World) (h : Ring w b p fs) (hf : ∀ f ∈ fs, f.1.size ≤ maxLen ∧ f.2.size ≤ maxLen) :
    Calls Try.prog 101 #[.pointer (some ⟨b, 0, none⟩)] w fun e w' => ∃ v, e = .returned v ∧ OwnF w' w.heap.size v fs.length fs ∧ Below w.heap.size w w' := by
  have HR : Hid (Ring w b p fs) := h
  obtain ⟨i0, hi, hz0, hz1, hz2⟩ := info_parts info_field
  obtain ⟨c0, c1, c2⟩ := h.cells
  obtain ⟨hfew, hp⟩ := h.few
  clear h
  have HF : Hid (∀ f ∈ fs, f.1.size ≤ maxLen ∧ f.2.size ≤ maxLen) := hf
  have HMk : Hid (i0.bytes * fs.length ≤ 281474976710656 ∧ fs.length ≤ maxLen) := ⟨by rw [hz2]; omega, by unfold maxLen; omega⟩
  have HEnt : Hid (∀ args w, (callFunc 111 args).run Try.prog w = .ok (.enter 111 args) w) := enters_of Try.func111 (by kernel_rfl) rfl
  go_enter Try.func101, Try.ntmps101
  go_wp2_with (first | (refine wpList_make_own _ rfl _ _ 24 rfl 36 i0 (.agg #[.string ⟨#[]⟩, .string ⟨#[]⟩]) Try.underlying24 hi hz0 fs.length rfl rfl HMk.out.1 HMk.out.2 ?_; intro w1 hown1 hb1; have c1' := (HR.out.stays hb1).cells.2.1) | fail)
  rw [hz1] at hown1
  have HO1 : Hid (w1.ownsRow w.heap.size 36 2 (.slice (some ⟨w.heap.size, 0, none⟩) 0 fs.length) 0 []) := hown1
  have HB1 : Hid (Below w.heap.size w w1) := hb1
  have HBl : Hid (b < w.heap.size) := HR.out.lt
  clear hown1 hb1 c0 c1 c2 c1'
  go_loopw [3, 14] (fun v i wr => ∃ (k g cap : Nat), k ≤ fs.length ∧ i = .int .i64 (k : Int) ∧ v = .slice (some ⟨g, 0, none⟩) k cap ∧ Hid (wr.ownsRow w.heap.size 36 2 (.slice (some ⟨g, 0, none⟩) k cap) k (fieldCells (fs.take k))) ∧ Hid (Below w.heap.size w wr)) (fun _ i _ => fs.length - (intOf i).toNat)
  case atStart => exact ⟨0, w.heap.size, fs.length, Nat.zero_le _, rfl, rfl, HO1, HB1⟩
  case round =>
    clear HO1 HB1
    obtain ⟨k, g, cap, hk, rfl, rfl, HO, HB⟩ := hrel
    by_cases hlt : k < fs.length
    · have hR := HR.out.stays HB.out
      have hat := hR.at k hlt
      have hpk := slot_any b p k wr.drew hR.cells.1 hp (by omega)
      obtain ⟨q, hq⟩ : ∃ q, (p + k) % 128 = q := ⟨_, rfl⟩
      obtain ⟨x, hx⟩ : ∃ x, (fs[k]).1 = x := ⟨_, rfl⟩
      obtain ⟨y, hy⟩ : ∃ y, (fs[k]).2 = y := ⟨_, rfl⟩
      rw [hq] at hpk hat
      rw [hx, hy] at hat
      obtain ⟨a0, a1⟩ := hat
      have HPk : Hid (Calls Try.prog 111 #[.pointer (some ⟨b, 0, none⟩), .int .i64 (k : Int)] wr.drew fun e w' => e = .returned (.int .i64 (q : Int)) ∧ w' = wr.drew) := hpk
      have HNx : Hid (fieldCells (fs.take (k + 1)) = fieldCells (fs.take k) ++ fieldCells [(x, y)]) := by
        show _ = _
        rw [← fieldCells_append, List.take_add_one, List.getElem?_eq_getElem hlt, ← hx, ← hy]
        rfl
      have HOd : Hid ((wr.drew.alloc (.cells #[.string x, .string y] 36)).ownsRow w.heap.size 36 2 (.slice (some ⟨g, 0, none⟩) k cap) k (fieldCells (fs.take k))) := World.ownsRow.alloc (w := wr.drew) HO.out _
      have HAr : Hid (k + 1 ≤ maxLen ∧ (k + 1) * 32 ≤ 140737488355328) := ⟨by unfold maxLen; omega, by omega⟩
      have HSz : Hid (w.heap.size ≤ (wr.drew.alloc (.cells #[.string x, .string y] 36)).heap.size) := by show _ ≤ _; rw [World.size_alloc]; exact Nat.le_succ_of_le HB.out.size
      have HN : Hid (∀ ad, (some ⟨wr.heap.size, 0, none⟩ : Option Addr) = some ad → ∀ j u, (fieldCells [(x, y)])[j]? = some u → (wr.drew.alloc (.cells #[.string x, .string y] 36)).cell? (ad.add j) = some u) := two_new wr.drew x y _
      have hq' : q < 128 := by omega
      have hqi : (q : Int) < 128 := by omega
      have hki : (k : Int) < (fs.length : Int) := by omega
      have hkb : (k : Int) ≤ 128 := by omega
      clear hpk hR hx hy hq
      go_wp2_with fail
      go_region_law (first
        | (refine step_call_two rfl 111 (.tmp 19) (.tmp 20) 147 3 rfl HEnt.out (.pointer (some ⟨b, 0, none⟩)) (.int .i64 (k : Int)) rfl rfl _ HPk.out ?_; rintro e W ⟨rfl, rfl⟩; refine ⟨_, rfl, ?_⟩)
        | (refine step_append_src rfl (.tmp 17) (.tmp 26) 24 rfl w.heap.size 36 i0 (.agg #[.string ⟨#[]⟩, .string ⟨#[]⟩]) 2 32 Try.underlying24 hi hz0 hz1 hz2 rfl (by decide) g k cap (fieldCells (fs.take k)) rfl HOd.out (some ⟨wr.heap.size, 0, none⟩) 1 1 (fieldCells [(x, y)]) rfl (fun h => by cases h) rfl HN.out (fieldCells_one _) HAr.out.1 HAr.out.2 HSz.out ?_; intro v4 w4 hown hgrow; obtain ⟨g4, cap4, rfl, hg4, hg4'⟩ := row_some hown (by omega)))
      have hlo : w.heap.size ≤ g := (HO.out.lt _ rfl).1
      have HB4 : Hid (Below w.heap.size w w4) := ((HB.out.drew).alloc HB.out.size _).grown hgrow HSz.out (fun q hq => by injection hq with hq; omega)
      have HO4 : Hid (w4.ownsRow w.heap.size 36 2 (.slice (some ⟨g4, 0, none⟩) (k + 1) cap4) (k + 1) (fieldCells (fs.take (k + 1)))) := by
        show World.ownsRow _ _ _ _ _ _ _
        rw [HNx.out]
        exact hown
      clear hown hgrow
      go_wp2
      go_roundw
      case rel => exact ⟨k + 1, g4, cap4, by omega, by go_num, rfl, HO4, HB4⟩
      case measure => simp [intOf]; omega
    · obtain rfl : k = fs.length := by omega
      have HO2 : Hid (OwnF wr w.heap.size (.slice (some ⟨g, 0, none⟩) fs.length cap) fs.length fs) := by
        refine ⟨?_, HF.out⟩
        have := HO.out
        rw [List.take_length] at this
        exact this
      go_wp2
      go_ret
      exact ⟨_, rfl, HO2.out, HB.out⟩

end Go.Proofs.Ytghakpcagacdaac

namespace Go.Proofs.Ytghakpcagacdaac
open Go.RowKit Go.Shelf
set_option linter.unusedVariables false
attribute [local go_sem] Oper.semAt_some

/-- What a round is handed: the place, and the field there. -/
abbrev encB (xs : List Fld) (k : Nat) : Array Value := #[.int .i64 (k : Int), .agg #[.string (xs.getD k (⟨#[]⟩, ⟨#[]⟩)).1, .string (xs.getD k (⟨#[]⟩, ⟨#[]⟩)).2]]

set_option maxRecDepth 100000 in
set_option maxHeartbeats 1000000 in
theorem back_iter (n B Bb : Nat) (a : Option Addr) (len cap : Nat) (xs : List Fld) (hn : 1 ≤ n) (hl : len ≤ 2097300) (hxl : xs.length = len) (I0 I1 : Nat → World → Prop) (Ix : Code → Nat → World → Prop) (Ie : Nat → World → Prop) (Ib : World → Prop)
    (hb : ∀ W, Ib W → Boxed W Bb 24 (.slice a len cap) ∧ (0 < len → I0 (len - 1) W) ∧ (len = 0 → Ie 0 W))
    (h0 : ∀ k W, I0 k W → k < len ∧ Boxed W Bb 24 (.slice a len cap) ∧ Flds W a len xs)
    (h1 : ∀ k W, I1 k W → (0 < k → I0 (k - 1) W) ∧ (k = 0 → Ie 0 W)) :
    Iter Fence.wide n Try.prog B 105 #[.pointer (some ⟨Bb, 0, none⟩)] (encB xs) I0 I1 Ix Ie Ib := by
  intro l L0 L1 k0 k1 hY W hi hl0
  obtain ⟨hbx, hi0, hi1⟩ := hb W hi
  have hc := hbx.cell
  clear hb hi hbx
  refine callsIn_of_wp Try.func105 rfl trivial ?_ rfl
  simp only [Try.ntmps105, List.size_toArray, List.length_cons, List.length_nil, Nat.reduceAdd, Nat.reduceSub, Array.replicate_succ, Array.replicate_zero, List.push_toArray, List.append_toArray, List.nil_append, List.cons_append]
  gi_wp2
  gi_loopw [3] (fun i wr => ∃ k : Nat, k ≤ len ∧ i = .int .i64 ((k : Int) - 1) ∧ (0 < k → I0 (k - 1) wr) ∧ (k = 0 → Ie 0 wr) ∧ L0 wr) (fun i _ => (intOf i + 1).toNat)
  case atStart => exact ⟨len, Nat.le_refl _, rfl, hi0, hi1, hl0⟩
  case round =>
    clear hi0 hi1 hl0 hc
    obtain ⟨k, hk, rfl, hI, hE, hL⟩ := hrel
    cases k with
    | zero =>
      have he := hE rfl
      gi_wp2
      go_end0
      exact ⟨⟨_, rfl⟩, .inl ⟨⟨_, he⟩, hL⟩⟩
    | succ j =>
      have hs := hI (Nat.succ_pos _)
      rw [Nat.add_sub_cancel] at hs
      obtain ⟨hj, hbx, hfl⟩ := h0 _ _ hs
      obtain ⟨fn, tmps, assign, body, hy, hR⟩ := hY _ wr hs hL
      obtain ⟨b, off, x, y, rfl, hb, hfx, hc0, hc1⟩ := hfl.at hj
      have hc := hbx.cell
      have ex : xs.getD j (⟨#[]⟩, ⟨#[]⟩) = (x, y) := by rw [List.getD_eq_getElem?_getD, hfx]; rfl
      simp only [encB, ex] at hy
      have hji : ((j + 1 : Nat) : Int) - 1 = (j : Int) := by omega
      have hjl : (j : Int) < (len : Int) := by omega
      rw [hji]
      clear hfl hfx hbx
      gi_wp2
      refine hR.mono ?_
      clear hR hy hc0 hc1 hc hs hL hI hE
      rintro e W3 (⟨rfl, h3, l3⟩ | ⟨rfl, c, h3, l3⟩)
      · obtain ⟨j0, j1⟩ := h1 _ _ h3
        gi_wp2
        go_roundw
        case rel => exact ⟨j, by omega, by go_num, j0, j1, l3⟩
        case measure => simp [intOf]
      · gi_wp2
        refine bodyPost_ret (results_none rfl _ _ _) rfl ?_
        exact ⟨⟨_, rfl⟩, .inr ⟨c, _, h3, l3⟩⟩

set_option maxHeartbeats 400000 in
theorem backward_any (a : Option Addr) (len cap : Nat) (w : World) (n : Nat) :
    CallsIn Fence.wide n Try.prog 93 #[.slice a len cap] w fun e w' => e = .returned (.func (.func 105) #[] #[.pointer (some ⟨w.heap.size, 0, none⟩)]) ∧ w' = w.alloc (.cells #[.slice a len cap] 24) := by
  refine callsIn_of_wp Try.func93 rfl trivial ?_ rfl
  simp only [Try.ntmps93, List.size_toArray, List.length_cons, List.length_nil, Nat.reduceAdd, Nat.reduceSub, Array.replicate_succ, Array.replicate_zero, List.push_toArray, List.append_toArray, List.nil_append, List.cons_append]
  gi_wp2
  go_ret
  exact ⟨rfl, rfl⟩

end Go.Proofs.Ytghakpcagacdaac

namespace Go.Proofs.Ytghakpcagacdaac
open Go.RowKit
set_option linter.unusedVariables false

variable {F : Fence} {n : Nat} {P : Program}

theorem Two.alloc {l D : Nat} {r : Loop} {W : World} (h : Two l D r W) (o : Obj) : Two l D r (W.alloc o) :=
  ⟨(Below.heap_alloc _ _ _ (Array.getElem?_eq_some_iff.1 h.1).1).trans h.1, (Below.heap_alloc _ _ _ (Array.getElem?_eq_some_iff.1 h.2).1).trans h.2⟩

theorem putObj_alloc (W : World) (l : Nat) (x o : Obj) (h : l < W.heap.size) : (W.alloc o).putObj l x = (W.putObj l x).alloc o := by
  unfold World.putObj World.alloc
  have e : (W.heap.push o).setIfInBounds l x = (W.heap.setIfInBounds l x).push o := by
    apply Array.ext_getElem?
    intro i
    simp only [Array.getElem?_setIfInBounds, Array.getElem?_push, Array.size_push, Array.size_setIfInBounds]
    by_cases h1 : l = i
    · subst h1
      have : ¬ l = W.heap.size := by omega
      simp [h, this]
      omega
    · simp [h1]
  simp only [e]

/-- One round, from its body's walk. -/
theorem round_turn_var {m l D B : Nat} {r : Loop} {args : Array Value} {W V0 : World} {G : World → Prop} {X : Code → World → Prop} {a1 : Act} (hF : F.fn r.fn) (hst : r.state = .ready) (hpe : r.pending = none) (h0 : Two l D r W) (h : Two l D r V0) (hne : l ≠ D) (hl : B ≤ l) (hD : B ≤ D) (hs : args.size = r.params.size)
    (hassign : ∀ K : Act → World → Prop, K a1 V0 → r.assign.wpIn (F.inRound l) m P (Exit.then K (fun _ _ _ => False)) { tmps := (r.params.zip args).foldl (fun t (p, v) => t.setIfInBounds p v) r.tmps, defers := [] } W)
    (hbody : r.body.wpIn (F.inRound l) m P (leaves B (V0.putObj l (.loop { r with state := .busy })) G X) a1 (V0.putObj l (.loop { r with state := .busy }))) :
    YieldAt F m P l args W fun e W' => (e = .returned (.bool true) ∧ ∃ V, G V ∧ Two l D { r with state := .busy } V ∧ W' = V.putObj l (.loop r)) ∨
      (e = .returned (.bool false) ∧ ∃ c V, X c V ∧ Two l D { r with state := .busy } V ∧ W' = V.putObj l (.loop { r with state := .done, pending := some c })) := by
  have hb := h.turn hne { r with state := .busy }
  have er : ({ r with state := .ready, pending := none } : Loop) = r := by cases r; simp only at hst hpe; subst hst hpe; rfl
  have out : ∀ (c : Code) (V : World), KeepsFrom B (V0.putObj l (.loop { r with state := .busy })) V → X c V → ∃ v W', (Instr.endRound l (some c)).run P V = .ok v W' ∧
      ((Ending.returned v = .returned (.bool true) ∧ ∃ V, G V ∧ Two l D { r with state := .busy } V ∧ W' = V.putObj l (.loop r)) ∨
       (Ending.returned v = .returned (.bool false) ∧ ∃ c V, X c V ∧ Two l D { r with state := .busy } V ∧ W' = V.putObj l (.loop { r with state := .done, pending := some c }))) := fun c V k x =>
    ⟨_, _, run_endRound (some c) (hb.keep hl hD k).1, .inr ⟨rfl, c, V, x, hb.keep hl hD k, rfl⟩⟩
  refine ⟨r.fn, _, r.assign, r.body, run_yield h0.1 hs, roundIn_of_wpIn hF (hassign _ ⟨_, run_beginRound h.1 hst, wpIn_mono hbody ?_⟩)⟩
  intro e a3 V hV
  cases e with
  | normal => exact ⟨_, _, run_endRound none (hb.keep hl hD hV.1).1, .inl ⟨rfl, V, hV.2, hb.keep hl hD hV.1, congrArg (fun q => V.putObj l (.loop q)) er⟩⟩
  | ret => exact out _ V hV.1 hV.2
  | exit i => exact out _ V hV.1 hV.2
  | goto t => exact out _ V hV.1 hV.2
  | panic c => exact hV.elim
  | outgrown => exact hV.elim

theorem loop_turns_var {σ : Type} {g : Operand} {ps : Array Tmp} {assign body : Code} {Q : Exit → Act → World → Prop} {a : Act} {w : World}
    (hro : F.round = none) (h1 : 1 ≤ n) {gf : Nat} {lb : Array Value} (hg : a.eval g = .func (.func gf) #[] lb) (hFg : F.fn gf) (eg : ∀ args w, (callFunc gf args).run P w = .ok (.enter gf args) w)
    (enc : σ → Array Value) (hps : ∀ s, (enc s).size = ps.size) (I0 I1 : σ → World → Prop) (Ix : Code → σ → World → Prop) (Ie : σ → World → Prop) (Ib : World → Prop)
    (hiter : Iter F (n - 1) P w.heap.size gf lb enc I0 I1 Ix Ie Ib)
    (o0 : OwnFrom w.heap.size I0) (o1 : OwnFrom w.heap.size I1) (ox : ∀ c, OwnFrom w.heap.size (Ix c)) (oe : OwnFrom w.heap.size Ie) (ob : OwnFrom w.heap.size (fun (_ : Unit) W => Ib W)) (hs0 : Ib w) (o : σ → Obj) (a₁ : σ → Nat → Act)
    (hassign : ∀ (l : Nat) (s : σ) (W : World) (q : Nat), W.heap.size = q → ∀ (K : Act → World → Prop), K (a₁ s q) (W.alloc (o s)) → assign.wpIn (F.inRound l) (n - 1 - 1) P (Exit.then K (fun _ _ _ => False)) { tmps := (ps.zip (enc s)).foldl (fun t (p, v) => t.setIfInBounds p v) a.tmps, defers := [] } W)
    (hbody : ∀ (l : Nat) (s : σ) (W : World), I0 s W → w.heap.size ≤ W.heap.size → body.wpIn (F.inRound l) (n - 1 - 1) P (leaves w.heap.size (W.alloc (o s)) (I1 s) (fun c => Ix c s)) (a₁ s W.heap.size) (W.alloc (o s)))
    (hdone : ∀ (D : Nat) (s : σ) (W : World), w.heap.size ≤ D → Ie s W → W.heap[D]? = some (.deferred (some [])) → Q .normal { a with defers := { target := .collected D, args := #[] } :: a.defers } W)
    (hstop : ∀ (D : Nat) (c : Code) (s : σ) (W : World), w.heap.size ≤ D → Ix c s W → W.heap[D]? = some (.deferred (some [])) → c.wpIn F n P Q { a with defers := { target := .collected D, args := #[] } :: a.defers } W) :
    (Code.rangeFunc g ps assign body).wpIn F n P Q a w := by
  refine wpIn_rangeFunc fun fn hfn => ?_
  rw [hro]
  obtain ⟨r, hr⟩ : ∃ r : Loop, ({ state := .ready, pending := none, fn, tmps := a.tmps, params := ps, assign, body, defers := w.heap.size } : Loop) = r := ⟨_, rfl⟩
  have hen := run_enterLoop_outer (P := P) (w := w) fn a.tmps ps assign body
  rw [hr] at hen
  have t1 : Two (w.heap.size + 1) w.heap.size r ((w.alloc (.deferred (some []))).alloc (.loop r)) := by
    refine ⟨?_, (Below.heap_alloc _ _ _ (by simp)).trans (World.alloc_heap_new w _)⟩
    have := World.alloc_heap_new (w.alloc (.deferred (some []))) (.loop r)
    rwa [World.size_alloc] at this
  obtain ⟨W1, hW⟩ : ∃ W1, (w.alloc (.deferred (some []))).alloc (.loop r) = W1 := ⟨_, rfl⟩
  have hs1 : Ib W1 := by rw [← hW]; exact ob.alloc (s := ()) _ (ob.alloc (s := ()) _ hs0)
  rw [hW] at hen t1
  refine ⟨w.heap.size + 1, [{ target := .collected w.heap.size, args := #[] }], W1, { target := .fn (.func gf) lb, args := #[.func (.yield (w.heap.size + 1)) #[] #[]] }, W1, gf, #[.func (.yield (w.heap.size + 1)) #[] #[]] ++ lb, W1, hen, ?_, ?_, ?_, fun _ => h1, ?_⟩
  · simp only [resolve, hg]
    simp [go_sem]
  · intro f' hf'
    simp [Target.leads] at hf'
    exact hf' ▸ hFg
  · simp [invoke, go_sem, eg]
  · refine (hiter (w.heap.size + 1) (Two (w.heap.size + 1) w.heap.size r) (fun c => Two (w.heap.size + 1) w.heap.size { r with state := .done, pending := some c })
      (fun V V' h k => h.keep (by omega) (Nat.le_refl _) k) (fun c V V' h k => h.keep (by omega) (Nat.le_refl _) k) ?_ W1 hs1 t1).mono ?_
    · intro s W hi ht
      have hb : I0 s (W.putObj (w.heap.size + 1) (.loop { r with state := .busy })) := o0.putObj _ hi (by omega) ht.1 rfl
      have hlt : w.heap.size + 1 < W.heap.size := (Array.getElem?_eq_some_iff.1 ht.1).1
      have hcm : (W.alloc (o s)).putObj (w.heap.size + 1) (.loop { r with state := .busy }) = (W.putObj (w.heap.size + 1) (.loop { r with state := .busy })).alloc (o s) := putObj_alloc _ _ _ _ hlt
      have hsz : (W.putObj (w.heap.size + 1) (.loop { r with state := .busy })).heap.size = W.heap.size := by simp [World.putObj]
      obtain ⟨fn', tm, asg, bo, hy, hR⟩ := round_turn_var (P := P) (m := n - 1 - 1) (B := w.heap.size) (V0 := W.alloc (o s)) (a1 := a₁ s W.heap.size) (args := enc s) (G := I1 s) (X := fun c => Ix c s) (by rw [← hr]; exact hfn) (by rw [← hr]) (by rw [← hr]) ht (ht.alloc _) (by omega) (by omega) (Nat.le_refl _) (by rw [← hr]; exact hps s)
        (by rw [← hr]; exact fun K hK => hassign _ s W _ rfl K hK) (by have := hbody (w.heap.size + 1) s _ hb (by rw [hsz]; omega); rw [hsz] at this; rw [hcm]; rw [← hr]; rw [← hr] at this; exact this)
      refine ⟨fn', tm, asg, bo, hy, hR.mono ?_⟩
      rintro e W' (⟨rfl, V, hG, hT, rfl⟩ | ⟨rfl, c, V, hX, hT, rfl⟩)
      · exact .inl ⟨rfl, o1.putObj _ hG (by omega) hT.1 rfl, hT.turn (by omega) _⟩
      · exact .inr ⟨rfl, c, (ox c).putObj _ hX (by omega) hT.1 rfl, hT.turn (by omega) _⟩
    · rintro e W' ⟨⟨v, rfl⟩, ⟨s, hi, ht⟩ | ⟨c, s, hi, ht⟩⟩
      · refine ⟨_, _, run_endLoop ht.1 (by rw [← hr]; simp), ?_⟩
        have := hdone w.heap.size s _ (Nat.le_refl _) (oe.putObj (.loop { r with state := .exhausted }) hi (by omega) ht.1 rfl) ((World.putObj_heap_other (by omega)).trans ht.2)
        rw [← hr] at this ⊢
        exact this
      · refine ⟨_, _, run_endLoop ht.1 (by simp), ?_⟩
        exact hstop w.heap.size c s _ (Nat.le_refl _) ((ox c).putObj _ hi (by omega) ht.1 rfl) ((World.putObj_heap_other (by omega)).trans ht.2)

end Go.Proofs.Ytghakpcagacdaac

namespace Go.Proofs.Ytghakpcagacdaac
open Go.RowKit
set_option linter.unusedVariables false

theorem prog_laid : laidOutB Try.prog = true := by kernel_rfl

theorem field_keyed : Maps.Keyed Try.prog 36 := .of_law (deep_law_laid prog_laid (m := 3) (by omega) (of_decide_eq_true (by kernel_rfl)) (by kernel_rfl) (by kernel_rfl))

theorem text_keyed : Maps.Keyed Try.prog 9 := Maps.string_keyed Try.underlying9

/-- What a field reads as, as a key. -/
def litF (f : Fld) : Lit := .string (keyBytes [.string f.1.data.toList, .string f.2.data.toList])
def litT (x : ByteArray) : Lit := .string x.data.toList
abbrev fitsF (f : Fld) : Prop := f.1.size ≤ maxLen ∧ f.2.size ≤ maxLen

theorem key_field (f : Fld) (h : fitsF f) : keyOf Try.prog 36 (.agg #[.string f.1, .string f.2]) = some (litF f) := by
  have hk : Try.prog.keyType 36 = true := by kernel_rfl
  obtain ⟨n, hn⟩ : ∃ n, Try.prog.types.size + 1 = n + 2 := ⟨Try.prog.types.size - 1, by kernel_rfl⟩
  unfold keyOf
  rw [Try.underlying36, hn]
  have c2 : Try.prog.cellsOf 36 = 2 := by kernel_rfl
  have c1 : Try.prog.cellsOf 9 = 1 := by kernel_rfl
  simp [Program.keyLits, Try.underlying36, Try.underlying9, hk, h.1, h.2, Value.formed, Value.cells, c1, c2, litF]

theorem litF_inj {f g : Fld} (hf : fitsF f) (hg : fitsF g) (e : litF f = litF g) : f = g := by
  have h := field_keyed.inj (key_field f hf) (by rw [e]; exact key_field g hg)
  simp at h
  exact Prod.ext h.1 h.2

theorem litT_inj {x y : ByteArray} (e : litT x = litT y) : x = y := by
  have h : x.data.toList = y.data.toList := by
    have := e
    unfold litT at this
    injection this
  have h' : x.data = y.data := Array.toList_inj.1 h
  cases x; cases y; simp at h'; rw [h']

/-- The map D tells the least place of each key, plus 1, among those from j on. -/
def Num {κ : Type} (K : List κ) (lit : κ → Lit) (ok : κ → Prop) (j : Nat) (D : DataW Unit) : Prop := Maps.IsMap D ∧ ∀ x, ok x →
  (∃ i, j ≤ i ∧ K[i]? = some x ∧ (∀ i', j ≤ i' → i' < i → K[i']? ≠ some x) ∧ Maps.has D (lit x) = true ∧ ∀ z, D.atKey (lit x) z = .lit (.int .i64 ((i : Int) + 1))) ∨
  ((∀ i, j ≤ i → K[i]? ≠ some x) ∧ Maps.has D (lit x) = false ∧ ∀ z, D.atKey (lit x) z = z)

theorem Num.start {κ : Type} (K : List κ) (lit : κ → Lit) (ok : κ → Prop) : Num K lit ok K.length (.map []) := by
  refine ⟨Maps.isMap_empty, fun x hx => .inr ⟨fun i hi => ?_, rfl, fun z => rfl⟩⟩
  rw [List.getElem?_eq_none hi]
  simp

theorem Num.step {κ : Type} {K : List κ} {lit : κ → Lit} {ok : κ → Prop} {j : Nat} {D : DataW Unit} (h : Num K lit ok (j + 1) D) (y : κ) (hy : K[j]? = some y) (hk : WideAt.IsKeyLit (lit y)) (inj : ∀ x, ok x → lit x = lit y → x = y) :
    Num K lit ok j (D.put (lit y) (.lit (.int .i64 ((j : Int) + 1)))) := by
  refine ⟨h.1.put _ _, fun x hx => ?_⟩
  by_cases e : x = y
  · subst e
    exact .inl ⟨j, Nat.le_refl _, hy, fun i' h1 h2 => by omega, Maps.has_put_same h.1 hk _, fun z => Maps.atKey_put_same h.1 hk _ _⟩
  · have hne : lit x ≠ lit y := fun h => e (inj x hx h)
    rcases h.2 x hx with ⟨i, h1, h2, h3, h4, h5⟩ | ⟨h1, h2, h3⟩
    · refine .inl ⟨i, by omega, h2, fun i' g1 g2 => ?_, (Maps.has_put_other hne _).trans h4, fun z => (Maps.atKey_put_other hne _ _).trans (h5 z)⟩
      by_cases g : i' = j
      · rw [g, hy]
        intro c
        injection c with c
        exact e c.symm
      · exact h3 i' (by omega) g2
    · refine .inr ⟨fun i hi => ?_, (Maps.has_put_other hne _).trans h2, fun z => (Maps.atKey_put_other hne _ _).trans (h3 z)⟩
      by_cases g : i = j
      · rw [g, hy]
        intro c
        injection c with c
        exact e c.symm
      · exact h1 i (by omega)

end Go.Proofs.Ytghakpcagacdaac
