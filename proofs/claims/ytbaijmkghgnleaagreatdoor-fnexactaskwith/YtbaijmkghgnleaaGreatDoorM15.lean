/- The program's ring of fields: made smaller; its fields as a list; a ring of a table's fields. -/
import Derived.Test.YtbaijmkghgnleaaGreatDoorM13
import Derived.Test.YtbaijmkghgnleaaGreatDoorM14
import Derived.Laws.MakeOwn
import Derived.Shelf.Abstract
namespace Go.Proofs.YtbaijmkghgnleaaGreatDoor
open Go.RowKit Go.Shelf
set_option linter.unusedVariables false

/-- How many of the newest fields are left for most bytes: all, or as many as fit. -/
def Left (most : Int) (fs : List Fld) (k : Nat) : Prop := k ≤ fs.length ∧ (k = 0 ∨ (szL (fs.take k) : Int) ≤ most) ∧ (k = fs.length ∨ most < (szL (fs.take (k + 1)) : Int))

theorem gb_trans {w W V : World} {b : Nat} (h : w.grownBy W (some b)) (k : W.grownBy V (some b)) : w.grownBy V (some b) :=
  ⟨k.os.trans h.os, k.tape.trans h.tape, k.output.trans h.output, Nat.le_trans h.size k.size, fun q hq hne => (k.block q (Nat.lt_of_lt_of_le hq h.size) hne).trans (h.block q hq hne)⟩

/-- The count in the ring's block. -/
def cntIn (b : Nat) (W : World) : Nat := match W.cell? ⟨b, 257, none⟩ with | some (.int _ n) => n.toNat | _ => 0

theorem Ring.cells {W : World} {b p : Nat} {fs : List Fld} (h : Ring W b p fs) : W.cell? ⟨b, 256, none⟩ = some (.int .i64 (p : Int)) ∧ W.cell? ⟨b, 257, none⟩ = some (.int .i64 (fs.length : Int)) ∧ W.cell? ⟨b, 258, none⟩ = some (.int .i64 (szL fs : Int)) := by
  obtain ⟨cs, h, r⟩ := h
  exact ⟨(cell_of_row _ _ _ _ _ _ h).trans r.front, (cell_of_row _ _ _ _ _ _ h).trans r.count, (cell_of_row _ _ _ _ _ _ h).trans r.sum⟩

theorem Ring.cnt {W : World} {b p : Nat} {fs : List Fld} (h : Ring W b p fs) : cntIn b W = fs.length := by
  rw [cntIn, h.cells.2.1]
  exact Int.toNat_natCast _

set_option maxRecDepth 10000 in
set_option maxHeartbeats 1600000 in
theorem shrink_any (b p : Nat) (fs : List Fld) (most : Int) (w : World) (h : Ring w b p fs) (hs : szL fs ≤ 100000) :
    Calls Tryz.prog 102 #[.pointer (some ⟨b, 0, none⟩), .int .i64 most] w fun e w' => ∃ v k, e = .returned v ∧ Left most fs k ∧ Ring w' b p (fs.take k) ∧ w.grownBy w' (some b) := by
  have HR : Hid (Ring w b p fs) := h
  clear h
  go_enter Tryz.func102, Tryz.ntmps102
  go_wp2_with fail
  go_loopw [] (fun wr => ∃ k, k ≤ fs.length ∧ Hid (Ring wr b p (fs.take k)) ∧ Hid (w.grownBy wr (some b)) ∧ Hid (k = fs.length ∨ most < (szL (fs.take (k + 1)) : Int))) (fun wr => cntIn b wr)
  case atStart => exact ⟨fs.length, Nat.le_refl _, by rw [List.take_length]; exact HR, ⟨rfl, rfl, rfl, Nat.le_refl _, fun _ _ _ => rfl⟩, .inl rfl⟩
  case round =>
    clear HR
    obtain ⟨k, hk, HR, HG, HL⟩ := hrel
    have hl : (fs.take k).length = k := by rw [List.length_take]; omega
    obtain ⟨_, c1, c2⟩ := HR.out.cells
    rw [hl] at c1
    have hcn := HR.out.cnt
    rw [hl] at hcn
    have hz : szL (fs.take k) ≤ 100000 := Nat.le_trans (szL_take_le fs k) hs
    cases k with
    | zero =>
      go_wp2
      go_end0
      exact ⟨_, 0, rfl, ⟨Nat.zero_le _, .inl rfl, HL.out⟩, HR.out, HG.out⟩
    | succ n =>
      have hn0 : (0 : Int) < ((n + 1 : Nat) : Int) := by omega
      by_cases hm : most < (szL (fs.take (n + 1)) : Int)
      · go_wp2_with fail
        refine (drop_any b p (fs.take (n + 1)) n _ HR.out hl hz).mono ?_
        rintro e V ⟨v, rfl, hR, hG⟩
        have HR2 : Hid (Ring V b p (fs.take n)) := by
          show Ring _ _ _ _
          have := hR
          rw [List.take_take, show min n (n + 1) = n by omega] at this
          exact this
        have HG2 : Hid (w.grownBy V (some b)) := gb_trans HG.out hG
        have hc2 := HR2.out.cnt
        rw [List.length_take, show min n fs.length = n by omega] at hc2
        clear hR hG c1 c2
        go_wp2
        go_roundw
        case rel => exact ⟨n, by omega, HR2, HG2, .inr hm⟩
        case measure => rw [hcn, hc2]; omega
      · go_wp2
        go_end0
        have hL : Left most fs (n + 1) := ⟨hk, .inr (by omega), HL.out⟩
        first
          | exact ⟨_, n + 1, rfl, hL, HR.out, HG.out⟩
          | exact ⟨⟨_, rfl⟩, n + 1, hL, HR.out, HG.out⟩

theorem step_call_two {P : Program} {ops : Array Oper} {o : Oper} {a : Act} {w : World} {K : Act → World → Prop} {Q : Exit → Act → World → Prop} {E : Prop}
    (hg : o.guard = none) (f : FuncId) (x y : Operand) (t t' : TypeId) (ho : o.op = .call { callee := .value (.func f), args := #[x, y], argTypes := #[t, t'] })
    (hent : ∀ args w, (callFunc f args).run P w = .ok (.enter f args) w) (u v : Value) (hx : a.eval x = u) (hy : a.eval y = v) (R : Ending → World → Prop)
    (hc : Calls P f #[u, v] w R) (h : ∀ e w', R e w' → ∃ v, e = .returned v ∧ K (a.put o.dst v) w') :
    if Region.wanted o (yielded ops a.tmps) = true then Oper.wp P o a w K Q else E := by
  have hw : Region.wanted o (yielded ops a.tmps) = true := by simp [Region.wanted, hg]
  rw [if_pos hw]
  have hf : a.eval (.func f) = .func (.func f) #[] #[] := rfl
  unfold Oper.wp
  simp [execOp, ho, resolve, invoke, Deferred.ofValue, hent, hf, hx, hy, Oper.upon_enter]
  refine hc.mono ?_
  intro e w' hr
  obtain ⟨v, rfl, hk⟩ := h e w' hr
  exact hk

theorem wpList_make_own {P : Program} (w : World) {ops : Array Oper} {rest : List Oper} {o : Oper} {a : Act} {Q : Exit → Act → World → Prop}
    (hg : o.guard = none) (l c : Operand) (t : TypeId) (hop : o.op = Op.makeSlice t l c)
    (e : TypeId) (i : TypeInfo) (z : Value) (h1 : P.underlying t = some (.slice e)) (h2 : P.info? e = some i) (h3 : i.zero = some z) (m : Nat) (hl : a.eval l = .int .i64 0) (hc : a.eval c = .int .i64 (m : Int)) (hb : i.bytes * m ≤ 281474976710656) (hm : m ≤ maxLen)
    (hK : ∀ w', w'.ownsRow w.heap.size e i.size (.slice (some ⟨w.heap.size, 0, none⟩) 0 m) 0 [] → Below w.heap.size w w' → wpList P ops Q rest (a.put o.dst (.slice (some ⟨w.heap.size, 0, none⟩) 0 m)) w') :
    wpList P ops Q (o :: rest) a w := by
  refine wpList_plain hg fun K hK' => ?_
  have hm' : (m : Int) ≤ 9223372036854775807 := by unfold maxLen at hm; omega
  have hr := run_make (P := P) w t e i z h1 h2 h3 .i64 .i64 0 (m : Int) (by omega) (by omega) (by rw [← Int.natCast_mul]; omega) hm'
  simp only [Int.toNat_natCast, Int.toNat_zero] at hr
  unfold Oper.wp
  simp [execOp, hop, hl, hc, hr, Result.andThen]
  refine hK' _ _ (hK _ (World.ownsRow_made w _ m (Nat.le_refl _) hm ?_) ((Below.refl _ _).alloc (Nat.le_refl _) _))
  simp [madeCells]

theorem Ring.at {W : World} {b p : Nat} {fs : List Fld} (h : Ring W b p fs) (i : Nat) (hi : i < fs.length) : W.cell? ⟨b, (p + i) % 128 * 2, none⟩ = some (.string (fs[i]).1) ∧ W.cell? ⟨b, (p + i) % 128 * 2 + 1, none⟩ = some (.string (fs[i]).2) := by
  obtain ⟨cs, h, r⟩ := h
  exact ⟨(cell_of_row _ _ _ _ _ _ h).trans (r.slot i hi).1, (cell_of_row _ _ _ _ _ _ h).trans (r.slot i hi).2⟩

theorem Ring.few {W : World} {b p : Nat} {fs : List Fld} (h : Ring W b p fs) : fs.length ≤ 128 ∧ p < 128 := by
  obtain ⟨cs, h, r⟩ := h
  exact ⟨r.few, r.lt⟩

theorem two_new (w : World) (x y : ByteArray) (t : TypeId) : ∀ ad, (some ⟨w.heap.size, 0, none⟩ : Option Addr) = some ad → ∀ j u, (fieldCells [(x, y)])[j]? = some u → (w.alloc (.cells #[.string x, .string y] t)).cell? (ad.add j) = some u := by
  intro ad e j u hj
  injection e with e
  subst e
  have hadd : (⟨w.heap.size, 0, none⟩ : Addr).add j = ⟨w.heap.size, j, none⟩ := by unfold Addr.add; split <;> simp_all
  rw [hadd, cell_of_row _ _ _ _ _ _ (heap_alloc_new w (.cells #[.string x, .string y] t))]
  simpa [fieldCells] using hj

set_option maxRecDepth 10000 in
set_option maxHeartbeats 1600000 in
theorem list_any (b p : Nat) (fs : List Fld) (w : World) (h : Ring w b p fs) (hf : ∀ f ∈ fs, f.1.size ≤ maxLen ∧ f.2.size ≤ maxLen) :
    Calls Tryz.prog 104 #[.pointer (some ⟨b, 0, none⟩)] w fun e w' => ∃ v, e = .returned v ∧ OwnF w' w.heap.size v fs.length fs ∧ Below w.heap.size w w' := by
  have HR : Hid (Ring w b p fs) := h
  obtain ⟨i0, hi, hz0, hz1, hz2⟩ := info_parts info_field
  obtain ⟨c0, c1, c2⟩ := h.cells
  obtain ⟨hfew, hp⟩ := h.few
  clear h
  have HF : Hid (∀ f ∈ fs, f.1.size ≤ maxLen ∧ f.2.size ≤ maxLen) := hf
  have HMk : Hid (i0.bytes * fs.length ≤ 281474976710656 ∧ fs.length ≤ maxLen) := ⟨by rw [hz2]; omega, by unfold maxLen; omega⟩
  have HEnt : Hid (∀ args w, (callFunc 116 args).run Tryz.prog w = .ok (.enter 116 args) w) := enters_of Tryz.func116 (by kernel_rfl) rfl
  go_enter Tryz.func104, Tryz.ntmps104
  go_wp2_with (first | (refine wpList_make_own _ rfl _ _ 30 rfl 69 i0 (.agg #[.string ⟨#[]⟩, .string ⟨#[]⟩]) Tryz.underlying30 hi hz0 fs.length rfl rfl HMk.out.1 HMk.out.2 ?_; intro w1 hown1 hb1; have c1' := (HR.out.stays hb1).cells.2.1) | fail)
  rw [hz1] at hown1
  have HO1 : Hid (w1.ownsRow w.heap.size 69 2 (.slice (some ⟨w.heap.size, 0, none⟩) 0 fs.length) 0 []) := hown1
  have HB1 : Hid (Below w.heap.size w w1) := hb1
  have HBl : Hid (b < w.heap.size) := HR.out.lt
  clear hown1 hb1 c0 c1 c2 c1'
  go_loopw [3, 14] (fun v i wr => ∃ (k g cap : Nat), k ≤ fs.length ∧ i = .int .i64 (k : Int) ∧ v = .slice (some ⟨g, 0, none⟩) k cap ∧ Hid (wr.ownsRow w.heap.size 69 2 (.slice (some ⟨g, 0, none⟩) k cap) k (fieldCells (fs.take k))) ∧ Hid (Below w.heap.size w wr)) (fun _ i _ => fs.length - (intOf i).toNat)
  case atStart => exact ⟨0, w.heap.size, fs.length, Nat.zero_le _, rfl, rfl, HO1, HB1⟩
  case round =>
    clear HO1 HB1
    obtain ⟨k, g, cap, hk, rfl, rfl, HO, HB⟩ := hrel
    by_cases hlt : k < fs.length
    · have hR := HR.out.stays HB.out
      have hat := hR.at k hlt
      have hpk := slot_any b p k wr.drew hR.cells.1 hp (by omega)
      obtain ⟨q, hq⟩ : ∃ q, (p + k) % 128 = q := ⟨_, rfl⟩
      obtain ⟨x, hx⟩ : ∃ x, (fs[k]).1 = x := ⟨_, rfl⟩
      obtain ⟨y, hy⟩ : ∃ y, (fs[k]).2 = y := ⟨_, rfl⟩
      rw [hq] at hpk hat
      rw [hx, hy] at hat
      obtain ⟨a0, a1⟩ := hat
      have HPk : Hid (Calls Tryz.prog 116 #[.pointer (some ⟨b, 0, none⟩), .int .i64 (k : Int)] wr.drew fun e w' => e = .returned (.int .i64 (q : Int)) ∧ w' = wr.drew) := hpk
      have HNx : Hid (fieldCells (fs.take (k + 1)) = fieldCells (fs.take k) ++ fieldCells [(x, y)]) := by
        show _ = _
        rw [← fieldCells_append, List.take_add_one, List.getElem?_eq_getElem hlt, ← hx, ← hy]
        rfl
      have HOd : Hid ((wr.drew.alloc (.cells #[.string x, .string y] 69)).ownsRow w.heap.size 69 2 (.slice (some ⟨g, 0, none⟩) k cap) k (fieldCells (fs.take k))) := World.ownsRow.alloc (w := wr.drew) HO.out _
      have HAr : Hid (k + 1 ≤ maxLen ∧ (k + 1) * 32 ≤ 140737488355328) := ⟨by unfold maxLen; omega, by omega⟩
      have HSz : Hid (w.heap.size ≤ (wr.drew.alloc (.cells #[.string x, .string y] 69)).heap.size) := by show _ ≤ _; rw [World.size_alloc]; exact Nat.le_succ_of_le HB.out.size
      have HN : Hid (∀ ad, (some ⟨wr.heap.size, 0, none⟩ : Option Addr) = some ad → ∀ j u, (fieldCells [(x, y)])[j]? = some u → (wr.drew.alloc (.cells #[.string x, .string y] 69)).cell? (ad.add j) = some u) := two_new wr.drew x y _
      have hq' : q < 128 := by omega
      have hqi : (q : Int) < 128 := by omega
      have hki : (k : Int) < (fs.length : Int) := by omega
      have hkb : (k : Int) ≤ 128 := by omega
      clear hpk hR hx hy hq
      go_wp2_with fail
      go_region_law (first
        | (refine step_call_two rfl 116 (.tmp 19) (.tmp 20) 126 3 rfl HEnt.out (.pointer (some ⟨b, 0, none⟩)) (.int .i64 (k : Int)) rfl rfl _ HPk.out ?_; rintro e W ⟨rfl, rfl⟩; refine ⟨_, rfl, ?_⟩)
        | (refine step_append_src rfl (.tmp 17) (.tmp 26) 30 rfl w.heap.size 69 i0 (.agg #[.string ⟨#[]⟩, .string ⟨#[]⟩]) 2 32 Tryz.underlying30 hi hz0 hz1 hz2 rfl (by decide) g k cap (fieldCells (fs.take k)) rfl HOd.out (some ⟨wr.heap.size, 0, none⟩) 1 1 (fieldCells [(x, y)]) rfl (fun h => by cases h) rfl HN.out (fieldCells_one _) HAr.out.1 HAr.out.2 HSz.out ?_; intro v4 w4 hown hgrow; obtain ⟨g4, cap4, rfl, hg4, hg4'⟩ := row_some hown (by omega)))
      have hlo : w.heap.size ≤ g := (HO.out.lt _ rfl).1
      have HB4 : Hid (Below w.heap.size w w4) := ((HB.out.drew).alloc HB.out.size _).grown hgrow HSz.out (fun q hq => by injection hq with hq; omega)
      have HO4 : Hid (w4.ownsRow w.heap.size 69 2 (.slice (some ⟨g4, 0, none⟩) (k + 1) cap4) (k + 1) (fieldCells (fs.take (k + 1)))) := by
        show World.ownsRow _ _ _ _ _ _ _
        rw [HNx.out]
        exact hown
      clear hown hgrow
      go_wp2
      go_roundw
      case rel => exact ⟨k + 1, g4, cap4, by omega, by go_num, rfl, HO4, HB4⟩
      case measure => simp [intOf]; omega
    · obtain rfl : k = fs.length := by omega
      have HO2 : Hid (OwnF wr w.heap.size (.slice (some ⟨g, 0, none⟩) fs.length cap) fs.length fs) := by
        refine ⟨?_, HF.out⟩
        have := HO.out
        rw [List.take_length] at this
        exact this
      go_wp2
      go_ret
      exact ⟨_, rfl, HO2.out, HB.out⟩

end Go.Proofs.YtbaijmkghgnleaaGreatDoor
