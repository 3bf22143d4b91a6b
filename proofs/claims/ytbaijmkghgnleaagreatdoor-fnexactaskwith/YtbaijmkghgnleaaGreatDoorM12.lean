/- The program's ring of fields: its cells, a slot, a field that is pushed. -/
import Derived.Test.YtbaijmkghgnleaaGreatDoorM10
import Derived.Test.YtbaijmkghgnleaaGreatDoorM11
import Derived.Deep.RegionWith
namespace Go.Proofs.YtbaijmkghgnleaaGreatDoor
open Go.RowKit
set_option linter.unusedVariables false

/-- The cells of a ring: the newest field in the slot p, each older one a slot further on. -/
structure RingC (cs : Array Value) (p : Nat) (fs : List Fld) : Prop where
  size : cs.size = 259
  lt : p < 128
  few : fs.length ≤ 128
  front : cs[256]? = some (.int .i64 (p : Int))
  count : cs[257]? = some (.int .i64 (fs.length : Int))
  sum : cs[258]? = some (.int .i64 (szL fs : Int))
  one : ∀ k, k < 256 → ∃ x, cs[k]? = some (.string x)
  slot : ∀ i (hi : i < fs.length), cs[(p + i) % 128 * 2]? = some (.string (fs[i]).1) ∧ cs[(p + i) % 128 * 2 + 1]? = some (.string (fs[i]).2)

theorem set_get (cs : Array Value) (k j : Nat) (v : Value) (hk : k < cs.size) : (cs.setIfInBounds k v)[j]? = if k = j then some v else cs[j]? := by
  rw [Array.getElem?_setIfInBounds]
  split
  · first | rfl | rw [if_pos hk]
  · rfl

theorem RingC.push {cs : Array Value} {p : Nat} {fs : List Fld} (r : RingC cs p fs) (hn : fs.length < 128) (x y : ByteArray) (q : Nat) (hq : (p + 127) % 128 = q) :
    RingC (((((cs.setIfInBounds 256 (.int .i64 (q : Int))).setIfInBounds (q * 2) (.string x)).setIfInBounds (q * 2 + 1) (.string y)).setIfInBounds 257 (.int .i64 ((fs.length : Int) + 1))).setIfInBounds 258 (.int .i64 ((szL fs : Int) + ((x.size : Int) + (y.size : Int) + 32)))) q ((x, y) :: fs) := by
  have hp := r.lt
  have hz := r.size
  have hq' : q < 128 := by omega
  have g : ∀ j, (((((cs.setIfInBounds 256 (.int .i64 (q : Int))).setIfInBounds (q * 2) (.string x)).setIfInBounds (q * 2 + 1) (.string y)).setIfInBounds 257 (.int .i64 ((fs.length : Int) + 1))).setIfInBounds 258 (.int .i64 ((szL fs : Int) + ((x.size : Int) + (y.size : Int) + 32))))[j]? =
      if 258 = j then some (.int .i64 ((szL fs : Int) + ((x.size : Int) + (y.size : Int) + 32))) else if 257 = j then some (.int .i64 ((fs.length : Int) + 1)) else if q * 2 + 1 = j then some (.string y) else if q * 2 = j then some (.string x) else if 256 = j then some (.int .i64 (q : Int)) else cs[j]? := by
    intro j
    rw [set_get _ _ _ _ (by simp; omega), set_get _ _ _ _ (by simp; omega), set_get _ _ _ _ (by simp; omega), set_get _ _ _ _ (by simp; omega), set_get _ _ _ _ (by omega)]
  refine ⟨by simp; omega, hq', by simp; omega, ?_, ?_, ?_, ?_, ?_⟩
  · rw [g, if_neg (by omega), if_neg (by omega), if_neg (by omega), if_neg (by omega), if_pos rfl]
  · rw [g, if_neg (by omega), if_pos rfl]
    simp
  · rw [g, if_pos rfl, szL_cons]
    congr 2
    simp only [Int.natCast_add]
    omega
  · intro k hk
    rw [g, if_neg (by omega), if_neg (by omega)]
    by_cases h1 : q * 2 + 1 = k
    · exact ⟨y, by rw [if_pos h1]⟩
    · rw [if_neg h1]
      by_cases h2 : q * 2 = k
      · exact ⟨x, by rw [if_pos h2]⟩
      · rw [if_neg h2, if_neg (by omega)]
        exact r.one k hk
  · intro i hi
    cases i with
    | zero =>
      have e : (q + 0) % 128 = q := by omega
      rw [e, g, g, if_neg (by omega), if_neg (by omega), if_neg (by omega), if_pos rfl, if_neg (by omega), if_neg (by omega), if_pos rfl]
      exact ⟨rfl, rfl⟩
    | succ i =>
      have hi' : i < fs.length := by simpa using hi
      have e : (q + (i + 1)) % 128 = (p + i) % 128 := by omega
      have e2 : (p + i) % 128 ≠ q := by omega
      have e3 : (p + i) % 128 < 128 := Nat.mod_lt _ (by omega)
      rw [e, g, g, if_neg (by omega), if_neg (by omega), if_neg (by omega), if_neg (by omega), if_neg (by omega), if_neg (by omega), if_neg (by omega), if_neg (by omega), if_neg (by omega), if_neg (by omega)]
      exact r.slot i hi'

/-- A ring in the block b. -/
def Ring (W : World) (b p : Nat) (fs : List Fld) : Prop := ∃ cs, W.heap[b]? = some (.cells cs 146 (0, 0)) ∧ RingC cs p fs

theorem Ring.lt {W : World} {b p : Nat} {fs : List Fld} (h : Ring W b p fs) : b < W.heap.size := by
  obtain ⟨cs, h, _⟩ := h
  exact (Array.getElem?_eq_some_iff.1 h).1

theorem Ring.stays {W W' : World} {b p : Nat} {fs : List Fld} (h : Ring W b p fs) (hb : Below W.heap.size W W') : Ring W' b p fs := by
  have hl := h.lt
  obtain ⟨cs, h, r⟩ := h
  exact ⟨cs, (hb.block b hl).trans h, r⟩

theorem Ring.kept {W W' : World} {b p : Nat} {fs : List Fld} {row : Option Nat} (h : Ring W b p fs) (hg : W.grownBy W' row) (hne : some b ≠ row) : Ring W' b p fs := by
  have hl := h.lt
  obtain ⟨cs, h, r⟩ := h
  exact ⟨cs, (hg.block b hl hne).trans h, r⟩

/-- A world that has grown from w, but for the block b, which has these cells. -/
structure RG (w : World) (b : Nat) (cs : Array Value) (W : World) : Prop where
  block : W.heap[b]? = some (.cells cs 146 (0, 0))
  grown : w.grownBy W (some b)

theorem RG.cell {w W : World} {b : Nat} {cs : Array Value} (h : RG w b cs W) {k : Nat} {v : Value} (hk : cs[k]? = some v) : W.cell? ⟨b, k, none⟩ = some v := (cell_of_row _ _ _ _ _ _ h.block).trans hk
theorem RG.free {w W : World} {b : Nat} {cs : Array Value} (h : RG w b cs W) (k : Nat) : W.frozen? ⟨b, k, none⟩ = false := by
  have := h.block
  simp [World.frozen?, this]
theorem RG.set {w W : World} {b : Nat} {cs : Array Value} (h : RG w b cs W) (k : Nat) (v : Value) : RG w b (cs.setIfInBounds k v) (W.setCell ⟨b, k, none⟩ v) := by
  refine ⟨?_, h.grown.os, h.grown.tape, h.grown.output, ?_, fun q hq hne => ?_⟩
  · rw [setCell_eq_setRow W b k cs _ (0, 0) _ h.block, setRow_heap W b cs _ _ (0, 0) h.block]
  · have : (W.setCell ⟨b, k, none⟩ v).heap.size = W.heap.size := by simp [World.setCell]
    rw [this]
    exact h.grown.size
  · rw [set_block_other _ _ _ _ _ (fun e => hne (by rw [e]))]
    exact h.grown.block q hq hne
theorem RG.drew {w W : World} {b : Nat} {cs : Array Value} (h : RG w b cs W) : RG w b cs W.drew := ⟨h.block, h.grown.os, h.grown.tape, h.grown.output, h.grown.size, h.grown.block⟩
theorem RG.stays {w W W' : World} {b : Nat} {cs : Array Value} (h : RG w b cs W) (hb : Below W.heap.size W W') : RG w b cs W' :=
  ⟨(hb.block b (Array.getElem?_eq_some_iff.1 h.block).1).trans h.block, hb.os.trans h.grown.os, hb.tape.trans h.grown.tape, hb.output.trans h.grown.output, Nat.le_trans h.grown.size hb.size, fun q hq hne => (hb.block q (Nat.lt_of_lt_of_le hq h.grown.size)).trans (h.grown.block q hq hne)⟩
theorem RG.alloc {w W : World} {b : Nat} {cs : Array Value} (h : RG w b cs W) (o : Obj) : RG w b cs (W.alloc o) := h.stays ((Below.refl _ _).alloc (Nat.le_refl _) _)
theorem RG.refl {w : World} {b : Nat} {cs : Array Value} (h : w.heap[b]? = some (.cells cs 146 (0, 0))) : RG w b cs w := ⟨h, rfl, rfl, rfl, Nat.le_refl _, fun _ _ _ => rfl⟩

theorem Box2.set_other {W : World} {b g : Nat} {t : TypeId} {x y : Value} (h : Box2 W b t x y) (k : Nat) (v : Value) (hne : b ≠ g) : Box2 (W.setCell ⟨g, k, none⟩ v) b t x y := (set_block_other _ _ _ _ _ hne).trans h

set_option maxHeartbeats 400000 in
theorem slot_any (b p k : Nat) (w : World) (hc : w.cell? ⟨b, 256, none⟩ = some (.int .i64 (p : Int))) (hf : p < 128) (hk : k ≤ 128) :
    Calls Tryz.prog 116 #[.pointer (some ⟨b, 0, none⟩), .int .i64 (k : Int)] w fun e w' => e = .returned (.int .i64 (((p + k) % 128 : Nat) : Int)) ∧ w' = w := by
  have hfi : (p : Int) < 128 := by omega
  have hki : (k : Int) ≤ 128 := by omega
  go_enter Tryz.func116, Tryz.ntmps116
  go_wp2
  go_ret
  exact ⟨ret_int (by omega), rfl⟩

set_option maxRecDepth 10000 in
set_option maxHeartbeats 1600000 in
theorem push_any (b p : Nat) (fs : List Fld) (x y : ByteArray) (w : World) (h : Ring w b p fs) (hn : fs.length < 128) (hs : szL fs ≤ 100000) (hxy : x.size + y.size ≤ 100000) :
    Calls Tryz.prog 103 #[.pointer (some ⟨b, 0, none⟩), .agg #[.string x, .string y]] w fun e w' => ∃ v, e = .returned v ∧ Ring w' b ((p + 127) % 128) ((x, y) :: fs) ∧ w.grownBy w' (some b) := by
  obtain ⟨cs, hcs, r⟩ := h
  have hbl : b < w.heap.size := (Array.getElem?_eq_some_iff.1 hcs).1
  obtain ⟨q, hq⟩ : ∃ q, (p + 127) % 128 = q := ⟨_, rfl⟩
  have hq' : q < 128 := by omega
  have HRC := r.push hn x y q hq
  rw [hq]
  have g0 := (RG.refl hcs).alloc (.cells #[.string x, .string y] 69)
  have HP := slot_any b p 127 _ (g0.cell r.front) r.lt (by omega)
  rw [hq] at HP
  have HP' : Hid (Calls Tryz.prog 116 #[.pointer (some ⟨b, 0, none⟩), .int .i64 127] (w.alloc (Obj.cells #[Value.string x, Value.string y] 69)) fun e w' => e = .returned (.int .i64 ((q : Nat) : Int)) ∧ w' = w.alloc (Obj.cells #[Value.string x, Value.string y] 69)) := HP
  have c0 := g0.cell r.front
  have f0 := g0.free 256
  have HRC' : Hid (RingC (((((cs.setIfInBounds 256 (.int .i64 (q : Int))).setIfInBounds (q * 2) (.string x)).setIfInBounds (q * 2 + 1) (.string y)).setIfInBounds 257 (.int .i64 ((fs.length : Int) + 1))).setIfInBounds 258 (.int .i64 ((szL fs : Int) + ((x.size : Int) + (y.size : Int) + 32)))) q ((x, y) :: fs)) := HRC
  have HR : Hid (RingC cs p fs) := r
  have HCS : Hid (w.heap[b]? = some (.cells cs 146 (0, 0))) := hcs
  clear HP HRC r g0 hcs
  have hqi : (q : Int) < 128 := by omega
  go_enter Tryz.func103, Tryz.ntmps103
  go_wp2_with fail
  refine HP'.out.mono ?_
  rintro e w1 ⟨rfl, rfl⟩
  go_wp2_with fail
  obtain ⟨V1, hV1⟩ : ∃ V1, (w.setCell ⟨b, 256, none⟩ (.int .i64 (q : Int))).alloc (Obj.cells #[Value.string x, Value.string y] 69) = V1 := ⟨_, rfl⟩
  have G1 : RG w b (cs.setIfInBounds 256 (.int .i64 (q : Int))) V1 := by rw [← hV1]; exact ((RG.refl HCS.out).set _ _).alloc _
  have Q1 : Box2 V1 w.heap.size 69 (.string x) (.string y) := by
    rw [← hV1]
    have := Box2.new (w.setCell ⟨b, 256, none⟩ (.int .i64 (q : Int))) 69 (.string x) (.string y)
    simpa using this
  have hz := HR.out.size
  obtain ⟨u0, hu0⟩ := HR.out.one (q * 2) (by omega)
  obtain ⟨u1, hu1⟩ := HR.out.one (q * 2 + 1) (by omega)
  rw [hV1]
  have d0 := G1.cell (k := 256) (v := .int .i64 (q : Int)) (by rw [set_get _ _ _ _ (by omega), if_pos rfl])
  have d1 := G1.cell (k := q * 2) (v := .string u0) (by rw [set_get _ _ _ _ (by omega), if_neg (by omega)]; exact hu0)
  have d2 := G1.cell (k := q * 2 + 1) (v := .string u1) (by rw [set_get _ _ _ _ (by omega), if_neg (by omega)]; exact hu1)
  have e1 := G1.free (q * 2)
  have e2 := G1.free (q * 2 + 1)
  obtain ⟨x0, x1, _, _⟩ := Q1.cells
  clear c0 f0 hV1 hu0 hu1
  go_region
  obtain ⟨V2, hV2⟩ : ∃ V2, ((V1.setCell ⟨b, q * 2, none⟩ (.string x)).setCell ⟨b, q * 2 + 1, none⟩ (.string y)).drew = V2 := ⟨_, rfl⟩
  have G2 : RG w b (((cs.setIfInBounds 256 (.int .i64 (q : Int))).setIfInBounds (q * 2) (.string x)).setIfInBounds (q * 2 + 1) (.string y)) V2 := by rw [← hV2]; exact ((G1.set _ _).set _ _).drew
  have Q2 : Box2 V2 w.heap.size 69 (.string x) (.string y) := by rw [← hV2]; exact (Q1.set_other _ _ (by omega)).set_other _ _ (by omega)
  rw [hV2]
  have hg : ∀ j, 256 < j → (((cs.setIfInBounds 256 (.int .i64 (q : Int))).setIfInBounds (q * 2) (.string x)).setIfInBounds (q * 2 + 1) (.string y))[j]? = cs[j]? := by
    intro j hj
    rw [set_get _ _ _ _ (by simp; omega), if_neg (by omega), set_get _ _ _ _ (by simp; omega), if_neg (by omega), set_get _ _ _ _ (by omega), if_neg (by omega)]
  have k1 := G2.cell (k := 257) (v := .int .i64 (fs.length : Int)) ((hg 257 (by omega)).trans HR.out.count)
  have k2 := G2.cell (k := 258) (v := .int .i64 (szL fs : Int)) ((hg 258 (by omega)).trans HR.out.sum)
  have m1 := G2.free 257
  have hni : (fs.length : Int) < 128 := by omega
  have HSum : Hid ((((cs.setIfInBounds 256 (.int .i64 (q : Int))).setIfInBounds (q * 2) (.string x)).setIfInBounds (q * 2 + 1) (.string y)).size = 259 ∧ (((cs.setIfInBounds 256 (.int .i64 (q : Int))).setIfInBounds (q * 2) (.string x)).setIfInBounds (q * 2 + 1) (.string y))[258]? = some (.int .i64 (szL fs : Int))) := ⟨by simp; omega, (hg 258 (by omega)).trans HR.out.sum⟩
  clear hV2 d0 d1 d2 e1 e2 x0 x1 G1 Q1 hg
  generalize (((cs.setIfInBounds 256 (.int .i64 (q : Int))).setIfInBounds (q * 2) (.string x)).setIfInBounds (q * 2 + 1) (.string y)) = c2 at *
  go_wp2_with fail
  obtain ⟨V3, hV3⟩ : ∃ V3, V2.setCell ⟨b, 257, none⟩ (.int .i64 ((fs.length : Int) + 1)) = V3 := ⟨_, rfl⟩
  have G3 : RG w b (c2.setIfInBounds 257 (.int .i64 ((fs.length : Int) + 1))) V3 := by rw [← hV3]; exact G2.set _ _
  have Q3 : Box2 V3 w.heap.size 69 (.string x) (.string y) := by rw [← hV3]; exact Q2.set_other _ _ (by omega)
  rw [hV3]
  have j2 : (c2.setIfInBounds 257 (.int .i64 ((fs.length : Int) + 1)))[258]? = some (.int .i64 (szL fs : Int)) := by
    rw [set_get _ _ _ _ (by rw [HSum.out.1]; omega), if_neg (by omega)]
    exact HSum.out.2
  have l2 := G3.cell j2
  obtain ⟨y0, y1, _, _⟩ := Q3.cells
  clear hV3 k1 k2 m1 G2 Q2
  have hsi : (szL fs : Int) ≤ 100000 := by omega
  have hxi : (x.size : Int) + (y.size : Int) ≤ 100000 := by omega
  go_region_with (first
    | (go_at_call 71; refine (implOf4_any x y _ (by omega)).mono ?_; rintro e V4 ⟨rfl, hb4⟩; have G4 := G3.drew.stays hb4; have n2 := G4.cell j2; have n3 := G4.free 258))
  all_goals
    have G5 := G4.set 258 (.int .i64 ((szL fs : Int) + ((x.size : Int) + (y.size : Int) + 32)))
    clear hb4 G3 Q3 l2 y0 y1 n2 n3
    go_wp2_with fail
    go_end0
    have hwr : IntKind.i64.wrap ((szL fs : Int) + ((x.size : Int) + (y.size : Int) + 32)) = (szL fs : Int) + ((x.size : Int) + (y.size : Int) + 32) := by simp [IntKind.wrap, go_sem]; omega
    rw [hwr]
    exact ⟨_, rfl, ⟨_, G5.block, HRC'.out⟩, G5.grown⟩

end Go.Proofs.YtbaijmkghgnleaaGreatDoor
