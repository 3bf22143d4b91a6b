/- The draw of fields that may be a request's. For codes of at most 2^40 bytes. -/
import Derived.Test.YthojijhafhnclaeDoorDrawReqA
import Derived.Test.YthojijhafhnclaeDoorReqFldS
import Derived.Test.YthojijhafhnclaeDoorLawBig
import Derived.Deep.CutBlock
namespace Go.Proofs.YthojijhafhnclaeDoor
open Go.RowKit
set_option linter.unusedVariables false

/-- What the draw answers: some fields, few and short ones. -/
def DrawnF (w w' : World) (v : Value) : Prop := ∃ (A : Option Addr) (m C : Nat) (xs : List Fld), v = .slice A m C ∧ Flds w' A m xs ∧ m ≤ 5 ∧ m ≤ C ∧ (∀ f ∈ xs, f.2.size ≤ 100) ∧ Below w.heap.size w w'

theorem fieldCells_val (fs : List Fld) : ∀ (k : Nat) (hk : k < fs.length) (v : ByteArray), (fieldCells fs).set (k * 2 + 1) (.string v) = fieldCells (fs.set k ((fs[k]).1, v)) := by
  induction fs with
  | nil => intro k hk; simp at hk
  | cons f fs ih =>
    intro k hk v
    have e : ∀ (f : Fld) (fs : List Fld), fieldCells (f :: fs) = .string f.1 :: .string f.2 :: fieldCells fs := fun _ _ => rfl
    cases k with
    | zero => simp [e]
    | succ k =>
      have h := ih k (by simpa using hk) v
      rw [e, show (k + 1) * 2 + 1 = (k * 2 + 1) + 1 + 1 by omega]
      simp only [List.set_cons_succ, List.getElem_cons_succ, e]
      rw [h]

theorem OwnF.val {w : World} {base q n cap : Nat} {fs : List Fld} (h : OwnF w base (.slice (some ⟨q, 0, none⟩) n cap) n fs) {k : Nat} (hk : k < n) {v : ByteArray} (hv : v.size ≤ 100) (hs : ∀ f ∈ fs, f.2.size ≤ 100) :
    ∃ fs', OwnF (w.setCell ⟨q, k * 2 + 1, none⟩ (.string v)) base (.slice (some ⟨q, 0, none⟩) n cap) n fs' ∧ ∀ f ∈ fs', f.2.size ≤ 100 := by
  have hl : fs.length = n := h.len
  have hk' : k < fs.length := by omega
  have hst := h.1.stored (k * 2 + 1) (.string v)
  refine ⟨fs.set k ((fs[k]).1, v), ⟨by rw [← fieldCells_val fs k hk' v]; exact hst.1, fun f hf => ?_⟩, fun f hf => ?_⟩
  · rcases List.mem_or_eq_of_mem_set hf with h1 | rfl
    · exact h.2 f h1
    · exact ⟨(h.2 _ (List.getElem_mem hk')).1, by unfold maxLen; dsimp only; omega⟩
  · rcases List.mem_or_eq_of_mem_set hf with h1 | rfl
    · exact hs f h1
    · exact hv

theorem own_cell {w : World} {base q n cap : Nat} {fs : List Fld} (h : OwnF w base (.slice (some ⟨q, 0, none⟩) n cap) n fs) {j : Nat} (hj : j < 2 * n) : ∃ u, w.cell? ⟨q, j, none⟩ = some u := by
  have hl : (fieldCells fs).length = 2 * n := by rw [fieldCells_len, h.len]
  rw [h.1.cellAt j (by omega)]
  exact ⟨_, List.getElem?_eq_getElem (by omega)⟩

theorem own_capF {w : World} {base q n cap : Nat} {fs : List Fld} (h : OwnF w base (.slice (some ⟨q, 0, none⟩) n cap) n fs) : n ≤ cap := by
  rcases h.1.2 with ⟨e, rfl⟩ | ⟨g, cap', cur, e, _, _, hn, _⟩
  · exact Nat.zero_le _
  · simp only [Value.slice.injEq] at e
    obtain ⟨_, _, rfl⟩ := e
    exact hn

theorem own_capA {w : World} {base n cap : Nat} {a : Option Addr} {fs : List Fld} (h : OwnF w base (.slice a n cap) n fs) : n ≤ cap := by
  rcases h.1.2 with ⟨e, rfl⟩ | ⟨g, cap', cur, e, _, _, hn, _⟩
  · exact Nat.zero_le _
  · simp only [Value.slice.injEq] at e
    obtain ⟨_, _, rfl⟩ := e
    exact hn

theorem field_newD (y : World) (p q : ByteArray) : ∀ j v, (fieldCells [(p, q)])[j]? = some v → (y.alloc (.cells #[.string p, .string q] 38)).cell? ((⟨y.heap.size, 0, none⟩ : Addr).add j) = some v := by
  intro j v hj
  have : j = 0 ∨ j = 1 := by
    have := (List.getElem?_eq_some_iff.1 hj).1
    simp [fieldCells] at this
    omega
  rw [Addr.add_lit, cell_of_row _ _ _ _ _ _ (heap_alloc_new y _)]
  rcases this with rfl | rfl <;> simpa [fieldCells] using hj

theorem Flds.tail {w : World} {q n : Nat} {fs : List Fld} (h : Flds w (some ⟨q, 0, none⟩) n fs) (hn : 0 < n) : Flds w (some ⟨q, 2, none⟩) (n - 1) (fs.drop 1) := by
  obtain ⟨h1, h2, h3⟩ := h
  refine ⟨by simp; omega, fun f hf => h2 f (List.mem_of_mem_drop hf), ?_⟩
  rcases h3 with h0 | ⟨b, off, e, hb, hc⟩
  · omega
  · injection e with e
    injection e with e1 e2 _
    subst e1
    subst e2
    by_cases h1 : n - 1 = 0
    · exact .inl h1
    · refine .inr ⟨q, 2, rfl, hb, fun i hi => ?_⟩
      have hi' : i + 1 < fs.length := by simp at hi; omega
      have := hc (i + 1) hi'
      rw [show 0 + (i + 1) * 2 = 2 + i * 2 by omega] at this
      simpa [Nat.add_comm 1 i] using this

theorem fieldsR_short (op n : Int) (s : ByteArray) (hs : s.size ≤ 8) (h : reqB op s.data.toList n = true) : ∀ f ∈ fieldsR op s n, f.2.size ≤ 100 := by
  intro f hf
  rw [fieldsR, if_pos h] at hf
  rcases List.mem_append.1 hf with h1 | h1
  · simp only [threeF, List.mem_cons, List.not_mem_nil, or_false] at h1
    have hm := methT_size op
    have hsz : ((⟨#[47, 117, 112, 47]⟩ : ByteArray) ++ s).size = 4 + s.size := by rw [ByteArray.size_append]; rfl
    rcases h1 with rfl | rfl | rfl
    · dsimp only; omega
    · decide
    · dsimp only; omega
  · unfold numF at h1
    split at h1
    · cases h1
    · rename_i hnt
      obtain rfl : f = (nameT op, ⟨(Lib.decDigits n.toNat).toArray⟩) := by simpa using h1
      have hb := (reqB_id h).2.2 hnt
      have := decDigits_small 9 n.toNat (by omega)
      show (Lib.decDigits n.toNat).toArray.size ≤ _
      simp
      omega

set_option maxRecDepth 10000 in
set_option maxHeartbeats 3200000 in
theorem drawReqOf_any (a : Option Addr) (len cap : Nat) (zs : List Int) (w : World) (hs : Seg w a len zs) (hl : len ≤ 1099511627776) :
    Calls Tryd.prog 13 #[.slice a len cap] w fun e w' => ∃ v, e = .returned v ∧ DrawnF w w' v := by
  have HS : Hid (Seg w a len zs) := hs
  clear hs
  go_enter Tryd.func13, Tryd.ntmps13
  go_wp2_with fail
  refine (l1New_any a len cap zs w HS.out hl).mono ?_
  rintro e w1 ⟨rfl, hc1, hb1⟩
  obtain ⟨cc, hcc⟩ : ∃ cc, w.heap.size = cc := ⟨_, rfl⟩
  rw [hcc] at hc1 ⊢
  have HC1 : Hid (Cur w1 cc cc a len cap zs) := hc1
  have HB1 : Hid (Below w.heap.size w w1) := hb1
  clear hc1 hb1 HS
  go_wp2_with fail
  refine (l11Req_any cc cc a len cap zs w1 HC1.out hl).mono ?_
  rintro e w2 ⟨op, n, s, rfl, hr, hs8, hc2, hg2⟩
  have HC2 : Hid (Cur w2 cc cc a len cap zs) := hc2
  have HB2 : Hid (Below w.heap.size w w2) := HB1.out.grown hg2 HB1.out.size (fun k e => by injection e with e; omega)
  have HL : Hid ((fieldsR op s n).length ≤ 4) := fieldsR_len op s n
  have HL3 : Hid (3 ≤ (fieldsR op s n).length) := by
    show _ ≤ _
    rw [fieldsR, if_pos hr, List.length_append]
    exact Nat.le_add_right 3 _
  have HFs : Hid (∀ f ∈ fieldsR op s n, f.2.size ≤ 100) := fieldsR_short op n s hs8 hr
  have hs9 : s.size ≤ 9223372036854775807 := by omega
  clear hc2 hg2 hr hs8 HC1 HB1
  go_wp2_with fail
  refine (specFields_any op s n w2 hs9).mono ?_
  rintro e w3 ⟨lA, lC, rfl, ho3, hb3⟩
  obtain ⟨fs, hfs⟩ : ∃ fs, fieldsR op s n = fs := ⟨_, rfl⟩
  rw [hfs] at ho3 HL HL3 HFs ⊢
  clear hfs
  obtain ⟨m, hmm⟩ : ∃ m, fs.length = m := ⟨_, rfl⟩
  rw [hmm] at ho3 HL HL3 ⊢
  clear hmm
  have hm4 := HL.out
  have hm3 := HL3.out
  obtain ⟨q, rfl⟩ : ∃ q, lA = some ⟨q, 0, none⟩ := by
    rcases ho3.1.2 with ⟨e, h⟩ | ⟨g, cap', cur, e, _⟩
    · omega
    · injection e with e1 _ _
      exact ⟨g, e1⟩
  have HO3 : Hid (OwnF w3 w2.heap.size (.slice (some ⟨q, 0, none⟩) m lC) m fs) := ho3
  have hcw2 : cc < w2.heap.size := HC2.out.lt
  have HC3 : Hid (Cur w3 cc cc a len cap zs) := HC2.out.kept (gbelow hb3 none) (by simp)
  have HB3 : Hid (Below w.heap.size w w3) := HB2.out.trans (hb3.mono HB2.out.size)
  have hqc : cc < q := by have := (ho3.1.lt q rfl).1; omega
  clear ho3 hb3 HC2 HB2
  go_wp2_with fail
  refine (l1Below_any cc cc a len cap zs 12 w3 HC3.out hl (by omega) (by omega)).mono ?_
  rintro e w4 ⟨x, rfl, hx0, hx1, hc4, hg4⟩
  have HO4 : Hid (OwnF w4 (cc + 1) (.slice (some ⟨q, 0, none⟩) m lC) m fs) := by
    have h := HO3.out
    exact ⟨own_low (base := w2.heap.size) (h.1.kept hg4 (.inr (fun e => by have := (HO3.out.1.lt cc e).1; omega))) (by omega), h.2⟩
  have HC4 : Hid (Cur w4 cc cc a len cap zs) := hc4
  have HB4 : Hid (Below w.heap.size w w4) := HB3.out.grown hg4 HB3.out.size (fun k e => by injection e with e; omega)
  have hcap : m ≤ lC := own_capF HO4.out
  have hcl4 : cc < w4.heap.size := HC4.out.lt
  have hql4 : q < w4.heap.size := (HO4.out.1.lt q rfl).2
  clear hc4 hg4 HO3 HC3 HB3 hcw2
  have hxc : x = 0 ∨ x = 1 ∨ x = 2 ∨ x = 3 ∨ x = 4 ∨ x = 5 ∨ 5 < x := by omega
  rcases hxc with rfl | rfl | rfl | rfl | rfl | rfl | h5
  case inr.inr.inr.inr.inr.inr =>
    have n0 : (x == 0) = false := by simp; omega
    have n1 : (x == 1) = false := by simp; omega
    have n2 : (x == 2) = false := by simp; omega
    have n3 : (x == 3) = false := by simp; omega
    have n4 : (x == 4) = false := by simp; omega
    have n5 : (x == 5) = false := by simp; omega
    go_wp2_with fail
    go_ret
    exact ⟨_, rfl, _, _, _, _, rfl, HO4.out.flds, by omega, hcap, HFs.out, HB4.out⟩
  case inr.inr.inr.inr.inr.inl =>
    have k1 : ¬ lC = 1 := by omega
    have k2 : (1 : Int) ≤ (m : Int) := by omega
    have k3 : ¬ (lC : Int) = 1 := by omega
    have k4 : 1 ≤ m := by omega
    have k5 : (m : Int) ≤ (lC : Int) := by omega
    go_wp2_with fail
    go_ret
    exact ⟨_, rfl, some ⟨q, 2, none⟩, m - 1, lC - 1, fs.drop 1, rfl, HO4.out.flds.tail (by omega), by omega, by omega, fun f hf => HFs.out f (List.mem_of_mem_drop hf), HB4.out⟩
  case inr.inr.inl =>
    have k0 : (0 : Int) < (m : Int) := by omega
    have k0n : 0 < m := by omega
    have HC5 : Hid (Cur (w4.alloc (.cells #[.string ⟨#[112, 111, 115, 116]⟩, .string ⟨#[]⟩, .string ⟨#[71, 69, 84]⟩] 9)) cc cc a len cap zs) := HC4.out.new _
    have HL5 : Hid ((w4.alloc (.cells #[.string ⟨#[112, 111, 115, 116]⟩, .string ⟨#[]⟩, .string ⟨#[71, 69, 84]⟩] 9)).heap[w4.heap.size]? = some (.cells (([⟨#[112, 111, 115, 116]⟩, ⟨#[]⟩, ⟨#[71, 69, 84]⟩] : List ByteArray).map Value.string).toArray 9 (0, 0))) := heap_alloc_new w4 _
    have HO5 : Hid (OwnF (w4.alloc (.cells #[.string ⟨#[112, 111, 115, 116]⟩, .string ⟨#[]⟩, .string ⟨#[71, 69, 84]⟩] 9)) (cc + 1) (.slice (some ⟨q, 0, none⟩) m lC) m fs) := ⟨own_below HO4.out.1 ((Below.refl _ _).alloc (Nat.le_refl _) _), HO4.out.2⟩
    have HB5 : Hid (Below w.heap.size w (w4.alloc (.cells #[.string ⟨#[112, 111, 115, 116]⟩, .string ⟨#[]⟩, .string ⟨#[71, 69, 84]⟩] 9))) := HB4.out.alloc HB4.out.size _
    go_wp2_with fail
    obtain ⟨w5, hw5⟩ : ∃ w5, w4.alloc (.cells #[.string ⟨#[112, 111, 115, 116]⟩, .string ⟨#[]⟩, .string ⟨#[71, 69, 84]⟩] 9) = w5 := ⟨_, rfl⟩
    rw [hw5] at HC5 HL5 HO5 HB5 ⊢
    clear hw5 HC4 HO4 HB4
    refine (l1Str_any cc cc a len cap zs w4.heap.size 3 3 ([⟨#[112, 111, 115, 116]⟩, ⟨#[]⟩, ⟨#[71, 69, 84]⟩] : List ByteArray) w5 HC5.out hl HL5.out (by omega) rfl (by omega) (by omega)).mono ?_
    rintro e w6 ⟨v, rfl, hv, hc6, hg6⟩
    have HV : Hid (v.size ≤ 100) := by
      have h : ∀ u ∈ ([⟨#[112, 111, 115, 116]⟩, ⟨#[]⟩, ⟨#[71, 69, 84]⟩] : List ByteArray), u.size ≤ 100 := by decide
      exact h v hv
    have HO6 : Hid (OwnF w6 (cc + 1) (.slice (some ⟨q, 0, none⟩) m lC) m fs) := ⟨HO5.out.1.kept hg6 (.inr (fun e => by have := (HO5.out.1.lt cc e).1; omega)), HO5.out.2⟩
    have HB6 : Hid (Below w.heap.size w w6) := HB5.out.grown hg6 HB5.out.size (fun k e => by injection e with e; omega)
    clear hv hc6 hg6 HC5 HL5 HO5 HB5
    obtain ⟨u, hu⟩ := own_cell HO6.out (j := 0 * 2 + 1) (by omega)
    have fz : w6.frozen? ⟨q, 0 * 2 + 1, none⟩ = false := HO6.out.1.frozenAt _
    simp only [Nat.zero_mul, Nat.zero_add] at hu fz
    have HE := (show Hid (∃ fs', OwnF (w6.setCell ⟨q, 0 * 2 + 1, none⟩ (.string v)) (cc + 1) (.slice (some ⟨q, 0, none⟩) m lC) m fs' ∧ ∀ f ∈ fs', f.2.size ≤ 100) from HO6.out.val (k := 0) (by omega) HV.out HFs.out)
    have HB7 : Hid (Below w.heap.size w (w6.setCell ⟨q, 0 * 2 + 1, none⟩ (.string v))) := HB6.out.setCell (p := ⟨q, 0 * 2 + 1, none⟩) (by show _ ≤ q; omega) _
    simp only [Nat.zero_mul, Nat.zero_add] at HE HB7
    clear HO6 HB6
    go_wp2_with fail
    go_ret
    obtain ⟨fs', h1, h2⟩ := HE.out
    exact ⟨_, rfl, _, _, _, fs', rfl, h1.flds, by omega, hcap, h2, HB7.out⟩
  case inr.inr.inr.inl =>
    have k0 : (2 : Int) < (m : Int) := by omega
    have k0n : 2 < m := by omega
    have HC5 : Hid (Cur (w4.alloc (.cells #[.string ⟨#[47, 117, 112, 47]⟩, .string ⟨#[47, 117, 112, 47, 65]⟩, .string ⟨#[47]⟩, .string ⟨#[47, 117, 112, 47, 97, 47, 98]⟩, .string ⟨#[47, 117, 112, 47, 122, 122]⟩] 9)) cc cc a len cap zs) := HC4.out.new _
    have HL5 : Hid ((w4.alloc (.cells #[.string ⟨#[47, 117, 112, 47]⟩, .string ⟨#[47, 117, 112, 47, 65]⟩, .string ⟨#[47]⟩, .string ⟨#[47, 117, 112, 47, 97, 47, 98]⟩, .string ⟨#[47, 117, 112, 47, 122, 122]⟩] 9)).heap[w4.heap.size]? = some (.cells (([⟨#[47, 117, 112, 47]⟩, ⟨#[47, 117, 112, 47, 65]⟩, ⟨#[47]⟩, ⟨#[47, 117, 112, 47, 97, 47, 98]⟩, ⟨#[47, 117, 112, 47, 122, 122]⟩] : List ByteArray).map Value.string).toArray 9 (0, 0))) := heap_alloc_new w4 _
    have HO5 : Hid (OwnF (w4.alloc (.cells #[.string ⟨#[47, 117, 112, 47]⟩, .string ⟨#[47, 117, 112, 47, 65]⟩, .string ⟨#[47]⟩, .string ⟨#[47, 117, 112, 47, 97, 47, 98]⟩, .string ⟨#[47, 117, 112, 47, 122, 122]⟩] 9)) (cc + 1) (.slice (some ⟨q, 0, none⟩) m lC) m fs) := ⟨own_below HO4.out.1 ((Below.refl _ _).alloc (Nat.le_refl _) _), HO4.out.2⟩
    have HB5 : Hid (Below w.heap.size w (w4.alloc (.cells #[.string ⟨#[47, 117, 112, 47]⟩, .string ⟨#[47, 117, 112, 47, 65]⟩, .string ⟨#[47]⟩, .string ⟨#[47, 117, 112, 47, 97, 47, 98]⟩, .string ⟨#[47, 117, 112, 47, 122, 122]⟩] 9))) := HB4.out.alloc HB4.out.size _
    go_wp2_with fail
    obtain ⟨w5, hw5⟩ : ∃ w5, w4.alloc (.cells #[.string ⟨#[47, 117, 112, 47]⟩, .string ⟨#[47, 117, 112, 47, 65]⟩, .string ⟨#[47]⟩, .string ⟨#[47, 117, 112, 47, 97, 47, 98]⟩, .string ⟨#[47, 117, 112, 47, 122, 122]⟩] 9) = w5 := ⟨_, rfl⟩
    rw [hw5] at HC5 HL5 HO5 HB5 ⊢
    clear hw5 HC4 HO4 HB4
    refine (l1Str_any cc cc a len cap zs w4.heap.size 5 5 ([⟨#[47, 117, 112, 47]⟩, ⟨#[47, 117, 112, 47, 65]⟩, ⟨#[47]⟩, ⟨#[47, 117, 112, 47, 97, 47, 98]⟩, ⟨#[47, 117, 112, 47, 122, 122]⟩] : List ByteArray) w5 HC5.out hl HL5.out (by omega) rfl (by omega) (by omega)).mono ?_
    rintro e w6 ⟨v, rfl, hv, hc6, hg6⟩
    have HV : Hid (v.size ≤ 100) := by
      have h : ∀ u ∈ ([⟨#[47, 117, 112, 47]⟩, ⟨#[47, 117, 112, 47, 65]⟩, ⟨#[47]⟩, ⟨#[47, 117, 112, 47, 97, 47, 98]⟩, ⟨#[47, 117, 112, 47, 122, 122]⟩] : List ByteArray), u.size ≤ 100 := by decide
      exact h v hv
    have HO6 : Hid (OwnF w6 (cc + 1) (.slice (some ⟨q, 0, none⟩) m lC) m fs) := ⟨HO5.out.1.kept hg6 (.inr (fun e => by have := (HO5.out.1.lt cc e).1; omega)), HO5.out.2⟩
    have HB6 : Hid (Below w.heap.size w w6) := HB5.out.grown hg6 HB5.out.size (fun k e => by injection e with e; omega)
    clear hv hc6 hg6 HC5 HL5 HO5 HB5
    obtain ⟨u, hu⟩ := own_cell HO6.out (j := 2 * 2 + 1) (by omega)
    have fz : w6.frozen? ⟨q, 2 * 2 + 1, none⟩ = false := HO6.out.1.frozenAt _
    simp only [Nat.reduceMul, Nat.reduceAdd] at hu fz
    have HE := (show Hid (∃ fs', OwnF (w6.setCell ⟨q, 2 * 2 + 1, none⟩ (.string v)) (cc + 1) (.slice (some ⟨q, 0, none⟩) m lC) m fs' ∧ ∀ f ∈ fs', f.2.size ≤ 100) from HO6.out.val (k := 2) (by omega) HV.out HFs.out)
    have HB7 : Hid (Below w.heap.size w (w6.setCell ⟨q, 2 * 2 + 1, none⟩ (.string v))) := HB6.out.setCell (p := ⟨q, 2 * 2 + 1, none⟩) (by show _ ≤ q; omega) _
    simp only [Nat.reduceMul, Nat.reduceAdd] at HE HB7
    clear HO6 HB6
    go_wp2_with fail
    go_ret
    obtain ⟨fs', h1, h2⟩ := HE.out
    exact ⟨_, rfl, _, _, _, fs', rfl, h1.flds, by omega, hcap, h2, HB7.out⟩
  case inr.inr.inr.inr.inl =>
    obtain ⟨k, rfl⟩ : ∃ k, m = k + 1 := ⟨m - 1, by omega⟩
    have kk : ((k + 1 : Nat) : Int) - 1 = (k : Int) := by omega
    have k0 : (k : Int) < ((k + 1 : Nat) : Int) := by omega
    have k1 : (0 : Int) ≤ (k : Int) := by omega
    have HC5 : Hid (Cur (w4.alloc (.cells #[.string ⟨#[]⟩, .string ⟨#[48, 49]⟩, .string ⟨#[45, 49]⟩, .string ⟨#[49, 48, 48, 48, 48, 48, 48, 48, 48, 49]⟩, .string ⟨#[120]⟩, .string ⟨#[52, 50, 57, 52, 57, 54, 55, 50, 57, 54]⟩, .string ⟨#[55]⟩] 9)) cc cc a len cap zs) := HC4.out.new _
    have HL5 : Hid ((w4.alloc (.cells #[.string ⟨#[]⟩, .string ⟨#[48, 49]⟩, .string ⟨#[45, 49]⟩, .string ⟨#[49, 48, 48, 48, 48, 48, 48, 48, 48, 49]⟩, .string ⟨#[120]⟩, .string ⟨#[52, 50, 57, 52, 57, 54, 55, 50, 57, 54]⟩, .string ⟨#[55]⟩] 9)).heap[w4.heap.size]? = some (.cells (([⟨#[]⟩, ⟨#[48, 49]⟩, ⟨#[45, 49]⟩, ⟨#[49, 48, 48, 48, 48, 48, 48, 48, 48, 49]⟩, ⟨#[120]⟩, ⟨#[52, 50, 57, 52, 57, 54, 55, 50, 57, 54]⟩, ⟨#[55]⟩] : List ByteArray).map Value.string).toArray 9 (0, 0))) := heap_alloc_new w4 _
    have HO5 : Hid (OwnF (w4.alloc (.cells #[.string ⟨#[]⟩, .string ⟨#[48, 49]⟩, .string ⟨#[45, 49]⟩, .string ⟨#[49, 48, 48, 48, 48, 48, 48, 48, 48, 49]⟩, .string ⟨#[120]⟩, .string ⟨#[52, 50, 57, 52, 57, 54, 55, 50, 57, 54]⟩, .string ⟨#[55]⟩] 9)) (cc + 1) (.slice (some ⟨q, 0, none⟩) (k + 1) lC) (k + 1) fs) := ⟨own_below HO4.out.1 ((Below.refl _ _).alloc (Nat.le_refl _) _), HO4.out.2⟩
    have HB5 : Hid (Below w.heap.size w (w4.alloc (.cells #[.string ⟨#[]⟩, .string ⟨#[48, 49]⟩, .string ⟨#[45, 49]⟩, .string ⟨#[49, 48, 48, 48, 48, 48, 48, 48, 48, 49]⟩, .string ⟨#[120]⟩, .string ⟨#[52, 50, 57, 52, 57, 54, 55, 50, 57, 54]⟩, .string ⟨#[55]⟩] 9))) := HB4.out.alloc HB4.out.size _
    go_wp2_with fail
    obtain ⟨w5, hw5⟩ : ∃ w5, w4.alloc (.cells #[.string ⟨#[]⟩, .string ⟨#[48, 49]⟩, .string ⟨#[45, 49]⟩, .string ⟨#[49, 48, 48, 48, 48, 48, 48, 48, 48, 49]⟩, .string ⟨#[120]⟩, .string ⟨#[52, 50, 57, 52, 57, 54, 55, 50, 57, 54]⟩, .string ⟨#[55]⟩] 9) = w5 := ⟨_, rfl⟩
    rw [hw5] at HC5 HL5 HO5 HB5 ⊢
    clear hw5 HC4 HO4 HB4
    refine (l1Str_any cc cc a len cap zs w4.heap.size 7 7 ([⟨#[]⟩, ⟨#[48, 49]⟩, ⟨#[45, 49]⟩, ⟨#[49, 48, 48, 48, 48, 48, 48, 48, 48, 49]⟩, ⟨#[120]⟩, ⟨#[52, 50, 57, 52, 57, 54, 55, 50, 57, 54]⟩, ⟨#[55]⟩] : List ByteArray) w5 HC5.out hl HL5.out (by omega) rfl (by omega) (by omega)).mono ?_
    rintro e w6 ⟨v, rfl, hv, hc6, hg6⟩
    have HV : Hid (v.size ≤ 100) := by
      have h : ∀ u ∈ ([⟨#[]⟩, ⟨#[48, 49]⟩, ⟨#[45, 49]⟩, ⟨#[49, 48, 48, 48, 48, 48, 48, 48, 48, 49]⟩, ⟨#[120]⟩, ⟨#[52, 50, 57, 52, 57, 54, 55, 50, 57, 54]⟩, ⟨#[55]⟩] : List ByteArray), u.size ≤ 100 := by decide
      exact h v hv
    have HO6 : Hid (OwnF w6 (cc + 1) (.slice (some ⟨q, 0, none⟩) (k + 1) lC) (k + 1) fs) := ⟨HO5.out.1.kept hg6 (.inr (fun e => by have := (HO5.out.1.lt cc e).1; omega)), HO5.out.2⟩
    have HB6 : Hid (Below w.heap.size w w6) := HB5.out.grown hg6 HB5.out.size (fun k e => by injection e with e; omega)
    clear hv hc6 hg6 HC5 HL5 HO5 HB5
    obtain ⟨u, hu⟩ := own_cell HO6.out (j := k * 2 + 1) (by omega)
    have fz : w6.frozen? ⟨q, k * 2 + 1, none⟩ = false := HO6.out.1.frozenAt _
    have HE := (show Hid (∃ fs', OwnF (w6.setCell ⟨q, k * 2 + 1, none⟩ (.string v)) (cc + 1) (.slice (some ⟨q, 0, none⟩) (k + 1) lC) (k + 1) fs' ∧ ∀ f ∈ fs', f.2.size ≤ 100) from HO6.out.val (k := k) (by omega) HV.out HFs.out)
    have HB7 : Hid (Below w.heap.size w (w6.setCell ⟨q, k * 2 + 1, none⟩ (.string v))) := HB6.out.setCell (p := ⟨q, k * 2 + 1, none⟩) (by show _ ≤ q; omega) _
    clear HO6 HB6
    go_wp2_with fail
    go_ret
    obtain ⟨fs', h1, h2⟩ := HE.out
    exact ⟨_, rfl, _, _, _, fs', rfl, h1.flds, by omega, hcap, h2, HB7.out⟩
  case inl =>
    obtain ⟨i0, hi, hz0, hz1, hz2⟩ := info_parts info_field
    have HC5 : Hid (Cur (w4.alloc (.cells #[.string ⟨#[120]⟩, .string ⟨#[88]⟩, .string ⟨#[]⟩, .string ⟨#[58, 112, 97, 116, 104]⟩, .string ⟨#[58, 97, 117, 116, 104, 111, 114, 105, 116, 121]⟩, .string ⟨#[117, 112, 108, 111, 97, 100, 45, 111, 102, 102, 115, 101, 116]⟩] 9)) cc cc a len cap zs) := HC4.out.new _
    have HL5 : Hid ((w4.alloc (.cells #[.string ⟨#[120]⟩, .string ⟨#[88]⟩, .string ⟨#[]⟩, .string ⟨#[58, 112, 97, 116, 104]⟩, .string ⟨#[58, 97, 117, 116, 104, 111, 114, 105, 116, 121]⟩, .string ⟨#[117, 112, 108, 111, 97, 100, 45, 111, 102, 102, 115, 101, 116]⟩] 9)).heap[w4.heap.size]? = some (.cells (([⟨#[120]⟩, ⟨#[88]⟩, ⟨#[]⟩, ⟨#[58, 112, 97, 116, 104]⟩, ⟨#[58, 97, 117, 116, 104, 111, 114, 105, 116, 121]⟩, ⟨#[117, 112, 108, 111, 97, 100, 45, 111, 102, 102, 115, 101, 116]⟩] : List ByteArray).map Value.string).toArray 9 (0, 0))) := heap_alloc_new w4 _
    have HO5 : Hid (OwnF (w4.alloc (.cells #[.string ⟨#[120]⟩, .string ⟨#[88]⟩, .string ⟨#[]⟩, .string ⟨#[58, 112, 97, 116, 104]⟩, .string ⟨#[58, 97, 117, 116, 104, 111, 114, 105, 116, 121]⟩, .string ⟨#[117, 112, 108, 111, 97, 100, 45, 111, 102, 102, 115, 101, 116]⟩] 9)) (cc + 1) (.slice (some ⟨q, 0, none⟩) m lC) m fs) := ⟨own_below HO4.out.1 ((Below.refl _ _).alloc (Nat.le_refl _) _), HO4.out.2⟩
    have HB5 : Hid (Below w.heap.size w (w4.alloc (.cells #[.string ⟨#[120]⟩, .string ⟨#[88]⟩, .string ⟨#[]⟩, .string ⟨#[58, 112, 97, 116, 104]⟩, .string ⟨#[58, 97, 117, 116, 104, 111, 114, 105, 116, 121]⟩, .string ⟨#[117, 112, 108, 111, 97, 100, 45, 111, 102, 102, 115, 101, 116]⟩] 9))) := HB4.out.alloc HB4.out.size _
    go_wp2_with fail
    obtain ⟨w5, hw5⟩ : ∃ w5, w4.alloc (.cells #[.string ⟨#[120]⟩, .string ⟨#[88]⟩, .string ⟨#[]⟩, .string ⟨#[58, 112, 97, 116, 104]⟩, .string ⟨#[58, 97, 117, 116, 104, 111, 114, 105, 116, 121]⟩, .string ⟨#[117, 112, 108, 111, 97, 100, 45, 111, 102, 102, 115, 101, 116]⟩] 9) = w5 := ⟨_, rfl⟩
    rw [hw5] at HC5 HL5 HO5 HB5 ⊢
    clear hw5 HC4 HO4 HB4
    refine (l1Str_any cc cc a len cap zs w4.heap.size 6 6 ([⟨#[120]⟩, ⟨#[88]⟩, ⟨#[]⟩, ⟨#[58, 112, 97, 116, 104]⟩, ⟨#[58, 97, 117, 116, 104, 111, 114, 105, 116, 121]⟩, ⟨#[117, 112, 108, 111, 97, 100, 45, 111, 102, 102, 115, 101, 116]⟩] : List ByteArray) w5 HC5.out hl HL5.out (by omega) rfl (by omega) (by omega)).mono ?_
    rintro e w6 ⟨v, rfl, hv, hc6, hg6⟩
    have HV : Hid (v.size ≤ 100) := by
      have h : ∀ u ∈ ([⟨#[120]⟩, ⟨#[88]⟩, ⟨#[]⟩, ⟨#[58, 112, 97, 116, 104]⟩, ⟨#[58, 97, 117, 116, 104, 111, 114, 105, 116, 121]⟩, ⟨#[117, 112, 108, 111, 97, 100, 45, 111, 102, 102, 115, 101, 116]⟩] : List ByteArray), u.size ≤ 100 := by decide
      exact h v hv
    have HO6 : Hid (OwnF w6 (cc + 1) (.slice (some ⟨q, 0, none⟩) m lC) m fs) := ⟨HO5.out.1.kept hg6 (.inr (fun e => by have := (HO5.out.1.lt cc e).1; omega)), HO5.out.2⟩
    have HB6 : Hid (Below w.heap.size w w6) := HB5.out.grown hg6 HB5.out.size (fun k e => by injection e with e; omega)
    clear hv hc6 hg6 HC5 HL5 HO5 HB5
    have HO7 : Hid ((w6.alloc (.cells #[.string v, .string ⟨#[55]⟩] 38)).ownsRow (cc + 1) 38 2 (.slice (some ⟨q, 0, none⟩) m lC) m (fieldCells fs)) := HO6.out.1.alloc _
    have HNw : Hid (∀ j u, (fieldCells [(v, ⟨#[55]⟩)])[j]? = some u → (w6.alloc (.cells #[.string v, .string ⟨#[55]⟩] 38)).cell? ((⟨w6.heap.size, 0, none⟩ : Addr).add j) = some u) := field_newD w6 v _
    have HVl : Hid (∀ f ∈ fs ++ [(v, (⟨#[55]⟩ : ByteArray))], f.1.size ≤ maxLen ∧ f.2.size ≤ maxLen) := fun f hf => by
      rcases List.mem_append.1 hf with h | h
      · exact HO6.out.2 f h
      · obtain rfl : f = (v, ⟨#[55]⟩) := by simpa using h
        have := HV.out
        unfold maxLen
        exact ⟨by dsimp only; omega, by dsimp only; decide⟩
    have HVs : Hid (∀ f ∈ fs ++ [(v, (⟨#[55]⟩ : ByteArray))], f.2.size ≤ 100) := fun f hf => by
      rcases List.mem_append.1 hf with h | h
      · exact HFs.out f h
      · obtain rfl : f = (v, ⟨#[55]⟩) := by simpa using h
        dsimp only
        decide
    have hb6 : cc + 1 ≤ w6.heap.size := by have := (HO6.out.1.lt q rfl).2; omega
    go_wp2_with (at_builtin; refine wpList_append_own _ rfl _ _ 30 rfl (cc + 1) 38 i0 (.agg #[.string ⟨#[]⟩, .string ⟨#[]⟩]) 2 32 Tryd.underlying30 hi hz0 hz1 hz2 rfl (by decide) (.slice (some ⟨q, 0, none⟩) m lC) m (fieldCells fs) rfl HO7.out ⟨w6.heap.size, 0, none⟩ 1 1 (fieldCells [(v, ⟨#[55]⟩)]) rfl rfl HNw.out (fieldCells_one _) (by unfold maxLen; omega) (by omega) (by simp; omega) ?_; intro v1 x1 hown1 hgrow1 _; refine Hid.out ?_)
    refine hidden ?_
    have HO8 : Hid (OwnF x1 (cc + 1) v1 (m + 1) (fs ++ [(v, (⟨#[55]⟩ : ByteArray))])) := ⟨by rw [fieldCells_append]; exact hown1, HVl.out⟩
    have HB8 : Hid (Below w.heap.size w x1) := (HB6.out.alloc HB6.out.size _).grown hgrow1 (by have := HB6.out.size; simp; omega) (fun p hp => by have := (HO7.out.lt p hp).1; omega)
    clear hown1 hgrow1 HO7 HNw
    obtain ⟨vA, vC, rfl⟩ := HO8.out.shape
    have hvc : m + 1 ≤ vC := own_capA HO8.out
    go_wp2_with fail
    go_ret
    exact ⟨_, rfl, _, _, _, _, rfl, HO8.out.flds, by omega, hvc, HVs.out, HB8.out⟩
  case inr.inl =>
    obtain ⟨i0, hi, hz0, hz1, hz2⟩ := info_parts info_field
    have HC5 : Hid (Cur (w4.alloc (.cells #[.string ⟨#[120]⟩, .string ⟨#[58, 97, 117, 116, 104, 111, 114, 105, 116, 121]⟩, .string ⟨#[58, 120]⟩] 9)) cc cc a len cap zs) := HC4.out.new _
    have HL5 : Hid ((w4.alloc (.cells #[.string ⟨#[120]⟩, .string ⟨#[58, 97, 117, 116, 104, 111, 114, 105, 116, 121]⟩, .string ⟨#[58, 120]⟩] 9)).heap[w4.heap.size]? = some (.cells (([⟨#[120]⟩, ⟨#[58, 97, 117, 116, 104, 111, 114, 105, 116, 121]⟩, ⟨#[58, 120]⟩] : List ByteArray).map Value.string).toArray 9 (0, 0))) := heap_alloc_new w4 _
    have HO5 : Hid (OwnF (w4.alloc (.cells #[.string ⟨#[120]⟩, .string ⟨#[58, 97, 117, 116, 104, 111, 114, 105, 116, 121]⟩, .string ⟨#[58, 120]⟩] 9)) (cc + 1) (.slice (some ⟨q, 0, none⟩) m lC) m fs) := ⟨own_below HO4.out.1 ((Below.refl _ _).alloc (Nat.le_refl _) _), HO4.out.2⟩
    have HB5 : Hid (Below w.heap.size w (w4.alloc (.cells #[.string ⟨#[120]⟩, .string ⟨#[58, 97, 117, 116, 104, 111, 114, 105, 116, 121]⟩, .string ⟨#[58, 120]⟩] 9))) := HB4.out.alloc HB4.out.size _
    go_wp2_with fail
    obtain ⟨w5, hw5⟩ : ∃ w5, w4.alloc (.cells #[.string ⟨#[120]⟩, .string ⟨#[58, 97, 117, 116, 104, 111, 114, 105, 116, 121]⟩, .string ⟨#[58, 120]⟩] 9) = w5 := ⟨_, rfl⟩
    rw [hw5] at HC5 HL5 HO5 HB5 ⊢
    clear hw5 HC4 HO4 HB4
    refine (l1Str_any cc cc a len cap zs w4.heap.size 3 3 ([⟨#[120]⟩, ⟨#[58, 97, 117, 116, 104, 111, 114, 105, 116, 121]⟩, ⟨#[58, 120]⟩] : List ByteArray) w5 HC5.out hl HL5.out (by omega) rfl (by omega) (by omega)).mono ?_
    rintro e w6 ⟨v, rfl, hv, hc6, hg6⟩
    have HV : Hid (v.size ≤ 100) := by
      have h : ∀ u ∈ ([⟨#[120]⟩, ⟨#[58, 97, 117, 116, 104, 111, 114, 105, 116, 121]⟩, ⟨#[58, 120]⟩] : List ByteArray), u.size ≤ 100 := by decide
      exact h v hv
    have HO6 : Hid (OwnF w6 (cc + 1) (.slice (some ⟨q, 0, none⟩) m lC) m fs) := ⟨HO5.out.1.kept hg6 (.inr (fun e => by have := (HO5.out.1.lt cc e).1; omega)), HO5.out.2⟩
    have HB6 : Hid (Below w.heap.size w w6) := HB5.out.grown hg6 HB5.out.size (fun k e => by injection e with e; omega)
    clear hv hc6 hg6 HC5 HL5 HO5 HB5
    have hb6 : cc + 1 ≤ w6.heap.size := by have := (HO6.out.1.lt q rfl).2; omega
    have HO7 : Hid ((w6.alloc (.cells #[.string v, .string ⟨#[49]⟩] 38)).ownsRow w6.heap.size 38 2 (.slice (some ⟨w6.heap.size, 0, none⟩) 1 1) 1 (fieldCells [(v, ⟨#[49]⟩)])) := World.ownsRow_lit w6 _ 1 (Nat.le_refl _) (by unfold maxLen; omega) rfl
    have HNw : Hid (∀ j u, (fieldCells fs)[j]? = some u → (w6.alloc (.cells #[.string v, .string ⟨#[49]⟩] 38)).cell? ((⟨q, 0, none⟩ : Addr).add j) = some u) := by
      intro j u hj
      have h9 : OwnF (w6.alloc (.cells #[.string v, .string ⟨#[49]⟩] 38)) (cc + 1) (.slice (some ⟨q, 0, none⟩) m lC) m fs := ⟨own_below HO6.out.1 ((Below.refl _ _).alloc (Nat.le_refl _) _), HO6.out.2⟩
      rw [Addr.add_lit, Nat.zero_add]
      have hlt := (List.getElem?_eq_some_iff.1 hj).1
      rw [h9.1.cellAt j (by rw [fieldCells_len, h9.len] at hlt; omega)]
      exact hj
    have HVl : Hid (∀ f ∈ [(v, (⟨#[49]⟩ : ByteArray))] ++ fs, f.1.size ≤ maxLen ∧ f.2.size ≤ maxLen) := fun f hf => by
      rcases List.mem_append.1 hf with h | h
      · obtain rfl : f = (v, ⟨#[49]⟩) := by simpa using h
        have := HV.out
        unfold maxLen
        exact ⟨by dsimp only; omega, by dsimp only; decide⟩
      · exact HO6.out.2 f h
    have HVs : Hid (∀ f ∈ [(v, (⟨#[49]⟩ : ByteArray))] ++ fs, f.2.size ≤ 100) := fun f hf => by
      rcases List.mem_append.1 hf with h | h
      · obtain rfl : f = (v, ⟨#[49]⟩) := by simpa using h
        dsimp only
        decide
      · exact HFs.out f h
    have HFl : Hid ((fieldCells fs).length = m * 2) := by show _ = _; rw [fieldCells_len, HO6.out.len]; omega
    go_wp2_with (at_builtin; refine wpList_append_own _ rfl _ _ 30 rfl w6.heap.size 38 i0 (.agg #[.string ⟨#[]⟩, .string ⟨#[]⟩]) 2 32 Tryd.underlying30 hi hz0 hz1 hz2 rfl (by decide) (.slice (some ⟨w6.heap.size, 0, none⟩) 1 1) 1 (fieldCells [(v, ⟨#[49]⟩)]) rfl HO7.out ⟨q, 0, none⟩ m lC (fieldCells fs) rfl HFl.out HNw.out (fieldCells_one _) (by unfold maxLen; omega) (by omega) (by simp) ?_; intro v1 x1 hown1 hgrow1 _; refine Hid.out ?_)
    refine hidden ?_
    have HO8 : Hid (OwnF x1 w6.heap.size v1 (1 + m) ([(v, (⟨#[49]⟩ : ByteArray))] ++ fs)) := ⟨by rw [fieldCells_append]; exact hown1, HVl.out⟩
    have HB8 : Hid (Below w.heap.size w x1) := (HB6.out.alloc HB6.out.size _).grown hgrow1 (by have := HB6.out.size; simp; omega) (fun p hp => by have := (HO7.out.lt p hp).1; omega)
    clear hown1 hgrow1 HO7 HNw
    obtain ⟨vA, vC, rfl⟩ := HO8.out.shape
    have hvc : 1 + m ≤ vC := own_capA HO8.out
    go_wp2_with fail
    go_ret
    exact ⟨_, rfl, _, _, _, _, rfl, HO8.out.flds, by omega, hvc, HVs.out, HB8.out⟩

end Go.Proofs.YthojijhafhnclaeDoor
