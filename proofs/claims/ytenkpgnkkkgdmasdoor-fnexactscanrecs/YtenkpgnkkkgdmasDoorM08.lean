/- The marks of bytes, beside the copy and the comparison of bytes. Rows of records: one held against another that says the same. A cell of a record in its row is written over; the marks of records. No program in it but its table of types. -/
import Derived.Test.YtenkpgnkkkgdmasDoorM07
import Derived.Test.YtenkpgnkkkgdmasDoorM07
import Derived.Test.YtenkpgnkkkgdmasDoorM03
import Derived.Deep.RegionHeld3
import Derived.Test.YtenkpgnkkkgdmasDoorM05


namespace Go.Proofs.YtenkpgnkkkgdmasDoor
open Go.RowKit
set_option linter.unusedVariables false

theorem rdata_at {l m : List RE} (h : l.map RE.r = m.map RE.r) {i : Nat} (hi : i < l.length) (hj : i < m.length) : (l[i]).r = (m[i]).r := by
  have h1 : (l.map RE.r)[i]? = (m.map RE.r)[i]? := by rw [h]
  rw [List.getElem?_map, List.getElem?_map, List.getElem?_eq_getElem hi, List.getElem?_eq_getElem hj] at h1
  simpa using h1

set_option maxHeartbeats 3200000 in
theorem eqRecS_same (a b : Option Addr) (n ca cb s1 s2 : Nat) (l m : List RE) (w : World) (hx : RcRow w s1 (.slice a n ca) l) (hy : RcRow w s2 (.slice b n cb) m) (hn : l.length = n) (hm : m.length = n) (hd : l.map RE.r = m.map RE.r) (hb : ∀ e ∈ l, e.n ≤ 1099511627776) (hla : n ≤ 1099511627776) :
    Calls Tryd.prog 22 #[.slice a n ca, .slice b n cb] w fun e w' => e = .returned (.bool true) ∧ Below w.heap.size w w' := by
  have HX : Hid (RcRow w s1 (.slice a n ca) l) := hx
  have HY : Hid (RcRow w s2 (.slice b n cb) m) := hy
  have HD : Hid (l.map RE.r = m.map RE.r) := hd
  have HBn : Hid (∀ e ∈ l, e.n ≤ 1099511627776) := hb
  have HN : Hid (l.length = n ∧ m.length = n) := ⟨hn, hm⟩
  clear hx hy hd hb hn hm
  have hne : ((n : Int) != (n : Int)) = false := by simp
  go_enter Tryd.func22, Tryd.ntmps22
  go_wp2
  go_loopw [5] (fun i wr => ∃ k : Nat, k ≤ n ∧ i = .int .i64 k ∧ Hid (Below w.heap.size w wr)) (fun i _ => n - (intOf i).toNat)
  case atStart => exact ⟨0, Nat.zero_le _, rfl, Below.refl _ _⟩
  case round =>
    obtain ⟨k, hk, rfl, HW⟩ := hrel
    by_cases hlt : k < n
    · have hkl : k < l.length := by have := HN.out.1; omega
      have hkm : k < m.length := by have := HN.out.2; omega
      have hX := HX.out.stays (W' := wr) (HW.out)
      have hY := HY.out.stays (W' := wr) (HW.out)
      obtain ⟨ga, rfl, ga0, ga1, ga2, ga3, ga4, ga5, _⟩ := hX.at HN.out.1.symm hkl
      obtain ⟨gb, rfl, gb0, gb1, gb2, gb3, gb4, gb5, _⟩ := hY.at HN.out.2.symm hkm
      have ho1 := hX.2.1 _ (List.getElem_mem hkl)
      have ho2 := hY.2.1 _ (List.getElem_mem hkm)
      have dr := rdata_at HD.out hkl hkm
      have hbn := HBn.out _ (List.getElem_mem hkl)
      generalize l[k] = e1 at *
      generalize m[k] = e2 at *
      obtain ⟨r1, a1, n1, c1⟩ := e1
      obtain ⟨r2, a2, n2, c2⟩ := e2
      dsimp only at *
      subst dr
      obtain rfl : n1 = n2 := by have h1 := ho1.seg.1; have h2 := ho2.seg.1; omega
      have HO1 : Hid (Seg wr a1 n1 r1.zs) := ho1.seg
      have HO2 : Hid (Seg wr a2 n1 r1.zs) := ho2.seg
      clear hX hY ho1 ho2 hkl hkm
      have hki : (k : Int) < (n : Int) := by omega
      have hk0 : (0 : Int) ≤ (k : Int) := by omega
      go_wp2_with fail
      go_region_held3 (fun W => W.cell? ⟨ga, k * 6, none⟩ = some (.int .i64 r1.e) ∧ W.cell? ⟨ga, k * 6 + 1, none⟩ = some (.int .i64 r1.q) ∧ W.cell? ⟨ga, k * 6 + 2, none⟩ = some (.int .i64 r1.k) ∧ W.cell? ⟨ga, k * 6 + 3, none⟩ = some (.string r1.id) ∧ W.cell? ⟨ga, k * 6 + 4, none⟩ = some (.int .i64 r1.n) ∧ W.cell? ⟨ga, k * 6 + 5, none⟩ = some (.slice a1 n1 c1) ∧ W.cell? ⟨gb, k * 6, none⟩ = some (.int .i64 r1.e) ∧ W.cell? ⟨gb, k * 6 + 1, none⟩ = some (.int .i64 r1.q) ∧ W.cell? ⟨gb, k * 6 + 2, none⟩ = some (.int .i64 r1.k) ∧ W.cell? ⟨gb, k * 6 + 3, none⟩ = some (.string r1.id) ∧ W.cell? ⟨gb, k * 6 + 4, none⟩ = some (.int .i64 r1.n) ∧ W.cell? ⟨gb, k * 6 + 5, none⟩ = some (.slice a2 n1 c2)) (refine ⟨?_, ?_, ?_, ?_, ?_, ?_, ?_, ?_, ?_, ?_, ?_, ?_⟩ <;> assumption) (first
        | (go_at_call 11; refine (eqRec_same r1.e r1.q r1.k r1.id r1.n a1 a2 n1 c1 c2 r1.zs _ (HO1.out.below (Below.refl _ _).drew) (HO2.out.below (Below.refl _ _).drew) hbn).mono ?_; rintro e x3 ⟨rfl, hb3⟩
           have hb3' : Below wr.heap.size wr x3 := (Below.refl wr.heap.size wr).drew.trans (hb3.mono (Nat.le_refl _))
           have p0 := (hb3'.cell (p := ⟨ga, k * 6, none⟩) (lt_of_cell ga0)).trans ga0
           have p1 := (hb3'.cell (p := ⟨ga, k * 6 + 1, none⟩) (lt_of_cell ga0)).trans ga1
           have p2 := (hb3'.cell (p := ⟨ga, k * 6 + 2, none⟩) (lt_of_cell ga0)).trans ga2
           have p3 := (hb3'.cell (p := ⟨ga, k * 6 + 3, none⟩) (lt_of_cell ga0)).trans ga3
           have p4 := (hb3'.cell (p := ⟨ga, k * 6 + 4, none⟩) (lt_of_cell ga0)).trans ga4
           have p5 := (hb3'.cell (p := ⟨ga, k * 6 + 5, none⟩) (lt_of_cell ga0)).trans ga5
           have t0 := (hb3'.cell (p := ⟨gb, k * 6, none⟩) (lt_of_cell gb0)).trans gb0
           have t1 := (hb3'.cell (p := ⟨gb, k * 6 + 1, none⟩) (lt_of_cell gb0)).trans gb1
           have t2 := (hb3'.cell (p := ⟨gb, k * 6 + 2, none⟩) (lt_of_cell gb0)).trans gb2
           have t3 := (hb3'.cell (p := ⟨gb, k * 6 + 3, none⟩) (lt_of_cell gb0)).trans gb3
           have t4 := (hb3'.cell (p := ⟨gb, k * 6 + 4, none⟩) (lt_of_cell gb0)).trans gb4
           have t5 := (hb3'.cell (p := ⟨gb, k * 6 + 5, none⟩) (lt_of_cell gb0)).trans gb5)
        | fail)
      all_goals
        have HB3 : Hid (Below w.heap.size w x3) := HW.out.trans (hb3'.mono HW.out.size)
        clear hb3 hb3' p0 p1 p2 p3 p4 p5 t0 t1 t2 t3 t4 t5
        go_wp2
        go_roundw
        case rel => exact ⟨k + 1, by omega, by go_num, HB3⟩
        case measure => simp [intOf]; omega
    · go_wp2
      go_ret
      exact ⟨rfl, HW.out⟩

end Go.Proofs.YtenkpgnkkkgdmasDoor

namespace Go.Proofs.YtenkpgnkkkgdmasDoor
open Go.RowKit
set_option linter.unusedVariables false

theorem reCells_put (M : List RE) (e e' : RE) (D : List RE) (j : Nat) (hj : j < 6) (v : Value) (hc : RE.cells e' = (RE.cells e).set j v) : (reCells (M ++ e :: D)).set (M.length * 6 + j) v = reCells (M ++ e' :: D) := by
  have hl := reCells_len M
  have h1 : ∀ (x : RE), reCells (M ++ x :: D) = reCells M ++ (RE.cells x ++ reCells D) := fun x => by rw [reCells_append]; rfl
  have h6 : (RE.cells e).length = 6 := rfl
  rw [h1, h1, List.set_append_right _ _ (by omega), hl, show M.length * 6 + j - M.length * 6 = j by omega, List.set_append_left _ _ (by omega), hc]

theorem RcRow.put1 {W : World} {base g n c : Nat} {M D : List RE} {e : RE} (h : RcRow W base (.slice (some ⟨g, 0, none⟩) n c) (M ++ e :: D)) (hn : (M ++ e :: D).length = n) (j p : Nat) (hj : j < 6) (hp : M.length * 6 + j = p) (v : Value) (e' : RE) (hc : RE.cells e' = (RE.cells e).set j v) (ha : e'.a = e.a) (hnn : e'.n = e.n) (hcc : e'.c = e.c) (hz : e'.r.zs = e.r.zs) :
    RcRow (W.setCell ⟨g, p, none⟩ v) base (.slice (some ⟨g, 0, none⟩) n c) (M ++ e' :: D) ∧ W.grownBy (W.setCell ⟨g, p, none⟩ v) (some g) := by
  subst hp
  have ho := h.1
  rw [hn] at ho
  have h1 := ho.stored (M.length * 6 + j) v
  have hg : W.grownBy (W.setCell ⟨g, M.length * 6 + j, none⟩ v) (some g) := h1.2
  refine ⟨⟨?_, ?_, rpair_same M D e _ ha h.2.2⟩, hg⟩
  · have h6 := h1.1
    rw [reCells_put M e e' D j hj v hc] at h6
    rw [show (M ++ e' :: D).length = n by rw [← hn]; simp]
    exact h6
  · intro x hx
    have key : ∀ u ∈ M ++ e :: D, Owns (W.setCell ⟨g, M.length * 6 + j, none⟩ v) base u.a u.n u.c u.r.zs := fun u hu => (h.2.1 u hu).grown hg (fun q hq => h.rowApart (h.2.1 u hu) q (by injection hq with hq; subst hq; rfl))
    rcases List.mem_append.1 hx with hx | hx
    · exact key x (List.mem_append_left _ hx)
    · rcases List.mem_cons.1 hx with rfl | hx
      · rw [ha, hnn, hcc, hz]
        exact key e (List.mem_append_right _ (List.mem_cons_self ..))
      · exact key x (List.mem_append_right _ (List.mem_cons_of_mem _ hx))

/-- The marks of one record, from k on. -/
def mkR1 (k : Nat) (e : RE) : RE := { e with r := ⟨(k : Int), (k : Int) + 1, (k : Int) + 1 + 1, mt (k + 3), (k : Int) + 1 + 1 + 1 + 1, marks (k + 5) e.n⟩ }

/-- The marks of records, from k on. -/
def mkRc : Nat → List RE → List RE
  | _, [] => []
  | k, e :: l => mkR1 k e :: mkRc (k + 5 + e.n) l

/-- The number behind the marks. -/
def mkREnd : Nat → List RE → Nat
  | k, [] => k
  | k, e :: l => mkREnd (k + 5 + e.n) l

theorem mkRc_len (k : Nat) (l : List RE) : (mkRc k l).length = l.length := by
  induction l generalizing k with
  | nil => rfl
  | cons e l ih => simp [mkRc, ih]

theorem mkRc_append (k : Nat) (l m : List RE) : mkRc k (l ++ m) = mkRc k l ++ mkRc (mkREnd k l) m := by
  induction l generalizing k with
  | nil => rfl
  | cons e l ih => simp [mkRc, mkREnd, ih]

theorem mkREnd_append (k : Nat) (l m : List RE) : mkREnd k (l ++ m) = mkREnd (mkREnd k l) m := by
  induction l generalizing k with
  | nil => rfl
  | cons e l ih => simp [mkREnd, ih]

theorem mkREnd_ge (k : Nat) (l : List RE) : k ≤ mkREnd k l := by
  induction l generalizing k with
  | nil => exact Nat.le_refl _
  | cons e l ih => have := ih (k + 5 + e.n); simp only [mkREnd]; omega

theorem mkREnd_le (k : Nat) (l : List RE) (h : ∀ e ∈ l, e.n ≤ 24) : mkREnd k l ≤ k + 29 * l.length := by
  induction l generalizing k with
  | nil => simp [mkREnd]
  | cons e l ih =>
    have h1 := ih (k + 5 + e.n) (fun x hx => h x (List.mem_cons_of_mem _ hx))
    have h2 := h e (List.mem_cons_self ..)
    simp only [mkREnd, List.length_cons]
    omega

end Go.Proofs.YtenkpgnkkkgdmasDoor
