/- What the specification's FoldRecs answers. How much the bytes of uploads come to be together, and how far their marks go; no program in it. A list of bytes that comes in, in a struct. Records that come in: their cells, their bytes wherever they lie. -/
import Derived.Test.YtogopmngbjkcjatDoorM31
import Derived.Test.YtogopmngbjkcjatDoorM27
import Derived.Test.YtogopmngbjkcjatDoorM03
import Derived.Test.YtogopmngbjkcjatDoorM14
import Derived.Test.YtogopmngbjkcjatDoorM12
import Derived.Test.YtogopmngbjkcjatDoorM07
import Derived.Test.YtogopmngbjkcjatDoorM01
import Derived.Deep.Slices
import Derived.Lib.SmallJoins
import Derived.OpenShut
import Derived.ChangeOld
import Derived.WalkKit
import Derived.ProofKit
import Derived.Deep.SlicePairs
namespace Go.Proofs.YtogopmngbjkcjatDoor
open Go.RowKit
set_option linter.unusedVariables false

set_option maxRecDepth 10000 in
set_option maxHeartbeats 1600000 in
theorem specFold_any (a : Option Addr) (n c lo : Nat) (rs : List RE) (B : Nat) (w : World) (h : RcRow w lo (.slice a n c) rs) (hn : n = rs.length) (hl : n ≤ 1099511627776) (hB : ∀ e ∈ rs, e.n ≤ B) (hnB : n * B ≤ 1099511627776) (hB2 : B ≤ 1099511627776) :
    Calls Tryd.prog 12 #[.slice a n c] w fun e w' => (∃ x l', e = .returned (.tuple #[x, .bool (foldU (rs.map RE.r)).isSome]) ∧ UpRow w' w.heap.size x l' ∧ l'.map UE.u = (foldU (rs.map RE.r)).getD [] ∧ l'.length ≤ 10) ∧ Below w.heap.size w w' := by
  have HX : Hid (∀ W, Below w.heap.size w W → RcRow W lo (.slice a n c) rs) := fun W hb => h.stays hb
  have HN : Hid (n = rs.length) := hn
  have HB : Hid (∀ e ∈ rs, e.n ≤ B) := hB
  clear h hn hB
  have HO0 : Hid (UpRow (w.alloc (.cells #[] 71)) w.heap.size (.slice (some ⟨w.heap.size, 0, none⟩) 0 0) []) := UpRow.nil w
  have HB0 : Hid (Below w.heap.size w (w.alloc (.cells #[] 71))) := (Below.refl _ _).alloc (Nat.le_refl _) _
  go_enter Tryd.func12, Tryd.ntmps12
  go_wp2_with fail
  go_loopw [4, 5] (fun v i wr => ∃ (k : Nat) (l : List UE), k ≤ n ∧ i = .int .i64 (k : Int) ∧ l.length ≤ 10 ∧ Hid (UpRow wr w.heap.size v l) ∧ Hid (foldU ((rs.map RE.r).take k) = some (l.map UE.u)) ∧ Hid (∀ u ∈ l.map UE.u, u.zs.length ≤ k * B) ∧ Hid (Below w.heap.size w wr)) (fun _ i _ => n - (intOf i).toNat)
  case atStart => exact ⟨0, [], Nat.zero_le _, rfl, Nat.zero_le _, HO0, rfl, (fun u hu => absurd hu (by simp)), HB0⟩
  case round =>
    clear HO0 HB0
    obtain ⟨k, l, hk, rfl, hl10, HO, HF, HS, HW⟩ := hrel
    obtain ⟨va, vc, hve⟩ := HO.out.shape
    subst hve
    by_cases hlt : k < n
    case neg =>
      obtain rfl : k = n := by omega
      have HE : Hid (foldU (rs.map RE.r) = some (l.map UE.u)) := by show _ = _; rw [← HF.out, List.take_of_length_le (by rw [List.length_map, HN.out]; exact Nat.le_refl _)]
      clear HF HS
      go_wp2_with fail
      go_ret2
      exact ⟨⟨_, l, by rw [HE.out]; rfl, HO.out, by rw [HE.out]; rfl, hl10⟩, HW.out⟩
    have hkl : k < rs.length := by rw [← HN.out]; exact hlt
    have hki : (k : Int) < (n : Int) := by omega
    have hk0 : (0 : Int) ≤ (k : Int) := by omega
    have hkB : k * B ≤ 1099511627776 := Nat.le_trans (Nat.mul_le_mul_right _ hk) hnB
    obtain ⟨g, rfl, g0, g1, g2, g3, g4, g5, _⟩ := (HX.out _ HW.out).at HN.out hkl
    have HSg : Hid (Seg wr (rs[k]).a (rs[k]).n (rs[k]).r.zs) := ((HX.out _ HW.out).2.1 (rs[k]) (List.getElem_mem hkl)).seg
    have hen : (rs[k]).n ≤ B := HB.out _ (List.getElem_mem hkl)
    have HSt : Hid (foldU ((rs.map RE.r).take (k + 1)) = oneU (l.map UE.u) (rs[k]).r) := by
      show _ = _
      rw [foldU_step (rs.map RE.r) k (rs[k]).r (by rw [List.getElem?_map, List.getElem?_eq_getElem hkl]; rfl), HF.out]
      rfl
    have HSp : Hid (foldU ((rs.map RE.r).take (k + 1)) = none → foldU (rs.map RE.r) = none) := foldU_stop _ _
    generalize rs[k] = e at *
    have HZl : Hid (∀ x ∈ l, x.n ≤ 1099511627776) := fun x hx => by
      have h1 := (HO.out.2.1 x hx).seg.1
      have h2 := HS.out x.u (List.mem_map_of_mem hx)
      omega
    have hen2 : e.n ≤ 1099511627776 := by omega
    clear HF
    go_wp2_with fail
    refine (specOne_any va l.length vc w.heap.size l e.r e.a e.n e.c wr HO.out rfl (by omega) HZl.out HSg.out hen2).mono ?_
    rintro _ x1 ⟨⟨v1, rfl, hans⟩, hb1⟩
    have HB1 : Hid (Below w.heap.size w x1) := HW.out.trans (hb1.mono HW.out.size)
    have hwl : w.heap.size ≤ wr.heap.size := HW.out.size
    cases ho : oneU (l.map UE.u) e.r with
    | none =>
      rw [ho] at hans
      obtain ⟨x, rfl⟩ := hans
      have HE : Hid (foldU (rs.map RE.r) = none) := HSp.out (by rw [HSt.out]; exact ho)
      have HU : Hid (UpRow (x1.alloc (.cells #[] 71)) w.heap.size (.slice (some ⟨x1.heap.size, 0, none⟩) 0 0) []) := (UpRow.nil x1).low (by have := HB1.out.size; omega)
      have HBf : Hid (Below w.heap.size w (x1.alloc (.cells #[] 71))) := HB1.out.alloc HB1.out.size _
      clear hb1 ho HO HSt HSp HSg HS
      go_wp2_with fail
      go_ret2
      exact ⟨⟨_, [], by rw [HE.out]; rfl, HU.out, by rw [HE.out]; rfl, Nat.zero_le _⟩, HBf.out⟩
    | some L =>
      rw [ho] at hans
      obtain ⟨x, l', rfl, hrow, hmp⟩ := hans
      have HU : Hid (UpRow x1 w.heap.size x l') := hrow.low hwl
      have HF2 : Hid (foldU ((rs.map RE.r).take (k + 1)) = some (l'.map UE.u)) := by show _ = _; rw [HSt.out, ho, hmp]
      have HS2 : Hid (∀ u ∈ l'.map UE.u, u.zs.length ≤ (k + 1) * B) := fun u hu => by
        have h1 := oneU_zs ho HS.out u (by rw [← hmp]; exact hu)
        have h2 := HSg.out.1
        rw [Nat.add_mul, Nat.one_mul]
        omega
      have h10 : l'.length ≤ 10 := by
        have h1 := oneU_len ho
        have h2 := congrArg List.length hmp
        rw [List.length_map] at h1 h2
        omega
      clear hb1 ho hrow hmp HO HSt HSp HSg HS
      go_wp2_with fail
      go_roundw
      case rel => exact ⟨k + 1, l', by omega, by go_num, h10, HU, HF2, HS2, HB1⟩
      case measure => simp [intOf]; omega

end Go.Proofs.YtogopmngbjkcjatDoor

namespace Go.Proofs.YtogopmngbjkcjatDoor
open Go.RowKit
set_option linter.unusedVariables false

/-- The bytes of uploads together. -/
def totU : List U → Nat
  | [] => 0
  | u :: l => u.zs.length + totU l

def totR : List R → Nat
  | [] => 0
  | r :: l => r.zs.length + totR l

theorem totU_append (l m : List U) : totU (l ++ m) = totU l + totU m := by
  induction l with
  | nil => simp [totU]
  | cons u l ih => simp only [List.cons_append, totU, ih]; omega

theorem totU_set (l : List U) : ∀ (k : Nat) (u v : U), l[k]? = some u → totU (l.set k v) + u.zs.length = totU l + v.zs.length := by
  induction l with
  | nil => intro k u v h; simp at h
  | cons x l ih =>
    intro k u v h
    cases k with
    | zero =>
      simp only [List.getElem?_cons_zero, Option.some.injEq] at h
      subst h
      simp only [List.set_cons_zero, totU]
      omega
    | succ k =>
      simp only [List.getElem?_cons_succ] at h
      have := ih k u v h
      simp only [List.set_cons_succ, totU]
      omega

theorem totU_erase (l : List U) : ∀ k, totU (l.eraseIdx k) ≤ totU l := by
  induction l with
  | nil => intro k; simp [totU]
  | cons x l ih =>
    intro k
    cases k with
    | zero => simp only [List.eraseIdx_cons_zero, totU]; omega
    | succ k => have := ih k; simp only [List.eraseIdx_cons_succ, totU]; omega

theorem totU_make (l : List U) (u : U) (h : u.zs = []) : totU (makeU l u) = totU l := by
  have h1 : totU l = totU (l.take (insK l u.id l.length)) + totU (l.drop (insK l u.id l.length)) := by rw [← totU_append, List.take_append_drop]
  rw [makeU, totU_append, totU, h]
  simp only [List.length_nil]
  omega

theorem oneU_tot {l l' : List U} {r : R} (h : oneU l r = some l') : totU l' ≤ totU l + r.zs.length := by
  rw [oneU] at h
  split at h
  · split at h
    · injection h with h
      subst h
      rw [totU_make _ _ rfl]
      omega
    · cases h
  · split at h
    · cases h
    · split at h
      · cases h
      · rename_i k _ _ x hx
        split at h
        · split at h
          · cases h
          · injection h with h
            subst h
            have := totU_set l k x { x with zs := x.zs ++ r.zs } hx
            simp only [List.length_append] at this
            omega
        · split at h
          · split at h
            · cases h
            · injection h with h
              subst h
              have := totU_set l k x { x with done := true } hx
              dsimp only at this
              omega
          · split at h
            · injection h with h
              subst h
              have := totU_erase l k
              omega
            · cases h

theorem foldlM_tot : ∀ (rs : List R) (us us' : List U), rs.foldlM oneU us = some us' → totU us' ≤ totU us + totR rs := by
  intro rs
  induction rs with
  | nil =>
    intro us us' h
    have e : us = us' := by simpa using h
    subst e
    omega
  | cons r rs ih =>
    intro us us' h
    rw [List.foldlM_cons] at h
    cases h1 : oneU us r with
    | none => rw [h1] at h; cases h
    | some x =>
      rw [h1] at h
      have h2 := ih x us' h
      have h3 := oneU_tot h1
      simp only [totR]
      omega

theorem totR_le (B : Nat) (rs : List R) (h : ∀ r ∈ rs, r.zs.length ≤ B) : totR rs ≤ rs.length * B := by
  induction rs with
  | nil => simp [totR]
  | cons r rs ih =>
    have h1 := ih (fun x hx => h x (List.mem_cons_of_mem _ hx))
    have h2 := h r (List.mem_cons_self ..)
    simp only [totR, List.length_cons, Nat.add_mul, Nat.one_mul]
    omega

theorem foldU_tot (rs : List R) : totU ((foldU rs).getD []) ≤ totR rs := by
  cases h : foldU rs with
  | none => exact Nat.zero_le _
  | some us =>
    have := foldlM_tot rs [] us h
    simpa [totU] using this

theorem totU_mem {l : List U} {u : U} (h : u ∈ l) : u.zs.length ≤ totU l := by
  induction l with
  | nil => cases h
  | cons x l ih =>
    simp only [totU]
    rcases List.mem_cons.1 h with rfl | h
    · omega
    · have := ih h; omega

theorem mkUEnd_tot (k : Nat) (l : List UE) (h : ∀ e ∈ l, e.n = e.u.zs.length) : mkUEnd k l = k + 3 * l.length + totU (l.map UE.u) := by
  induction l generalizing k with
  | nil => simp [mkUEnd, totU]
  | cons e l ih =>
    have h1 := ih (k + 3 + e.n) (fun x hx => h x (List.mem_cons_of_mem _ hx))
    have h2 := h e (List.mem_cons_self ..)
    simp only [mkUEnd, List.length_cons, List.map_cons, totU, h1, ← h2]
    omega

theorem mkREnd_leB (k B : Nat) (l : List RE) (h : ∀ e ∈ l, e.n ≤ B) : mkREnd k l ≤ k + (5 + B) * l.length := by
  induction l generalizing k with
  | nil => simp [mkREnd]
  | cons e l ih =>
    have h1 := ih (k + 5 + e.n) (fun x hx => h x (List.mem_cons_of_mem _ hx))
    have h2 := h e (List.mem_cons_self ..)
    simp only [mkREnd, List.length_cons, Nat.mul_add, Nat.mul_one]
    omega

end Go.Proofs.YtogopmngbjkcjatDoor

namespace Go.Proofs.YtogopmngbjkcjatDoor
open Go.RowKit Go.ChangeShapes Go.WideShapes
set_option linter.unusedVariables false

theorem bytes_opened {H : Type} {enc : TypeId × Value → H} {w : World} {fuel : Nat} {v : Value} {x : DataW H × List MemPlace} (h : DataW.trod enc Tryd.prog w 0 (fun _ => true) true fuel 54 [v] = some x) :
    ∃ a len cap zs, v = .slice a len cap ∧ len ≤ cap ∧ len ≤ maxLen ∧ Seg w a len zs := by
  rcases Go.Deep.open_slice1 Tryd.underlying54 (by kernel_rfl) h with ⟨hcs, _⟩ | ⟨a, len, cap, m, n, V, D, Pl, hcs, _, hl, hm, hmm, _, hc⟩
  · simp at hcs
    exact ⟨none, 0, 0, [], hcs, Nat.le_refl _, Nat.zero_le _, rfl, by simp, .inl rfl⟩
  · simp at hcs hmm
    subst hmm
    have hs : ∀ i, i < m → ∃ z : Int, V i = .int .u8 z ∧ 0 ≤ z ∧ z ≤ 255 := by
      intro i hi
      obtain ⟨_, h0⟩ := hc i hi
      obtain ⟨z, e0, _, w0⟩ := DataW.trod_int Tryd.underlying5 h0
      exact ⟨z, by simpa using e0, bounds_u8 w0⟩
    refine ⟨some a, len, m, (List.range len).map fun i => if hi : i < m then Classical.choose (hs i hi) else 0, hcs, hl, by omega, by simp, ?_, ?_⟩
    · intro z hz
      obtain ⟨i, hi, rfl⟩ := List.mem_map.1 hz
      have him : i < m := by have := List.mem_range.1 hi; omega
      rw [dif_pos him]
      exact (Classical.choose_spec (hs i him)).2
    · by_cases h0 : len = 0
      · exact .inl h0
      · right
        obtain ⟨b, off, spot⟩ := a
        have hspot : spot = none := by simpa [Addr.add] using World.cell?_spot (hc 0 (by omega)).1
        subst hspot
        have key : ∀ i (hi : i < m), w.cell? ⟨b, off + i, none⟩ = some (.int .u8 (Classical.choose (hs i hi))) := by
          intro i hi
          have hq := Classical.choose_spec (hs i hi)
          have hcc := (hc i hi).1
          rw [← hq.1]
          by_cases hi0 : i = 0
          · subst hi0
            simpa [Addr.add] using hcc
          · simpa [Addr.add, hi0] using hcc
        refine ⟨b, off, rfl, lt_of_cell (key 0 (by omega)), fun i hi => ?_⟩
        have := key i (by omega)
        rw [this]
        simp [List.getD_eq_getElem?_getD, hi, show i < m by omega]

end Go.Proofs.YtogopmngbjkcjatDoor

namespace Go.Proofs.YtogopmngbjkcjatDoor
open Go.RowKit Go.ChangeShapes Go.WideShapes Go.Joins Go.Deep
set_option linter.unusedVariables false

/-- What is known of each. -/
def ReOk (w : World) (e : RE) : Prop := e.r.id.size ≤ maxLen ∧ e.n ≤ maxLen ∧ (-9223372036854775808 ≤ e.r.n ∧ e.r.n ≤ 9223372036854775807) ∧ Seg w e.a e.n e.r.zs

set_option maxRecDepth 100000 in
theorem rec_cells {H : Type} {enc : TypeId × Value → H} {w : World} {n : Nat} {cs : List Value} {x : DataW H × List MemPlace} (h : DataW.trod enc Tryd.prog w 0 (fun _ => true) true n 62 cs = some x) :
    ∃ e : RE, cs = e.cells ∧ ReOk w e := by
  obtain ⟨xs, m, _, _, hl, hlen, hg⟩ := DataW.trod_struct Tryd.underlying62 h
  have hC : Tryd.prog.cellsOf 62 = 6 := by kernel_rfl
  rw [hC] at hl
  have k3 : Tryd.prog.cellsOf 3 = 1 := by kernel_rfl
  have k9 : Tryd.prog.cellsOf 9 = 1 := by kernel_rfl
  have kb : Tryd.prog.cellsOf 54 = 1 := by kernel_rfl
  match xs, hlen, cs, hl with
  | [y0, y1, y2, y3, y4, y5], _, [v0, v1, v2, v3, v4, v5], _ =>
    have g0 := hg 0 _ rfl
    have g1 := hg 1 _ rfl
    have g2 := hg 2 _ rfl
    have g3 := hg 3 _ rfl
    have g4 := hg 4 _ rfl
    have g5 := hg 5 _ rfl
    simp [k3, k9, kb] at g0 g1 g2 g3 g4 g5
    obtain ⟨i0, e0, _, _⟩ := DataW.trod_int Tryd.underlying3 g0
    obtain ⟨i1, e1, _, _⟩ := DataW.trod_int Tryd.underlying3 g1
    obtain ⟨i2, e2, _, _⟩ := DataW.trod_int Tryd.underlying3 g2
    obtain ⟨s, e3, _, z3⟩ := DataW.trod_string Tryd.underlying9 g3
    obtain ⟨i4, e4, _, w4⟩ := DataW.trod_int Tryd.underlying3 g4
    obtain ⟨a, len, cap, zs, e5, _, hlm, hs⟩ := bytes_opened g5
    refine ⟨⟨⟨i0, i1, i2, s, i4, zs⟩, a, len, cap⟩, ?_, z3, hlm, bounds_i64 w4, hs⟩
    simp only [List.cons.injEq, and_true] at e0 e1 e2 e3 e4
    rw [RE.cells, e0, e1, e2, e3, e4, e5]

set_option maxRecDepth 100000 in
theorem recs_opened {H : Type} {enc : TypeId × Value → H} {w : World} {r : Reach} {b0 : Nat} {v : Value} {d : DataW H} {p : List MemPlace} (hv : Value.okWide Tryd.prog w r b0 31 v) (h0 : DataW.Trod enc Tryd.prog w 0 (fun _ => true) true 31 v d p) :
    ∃ a len cap l, v = .slice a len cap ∧ len ≤ maxLen ∧ (∀ e ∈ l, ReOk w e) ∧ RcsI w a len l := by
  obtain ⟨a9, n9, c9, rfl⟩ := okWide_slice Tryd.underlying31 hv
  obtain ⟨fuel, h⟩ := h0
  rcases Go.Deep.open_slice Tryd.underlying31 h with ⟨hcs, _⟩ | ⟨a, len, cap, m, n, D, Pl, hcs, _, hl, hm, hmm, _, hc⟩
  · simp [Value.cells] at hcs
    exact ⟨none, 0, 0, [], by rw [hcs.1, hcs.2.1, hcs.2.2], Nat.zero_le _, by simp, rfl, by simp, .inl rfl⟩
  · simp [Value.cells] at hcs hmm
    subst hmm
    have hC : Tryd.prog.cellsOf 62 = 6 := by kernel_rfl
    rw [hC] at hc
    have hs : ∀ i, i < m → ∃ e : RE, (w.cell? (a.add (i * 6)) = some (.int .i64 e.r.e) ∧ w.cell? (a.add (i * 6 + 1)) = some (.int .i64 e.r.q) ∧ w.cell? (a.add (i * 6 + 2)) = some (.int .i64 e.r.k) ∧ w.cell? (a.add (i * 6 + 3)) = some (.string e.r.id) ∧ w.cell? (a.add (i * 6 + 4)) = some (.int .i64 e.r.n) ∧ w.cell? (a.add (i * 6 + 5)) = some (.slice e.a e.n e.c)) ∧ ReOk w e := by
      intro i hi
      obtain ⟨cs', h1, h2⟩ := hc i hi
      obtain ⟨e, rfl, r⟩ := rec_cells h2
      obtain ⟨_, hlen, hcell⟩ := World.cells?_some h1
      have e0 := hcell 0 (by omega)
      have e1 := hcell 1 (by omega)
      have e2 := hcell 2 (by omega)
      have e3 := hcell 3 (by omega)
      have e4 := hcell 4 (by omega)
      have e5 := hcell 5 (by omega)
      rw [Go.Deep.add_add] at e0 e1 e2 e3 e4 e5
      exact ⟨e, ⟨by simpa [RE.cells] using e0, by simpa [RE.cells] using e1, by simpa [RE.cells] using e2, by simpa [RE.cells] using e3, by simpa [RE.cells] using e4, by simpa [RE.cells] using e5⟩, r⟩
    refine ⟨some a, len, m, (List.range len).map fun i => if hi : i < m then Classical.choose (hs i hi) else ⟨⟨0, 0, 0, ⟨#[]⟩, 0, []⟩, none, 0, 0⟩, by rw [hcs.1, hcs.2.1, hcs.2.2], by omega, ?_, by simp, ?_, ?_⟩
    · intro f hf
      obtain ⟨i, hi, rfl⟩ := List.mem_map.1 hf
      have him : i < m := by have := List.mem_range.1 hi; omega
      rw [dif_pos him]
      exact (Classical.choose_spec (hs i him)).2
    · intro f hf
      obtain ⟨i, hi, rfl⟩ := List.mem_map.1 hf
      have him : i < m := by have := List.mem_range.1 hi; omega
      rw [dif_pos him]
      exact (Classical.choose_spec (hs i him)).2.2.2.2
    · by_cases h0 : len = 0
      · exact .inl h0
      · right
        obtain ⟨b, off, spot⟩ := a
        have hspot : spot = none := by simpa [Addr.add] using World.cell?_spot (Classical.choose_spec (hs 0 (by omega))).1.1
        subst hspot
        have key : ∀ i (hi : i < m), w.cell? ⟨b, off + i * 6, none⟩ = some (.int .i64 (Classical.choose (hs i hi)).r.e) ∧ w.cell? ⟨b, off + i * 6 + 1, none⟩ = some (.int .i64 (Classical.choose (hs i hi)).r.q) ∧ w.cell? ⟨b, off + i * 6 + 2, none⟩ = some (.int .i64 (Classical.choose (hs i hi)).r.k) ∧ w.cell? ⟨b, off + i * 6 + 3, none⟩ = some (.string (Classical.choose (hs i hi)).r.id) ∧ w.cell? ⟨b, off + i * 6 + 4, none⟩ = some (.int .i64 (Classical.choose (hs i hi)).r.n) ∧ w.cell? ⟨b, off + i * 6 + 5, none⟩ = some (.slice (Classical.choose (hs i hi)).a (Classical.choose (hs i hi)).n (Classical.choose (hs i hi)).c) := by
          intro i hi
          obtain ⟨⟨q0, q1, q2, q3, q4, q5⟩, _⟩ := Classical.choose_spec (hs i hi)
          generalize Classical.choose (hs i hi) = e at *
          refine ⟨?_, ?_, ?_, ?_, ?_, ?_⟩
          · by_cases hi0 : i = 0
            · subst hi0
              simpa [Addr.add] using q0
            · simpa [Addr.add, show ¬ i * 6 = 0 by omega] using q0
          · simpa [Addr.add, Nat.add_assoc] using q1
          · simpa [Addr.add, Nat.add_assoc] using q2
          · simpa [Addr.add, Nat.add_assoc] using q3
          · simpa [Addr.add, Nat.add_assoc] using q4
          · simpa [Addr.add, Nat.add_assoc] using q5
        refine ⟨b, off, rfl, lt_of_cell (key 0 (by omega)).1, fun i hi => ?_⟩
        have hil : i < len := by simpa using hi
        have := key i (by omega)
        simpa [show i < m by omega] using this

end Go.Proofs.YtogopmngbjkcjatDoor
