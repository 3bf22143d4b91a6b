/- The library's DeleteFunc of lanes of one number, in a row of the call's own; the program's without. -/
import Derived.Test.YtkicfiacnpifkapLaneRoom
import Derived.Test.YtkicfiacnpifkapFlowIdxO
import Derived.Test.YtkicfiacnpifkapFlowReach
import Derived.Test.YtkicfiacnpifkapQuietB
import Derived.Shelf.Abstract
namespace Go.Proofs.Ytkicfiacnpifkap
open Go.RowKit
set_option linter.unusedVariables false

/-- 'clear' of lanes in a row. -/
theorem clearL_run (w : World) (t ty : TypeId) (hu : Try.prog.underlying t = some (.slice 43)) (g C o m c : Nat) (P T S : List Value) (hr : RowL w g C (P ++ T ++ S)) (hT : T.length = m * 2) (ho : P.length = o) (hm : 0 < m) :
    ∃ w2 Z, (Builtin.clear_ #[t] ty #[.slice (some ⟨g, o, none⟩) m c]).run Try.prog w = .ok (.tuple #[]) w2 ∧ RowL w2 g C (P ++ Z) ∧ w.grownBy w2 (some g) := by
  obtain ⟨i0, hi, hz0, hz1, hz2⟩ := info_parts info_lane
  have hv : ∀ w, (zeroValue 43).run Try.prog w = .ok (.agg #[.int .i64 0, .int .i64 0]) w := fun w => by simp [zeroValue, typeInfo, hi, hz0]
  obtain ⟨cs, hcs⟩ : ∃ cs, (Builtin.zeroCells (Value.agg #[.int .i64 0, .int .i64 0]).cells m) = cs := ⟨_, rfl⟩
  have hcl : cs.size = m * 2 := by
    rw [← hcs, size_zeroCells]
    rfl
  have h1 : ∀ v ∈ cs.toList, v.oneCell' = true := by
    intro v hv'
    rw [← hcs] at hv'
    simp only [Builtin.zeroCells, Value.cells, Array.toList_map, List.mem_map] at hv'
    obtain ⟨k, _, hk⟩ := hv'
    rw [← hk]
    have : k % 2 = 0 ∨ k % 2 = 1 := by omega
    rcases this with h | h <;> simp [h, Value.oneCell']
  have hst := run_storeCells_at Try.prog g o _ cs.toList 0 _ w hr.1 (by simp [hcl, hT]; omega) h1
  obtain ⟨m', rfl⟩ : ∃ m', m = m' + 1 := ⟨m - 1, by omega⟩
  refine ⟨w.setRow g (P ++ (cs.toList ++ S)).toArray, cs.toList ++ S, ?_, ⟨setRow_heap w g _ _ _ _ hr.1, ?_⟩, ⟨rfl, rfl, rfl, by simp, fun k _ hk => setRow_other w g k _ (fun e => hk (by simp [e]))⟩⟩
  · have e1 : ((P ++ T ++ S).toArray.toList.take (o + 0) ++ cs.toList ++ (P ++ T ++ S).toArray.toList.drop (o + 0 + cs.toList.length)).toArray = (P ++ (cs.toList ++ S)).toArray := by
      have e2 : cs.toList.length = T.length := by rw [Array.length_toList, hcl, hT]
      subst ho
      rw [e2]
      simp [List.drop_append]
    rw [e1] at hst
    simp [Builtin.clear_, run_underlying hu, hv, hcs, hst]
  · have := hr.2
    simp only [List.length_append, Array.length_toList] at this ⊢
    omega

/-- A lane is written into a row of the call's own. -/
theorem OwnL.put {w : World} {base g n C j : Nat} {l : List Lane} {p q : Int} (h : OwnL w base (some ⟨g, 0, none⟩) n C l) (hj : j < n) (hp : i64b p) (hq : i64b q) :
    OwnL ((w.setCell ⟨g, j * 2, none⟩ (.int .i64 p)).setCell ⟨g, j * 2 + 1, none⟩ (.int .i64 q)) base (some ⟨g, 0, none⟩) n C (l.set j (p, q)) ∧ w.grownBy ((w.setCell ⟨g, j * 2, none⟩ (.int .i64 p)).setCell ⟨g, j * 2 + 1, none⟩ (.int .i64 q)) (some g) := by
  have hl := h.len
  have h1 := h.1.stored (j * 2) (.int .i64 p)
  have h2 := h1.1.stored (j * 2 + 1) (.int .i64 q)
  rw [laneCells_set l p q j (by omega)] at h2
  refine ⟨⟨h2.1, fun s hs => ?_⟩, World.grownBy.trans h1.2 h2.2⟩
  rcases List.mem_or_eq_of_mem_set hs with hs | rfl
  · exact h.2 s hs
  · exact ⟨hp, hq⟩

theorem implDel_any (p q k : Int) (kb : Nat) (w : World) (h : w.cell? ⟨kb, 0, none⟩ = some (.int .i64 k)) : Calls Try.prog 50 #[.agg #[.int .i64 p, .int .i64 q], .pointer (some ⟨kb, 0, none⟩)] w fun e w' => e = .returned (.bool (p == k)) ∧ Below w.heap.size w w' := by
  have hkb : kb < w.heap.size := block_lt_of_cell h
  have HB : Hid (Below w.heap.size w (w.alloc (.cells #[.int .i64 p, .int .i64 q] 43))) := (Below.refl _ _).alloc (Nat.le_refl _) _
  have hx : (w.alloc (.cells #[.int .i64 p, .int .i64 q] 43)).heap[w.heap.size]? = some (.cells #[.int .i64 p, .int .i64 q] 43 (0, 0)) := heap_alloc_new w _
  have hk1 : (w.alloc (.cells #[.int .i64 p, .int .i64 q] 43)).cell? ⟨kb, 0, none⟩ = some (.int .i64 k) := (HB.out.cell (p := ⟨kb, 0, none⟩) hkb).trans h
  have m1 := keyM p q
  go_enter Try.func50, Try.ntmps50
  go_wp2_with fail
  obtain ⟨w1, hw1⟩ : ∃ w1, w.alloc (.cells #[.int .i64 p, .int .i64 q] 43) = w1 := ⟨_, rfl⟩
  rw [hw1] at hx hk1 HB ⊢
  clear hw1
  have hlt : w.heap.size < w1.heap.size := (Array.getElem?_eq_some_iff.1 hx).1
  have x0 : w1.cell? ⟨w.heap.size, 0, none⟩ = some (.int .i64 p) := by rw [cell_of_row _ _ _ _ _ _ hx]; rfl
  have x1 : w1.cell? ⟨w.heap.size, 1, none⟩ = some (.int .i64 q) := by rw [cell_of_row _ _ _ _ _ _ hx]; rfl
  have hne := past_some w1
  have y0 : ∀ P : Past w1, P.world.cell? ⟨w.heap.size, 0, none⟩ = some (.int .i64 p) := fun P => P.cell hlt x0
  have y1 : ∀ P : Past w1, P.world.cell? ⟨w.heap.size, 1, none⟩ = some (.int .i64 q) := fun P => P.cell hlt x1
  have y2 : ∀ P : Past w1, P.world.cell? ⟨kb, 0, none⟩ = some (.int .i64 k) := fun P => P.cell (by show kb < _; omega) hk1
  clear x0 x1 hk1 hx h
  refine wp_region_past (by kernel_rfl) (by kernel_rfl) ?_
  repeat (quiet_step ((first | (go_at_call 71; exact calls_past (implKey_any _ _ _)) | fail)))
  refine wpQuiet_nil ?_
  rintro _ ⟨z, rfl⟩
  have HZ : Hid (Below w.heap.size w z.world) := HB.out.trans (z.below.mono HB.out.size)
  go_wp2_with fail
  go_ret
  exact ⟨rfl, HZ.out⟩

theorem idxL_at (k : Int) : ∀ l : List Lane, idxL (fun p _ => p == k) l = atL k l
  | [] => rfl
  | x :: r => by
    rw [idxL, atL, idxL_at k r]
    by_cases h : x.1 = k
    · simp [h]
    · simp [h]

/-- What is kept of the first lanes. -/
def keptL (k : Int) (l : List Lane) : List Lane := l.filter fun s => !(s.1 == k)

theorem keptL_le (k : Int) (l : List Lane) : (keptL k l).length ≤ l.length := List.length_filter_le _ _

theorem keptL_take_all {k : Int} {l : List Lane} {K : Nat} (h : ∀ j, j < K → (laneAt l j).1 ≠ k) (hK : K ≤ l.length) : keptL k (l.take K) = l.take K := by
  unfold keptL
  rw [List.filter_eq_self]
  intro s hs
  obtain ⟨j, hj, rfl⟩ := List.mem_iff_getElem.1 hs
  have hjK : j < K := by simp at hj; omega
  have := h j hjK
  rw [laneAt, List.getD_eq_getElem?_getD, List.getElem?_eq_getElem (by omega)] at this
  simpa using this

theorem keptL_next {k : Int} {l : List Lane} {j : Nat} {p q : Int} (h : l[j]? = some (p, q)) : keptL k (l.take (j + 1)) = keptL k (l.take j) ++ (if p == k then [] else [(p, q)]) := by
  unfold keptL
  rw [List.take_add_one, h, List.filter_append]
  congr 1
  by_cases e : p = k
  · simp [e]
  · simp [e]

set_option maxRecDepth 10000 in
set_option maxHeartbeats 1600000 in
theorem delL_any (base g n C : Nat) (l : List Lane) (k : Int) (kb K : Nat) (w : World) (ho : OwnL w base (some ⟨g, 0, none⟩) n C l) (hkb : w.cell? ⟨kb, 0, none⟩ = some (.int .i64 k)) (hne : kb ≠ g) (hn : n ≤ 1048576) (hK : atL k l = K) (hKn : K < n) (hkp : ∀ j, j < K → (laneAt l j).1 ≠ k) (hkK : (laneAt l K).1 = k) :
    Calls Try.prog 49 #[.slice (some ⟨g, 0, none⟩) n C, .func (.func 50) #[] #[.pointer (some ⟨kb, 0, none⟩)]] w fun e w' => e = .returned (.slice (some ⟨g, 0, none⟩) (keptL k l).length C) ∧ OwnL w' base (some ⟨g, 0, none⟩) (keptL k l).length C (keptL k l) ∧ w.grownBy w' (some g) := by
  have hkl : kb < w.heap.size := block_lt_of_cell hkb
  have hgl : g < w.heap.size := (ho.lt g rfl).2
  have HIx : Hid (Calls Try.prog 53 #[.slice (some ⟨g, 0, none⟩) n C, .func (.func 50) #[] #[.pointer (some ⟨kb, 0, none⟩)]] w fun e w' => e = .returned (.int .i64 (K : Int)) ∧ Below w.heap.size w w') := by
    have h := implIdxO_any (some ⟨g, 0, none⟩) n C l 50 #[.pointer (some ⟨kb, 0, none⟩)] (fun p _ => p == k) w (enters_of Try.func50 (by kernel_rfl) rfl) ho.lanes (by omega) (fun p q W hb => implDel_any p q k kb W ((hb.cell (p := ⟨kb, 0, none⟩) hkl).trans hkb))
    rw [idxL_at, hK] at h
    exact h
  have HL : Hid (l.length = n) := ho.len
  have hlK : K ≤ l.length := by have := HL.out; omega
  have HT : Hid (keptL k (l.take (K + 1)) = l.take K) := by
    show _ = _
    have hk2 : l[K]? = some (laneAt l K) := by
      have hKl : K < l.length := by have := HL.out; omega
      rw [laneAt, List.getD_eq_getElem?_getD, List.getElem?_eq_getElem hKl]
      rfl
    rw [keptL_next (p := (laneAt l K).1) (q := (laneAt l K).2) hk2, keptL_take_all hkp hlK, hkK]
    simp
  have HO : Hid (OwnL w base (some ⟨g, 0, none⟩) n C l) := ho
  have HKb : Hid (w.cell? ⟨kb, 0, none⟩ = some (.int .i64 k)) := hkb
  have HV : Hid (∀ s ∈ l, i64b s.1 ∧ i64b s.2) := ho.2
  have hnC : n ≤ C := by obtain ⟨_, _, _, h, _⟩ := ho.row; exact h
  have hCm : C ≤ maxLen := by obtain ⟨_, _, _, _, h⟩ := ho.row; exact h
  have hbg : base ≤ g := (ho.lt g rfl).1
  clear ho hkb hK hkp hkK
  go_enter Try.func49, Try.ntmps49
  go_wp2_with fail
  refine HIx.out.mono ?_
  rintro e w1 ⟨rfl, hb1⟩
  have HB1 : Hid (Below w.heap.size w w1) := hb1
  clear hb1 HIx
  have hK1 : ((K : Int) == -1) = false := by simp
  go_wp2_with fail
  go_loopw [5, 6, 7] (fun vi vj _ wr => ∃ i j : Nat, vi = .int .i64 i ∧ vj = .int .i64 j ∧ i < j ∧ j ≤ n ∧ Hid ((keptL k (l.take j)).length = i) ∧ Hid (OwnL wr base (some ⟨g, 0, none⟩) n C (keptL k (l.take j) ++ l.drop i)) ∧ Hid (w.grownBy wr (some g))) (fun _ vj _ _ => n - (intOf vj).toNat)
  case atStart => exact ⟨K, K + 1, rfl, by go_num, by omega, by omega, by show _ = _; rw [HT.out, List.length_take]; omega, by rw [HT.out, List.take_append_drop]; exact HO.out.below HB1.out, ⟨HB1.out.os, HB1.out.tape, HB1.out.output, HB1.out.size, fun j hj _ => HB1.out.block j hj⟩⟩
  case round =>
    obtain ⟨i, j, rfl, rfl, hij, hjn, HI, HOr, HG⟩ := hrel
    have hkc : wr.cell? ⟨kb, 0, none⟩ = some (.int .i64 k) := HG.out.cell HKb.out (by simpa using hne)
    have hkl2 : kb < wr.heap.size := Nat.lt_of_lt_of_le hkl HG.out.size
    have hgl2 : g < wr.heap.size := Nat.lt_of_lt_of_le hgl HG.out.size
    by_cases hlt : j < n
    · have hji : (j : Int) < (n : Int) := by omega
      have hii : (i : Int) < (n : Int) := by omega
      obtain ⟨b, off, p, q, hab, hb, hkx, hp, hq, hpb, hqb⟩ := HOr.out.lanes.at hlt
      injection hab with hab
      injection hab with e1 e2
      subst e1 e2
      rw [Nat.zero_add] at hp hq
      have hlj : l[j]? = some (p, q) := by
        have hI := HI.out
        rw [List.getElem?_append_right (by omega), hI, List.getElem?_drop, show i + (j - i) = j by omega] at hkx
        exact hkx
      have HNx : Hid (keptL k (l.take (j + 1)) = keptL k (l.take j) ++ (if p == k then [] else [(p, q)])) := keptL_next hlj
      have HPq : Hid (i64b p ∧ i64b q) := ⟨hpb, hqb⟩
      clear hkx hpb hqb hlj
      have HBa : Hid (Below wr.heap.size wr (wr.alloc (.cells #[.int .i64 p, .int .i64 q] 43))) := (Below.refl _ _).alloc (Nat.le_refl _) _
      have hxa : (wr.alloc (.cells #[.int .i64 p, .int .i64 q] 43)).heap[wr.heap.size]? = some (.cells #[.int .i64 p, .int .i64 q] 43 (0, 0)) := heap_alloc_new wr _
      have HKa : Hid ((wr.alloc (.cells #[.int .i64 p, .int .i64 q] 43)).cell? ⟨kb, 0, none⟩ = some (.int .i64 k)) := (HBa.out.cell (p := ⟨kb, 0, none⟩) hkl2).trans hkc
      have HXa : Hid ((wr.alloc (.cells #[.int .i64 p, .int .i64 q] 43)).heap[wr.heap.size]? = some (.cells #[.int .i64 p, .int .i64 q] 43 (0, 0))) := hxa
      have eg : ∀ (args : Array Value) (w : World), Sem.run Try.prog (callFunc 50 args) w = .ok (.enter 50 args) w := enters_of Try.func50 (by kernel_rfl) rfl
      clear hxa hkc
      go_wp2_with fail
      refine (implDel_any p q k kb _ HKa.out).mono ?_
      rintro e w3 ⟨rfl, hb3⟩
      have HB3 : Hid (Below wr.heap.size wr w3) := HBa.out.trans (hb3.mono HBa.out.size)
      have hx3 : w3.heap[wr.heap.size]? = some (.cells #[.int .i64 p, .int .i64 q] 43 (0, 0)) := (hb3.block _ (Array.getElem?_eq_some_iff.1 HXa.out).1).trans HXa.out
      have HO3 : Hid (OwnL w3 base (some ⟨g, 0, none⟩) n C (keptL k (l.take j) ++ l.drop i)) := HOr.out.below HB3.out
      have HG3 : Hid (w.grownBy w3 (some g)) := ⟨HB3.out.os.trans HG.out.os, HB3.out.tape.trans HG.out.tape, HB3.out.output.trans HG.out.output, Nat.le_trans HG.out.size HB3.out.size, fun z hz hzn => (HB3.out.block z (Nat.lt_of_lt_of_le hz HG.out.size)).trans (HG.out.block z hz hzn)⟩
      clear hb3 HBa HKa HXa HOr HG hp hq
      cases hpk : (p == k)
      case true =>
        rw [hpk] at HNx
        have HN2 : Hid (keptL k (l.take (j + 1)) = keptL k (l.take j)) := by show _ = _; rw [HNx.out]; simp
        go_wp2_with fail
        go_roundw
        case rel => exact ⟨i, j + 1, rfl, by go_num, by omega, by omega, by rw [HN2.out]; exact HI.out, by rw [HN2.out]; exact HO3.out, HG3⟩
        case measure => simp [intOf]; omega
      case false =>
        rw [hpk] at HNx
        have HN2 : Hid (keptL k (l.take (j + 1)) = keptL k (l.take j) ++ [(p, q)]) := by show _ = _; rw [HNx.out]; simp
        have x0 : w3.cell? ⟨wr.heap.size, 0, none⟩ = some (.int .i64 p) := by rw [cell_of_row _ _ _ _ _ _ hx3]; rfl
        have x1 : w3.cell? ⟨wr.heap.size, 1, none⟩ = some (.int .i64 q) := by rw [cell_of_row _ _ _ _ _ _ hx3]; rfl
        obtain ⟨b', off, p', q', hab, hb', hkx, hp, hq, _, _⟩ := HO3.out.lanes.at (show i < n by omega)
        injection hab with hab
        injection hab with e1 e2
        subst e1 e2
        rw [Nat.zero_add] at hp hq
        have fz0 : w3.frozen? ⟨g, i * 2, none⟩ = false := HO3.out.1.frozenAt _
        have fz1 : w3.frozen? ⟨g, i * 2 + 1, none⟩ = false := HO3.out.1.frozenAt _
        have hput := HO3.out.put (show i < n by omega) HPq.out.1 HPq.out.2
        have HO4 : Hid (OwnL ((w3.setCell ⟨g, i * 2, none⟩ (.int .i64 p)).setCell ⟨g, i * 2 + 1, none⟩ (.int .i64 q)) base (some ⟨g, 0, none⟩) n C (keptL k (l.take (j + 1)) ++ l.drop (i + 1)) ∧ w.grownBy ((w3.setCell ⟨g, i * 2, none⟩ (.int .i64 p)).setCell ⟨g, i * 2 + 1, none⟩ (.int .i64 q)) (some g)) := by
          refine ⟨?_, World.grownBy.trans HG3.out hput.2⟩
          have h := hput.1
          have hI := HI.out
          have hl := HL.out
          rw [List.set_append_right _ _ (by omega), hI, Nat.sub_self, List.drop_eq_getElem_cons (by omega), List.set_cons_zero] at h
          rw [HN2.out, List.append_assoc]
          exact h
        clear hput hkx hx3
        go_wp2_with fail
        go_roundw
        case rel => exact ⟨i + 1, j + 1, by go_num, by go_num, by omega, by omega, by rw [HN2.out, List.length_append, HI.out]; rfl, HO4.out.1, HO4.out.2⟩
        case measure => simp [intOf]; omega
    · have hjn2 : j = n := by omega
      subst hjn2
      have HKp : Hid (keptL k l = keptL k (l.take j)) := by show _ = _; rw [List.take_of_length_le (by have := HL.out; omega)]
      obtain ⟨rest, hrow, _, _, _⟩ := HOr.out.row
      have hI := HI.out
      have hl := HL.out
      obtain ⟨w4, Z, hcl, hrow4, hg4⟩ := clearL_run wr 46 0 Try.underlying46 g C (i * 2) (j - i) (C - i) (laneCells (keptL k (l.take j))) (laneCells (l.drop i)) rest (by rw [← laneCells_append]; exact hrow) (by rw [laneCells_len, List.length_drop, hl]) (by rw [laneCells_len, hI]) (by omega)
      have HR : Hid (OwnL w4 base (some ⟨g, 0, none⟩) i C (keptL k l) ∧ w.grownBy w4 (some g)) := by
        refine ⟨?_, World.grownBy.trans HG.out hg4⟩
        rw [HKp.out]
        exact RowL.own hrow4 hbg hCm hI (fun s hs => HV.out s (List.mem_of_mem_take (List.mem_filter.1 hs).1))
      have HLn : Hid ((keptL k l).length = i) := by show _ = _; rw [HKp.out]; exact hI
      have t1 : ¬ C = i := by omega
      have t2 : (i : Int) ≤ (j : Int) := by omega
      have t3 : (i : Int) ≤ (C : Int) := by omega
      clear hrow hrow4 hg4 hI hl hkc
      go_wp2_with fail
      go_ret
      exact ⟨by rw [HLn.out]; rfl, by rw [HLn.out]; exact HR.out.1, HR.out.2⟩

set_option maxRecDepth 10000 in
set_option maxHeartbeats 800000 in
theorem implWithout_any (base g n C : Nat) (l : List Lane) (k : Int) (K : Nat) (w : World) (ho : OwnL w base (some ⟨g, 0, none⟩) n C l) (hn : n ≤ 1048576) (hK : atL k l = K) (hKn : K < n) (hkp : ∀ j, j < K → (laneAt l j).1 ≠ k) (hkK : (laneAt l K).1 = k) :
    Calls Try.prog 43 #[.slice (some ⟨g, 0, none⟩) n C, .int .i64 k] w fun e w' => e = .returned (.slice (some ⟨g, 0, none⟩) (keptL k l).length C) ∧ OwnL w' base (some ⟨g, 0, none⟩) (keptL k l).length C (keptL k l) ∧ w.grownBy w' (some g) := by
  have HB : Hid (Below w.heap.size w (w.alloc (.cells #[.int .i64 k] 3))) := (Below.refl _ _).alloc (Nat.le_refl _) _
  have hx : (w.alloc (.cells #[.int .i64 k] 3)).cell? ⟨w.heap.size, 0, none⟩ = some (.int .i64 k) := by rw [cell_of_row _ _ _ _ _ _ (heap_alloc_new w _)]; rfl
  have hgl : g < w.heap.size := (ho.lt g rfl).2
  have HD : Hid (Calls Try.prog 49 #[.slice (some ⟨g, 0, none⟩) n C, .func (.func 50) #[] #[.pointer (some ⟨w.heap.size, 0, none⟩)]] (w.alloc (.cells #[.int .i64 k] 3)) fun e w' => e = .returned (.slice (some ⟨g, 0, none⟩) (keptL k l).length C) ∧ OwnL w' base (some ⟨g, 0, none⟩) (keptL k l).length C (keptL k l) ∧ (w.alloc (.cells #[.int .i64 k] 3)).grownBy w' (some g)) :=
    delL_any base g n C l k w.heap.size K _ (ho.below HB.out) hx (by omega) hn hK hKn hkp hkK
  clear ho hx hK hkp hkK
  generalize keptL k l = kl at *
  go_enter Try.func43, Try.ntmps43
  go_wp2_with fail
  refine HD.out.mono ?_
  rintro e w5 ⟨rfl, ho5, hg5⟩
  have HR : Hid (OwnL w5 base (some ⟨g, 0, none⟩) kl.length C kl ∧ w.grownBy w5 (some g)) := ⟨ho5, ⟨hg5.os.trans HB.out.os, hg5.tape.trans HB.out.tape, hg5.output.trans HB.out.output, Nat.le_trans HB.out.size hg5.size, fun j hj hne => (hg5.block j (Nat.lt_of_lt_of_le hj HB.out.size) hne).trans (HB.out.block j hj)⟩⟩
  clear ho5 hg5
  go_wp2_with fail
  go_ret
  exact ⟨rfl, HR.out.1, HR.out.2⟩

end Go.Proofs.Ytkicfiacnpifkap
