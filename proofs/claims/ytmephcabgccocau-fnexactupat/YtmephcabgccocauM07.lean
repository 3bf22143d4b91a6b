/- What the functions that the laws call do to the world: the copy of bytes, their comparison. Each for slices of at most 2^40 bytes. What the marks do: a row of the call's own is written over with 1, 2, .., and read again; nothing else is written. For rows of at most 2^41 bytes. The marks laid into a row of uploads. How great rows of texts are. -/
import Derived.Test.YtmephcabgccocauRows
import Derived.Test.YtmephcabgccocauM01
import Derived.Deep.QuietTactic
import Derived.BigQuiet
import Derived.Test.YtmephcabgccocauM03
import Derived.Test.YtmephcabgccocauM06
import Derived.Test.YtmephcabgccocauM06
import Derived.Test.YtmephcabgccocauM06
import Derived.Deep.CutBlock
import Derived.Test.YtmephcabgccocauM05
namespace Go.Proofs.Ytmephcabgccocau
open Go.RowKit
set_option linter.unusedVariables false

set_option maxHeartbeats 400000 in
theorem toByteS_any (a : Option Addr) (len cap : Nat) (zs : List Int) (w : World) (hs : Seg w a len zs) (hl : len ≤ 1099511627776) :
    Calls Try.prog 37 #[.slice a len cap] w fun e w' => e = .returned (.slice (some ⟨w.heap.size, 0, none⟩) len len) ∧
      w'.ownsRow w.heap.size 5 1 (.slice (some ⟨w.heap.size, 0, none⟩) len len) len (zs.map (Value.int .u8)) ∧ Below w.heap.size w w' := by
  obtain ⟨i0, hi, hz0, hz1, hz2⟩ := info_parts Try.info5
  have hzs : zs.length = len := hs.1
  have HS : Hid (Seg w a len zs) := hs
  clear hs
  go_enter Try.func37, Try.ntmps37
  go_wp2_with (at_make; refine wpList_make_full _ rfl _ _ 29 rfl w.heap.size 5 i0 (.int .u8 0) 1 Try.underlying29 hi hz0 hz1 _ _ _ _ len rfl rfl rfl rfl (by rw [hz2]; omega) (by unfold maxLen; omega) (Nat.le_refl _) ?_; intro w1 hown hgrow)
  have hrow : w1.ownsRow w.heap.size 5 1 (.slice (some ⟨w.heap.size, 0, none⟩) len len) len ((zs.take 0 ++ List.replicate (len - 0) 0).map (Value.int .u8)) := by
    simpa [toList_madeCells_one, Value.cells] using hown
  have hbel : Below w.heap.size w w1 := (Below.refl _ _).grown hgrow (Nat.le_refl _) (by simp)
  have HR := (show Hid _ from hrow)
  have HB := (show Hid _ from hbel)
  clear hown hgrow hrow hbel
  go_loopw [4] (fun i wr => ∃ k : Nat, k ≤ len ∧ i = .int .i64 k ∧ Hid (wr.ownsRow w.heap.size 5 1 (.slice (some ⟨w.heap.size, 0, none⟩) len len) len ((zs.take k ++ List.replicate (len - k) 0).map (Value.int .u8))) ∧ Hid (Below w.heap.size w wr)) (fun i _ => len - (intOf i).toNat)
  case atStart => exact ⟨0, Nat.zero_le _, rfl, HR, HB⟩
  case round =>
    clear HR HB
    obtain ⟨k, hk, rfl, HO, HB⟩ := hrel
    by_cases hlt : k < len
    · obtain ⟨b, off, rfl, hb, hc⟩ : ∃ b off, a = some ⟨b, off, none⟩ ∧ b < w.heap.size ∧ ∀ i, i < len → w.cell? ⟨b, off + i, none⟩ = some (.int .u8 (zs.getD i 0)) := by
        rcases HS.out.2.2 with h | h
        · omega
        · exact h
      have hcell : wr.cell? ⟨b, off + k, none⟩ = some (.int .u8 (zs.getD k 0)) := (HB.out.cell (p := ⟨b, off + k, none⟩) hb).trans (hc k hlt)
      have hfro : wr.frozen? ⟨w.heap.size, k, none⟩ = false := HO.out.frozenAt k
      obtain ⟨u, hu⟩ : ∃ u, wr.cell? ⟨w.heap.size, k, none⟩ = some u := by
        rw [HO.out.cellAt k (by omega)]
        exact ⟨_, List.getElem?_eq_getElem (by simp; omega)⟩
      clear hc
      go_wp2
      go_roundw
      case rel => 
        refine ⟨k + 1, by omega, by go_num, ?_, ?_⟩
        · have h := (HO.out.stored k (.int .u8 (zs.getD k 0))).1
          rw [copied_step zs k len hlt hzs] at h
          have hkz : k < zs.length := by omega
          show World.ownsRow _ _ _ _ _ _ _
          simpa [hkz] using h
        · exact HB.out.setCell (Nat.le_refl _) _
      case measure => simp [intOf]; omega
    · go_wp2
      go_ret
      have hkl : k = len := by omega
      subst hkl
      refine ⟨rfl, ?_, HB.out⟩
      have h := HO.out
      rw [List.take_of_length_le (by omega)] at h
      simpa using h

set_option maxHeartbeats 400000 in
theorem eqByteS_same (a b : Option Addr) (len ca cb : Nat) (xs : List Int) (w : World) (hx : Seg w a len xs) (hy : Seg w b len xs) (hla : len ≤ 1099511627776) :
    Calls Try.prog 20 #[.slice a len ca, .slice b len cb] w fun e w' => e = .returned (.bool true) ∧ ∃ n, w' = w.drewN n := by
  have HX : Hid (Seg w a len xs) := hx
  have HY : Hid (Seg w b len xs) := hy
  clear hx hy
  have hne : ((len : Int) != (len : Int)) = false := by simp
  go_enter Try.func20, Try.ntmps20
  go_wp2
  go_loopw [5] (fun i wr => ∃ k : Nat, k ≤ len ∧ i = .int .i64 k ∧ Hid (∃ n, wr = w.drewN n)) (fun i _ => len - (intOf i).toNat)
  case atStart => exact ⟨0, Nat.zero_le _, rfl, ⟨0, rfl⟩⟩
  case round =>
    obtain ⟨k, hk, rfl, HW⟩ := hrel
    by_cases hlt : k < len
    · obtain ⟨ba, oa, rfl, hba, hca⟩ : ∃ b off, a = some ⟨b, off, none⟩ ∧ b < w.heap.size ∧ ∀ i, i < len → w.cell? ⟨b, off + i, none⟩ = some (.int .u8 (xs.getD i 0)) := by
        rcases HX.out.2.2 with h | h
        · omega
        · exact h
      obtain ⟨bb, ob, rfl, hbb, hcb⟩ : ∃ b' off, b = some ⟨b', off, none⟩ ∧ b' < w.heap.size ∧ ∀ i, i < len → w.cell? ⟨b', off + i, none⟩ = some (.int .u8 (xs.getD i 0)) := by
        rcases HY.out.2.2 with h | h
        · omega
        · exact h
      have ha : wr.cell? ⟨ba, oa + k, none⟩ = some (.int .u8 (xs.getD k 0)) := by obtain ⟨n, rfl⟩ := HW; exact hca k hlt
      have hb : wr.cell? ⟨bb, ob + k, none⟩ = some (.int .u8 (xs.getD k 0)) := by obtain ⟨n, rfl⟩ := HW; exact hcb k hlt
      clear hca hcb
      have hki : (k : Int) < (len : Int) := by omega
      have hk0 : (0 : Int) ≤ (k : Int) := by omega
      go_wp2
      go_quiet (fail)
      go_wp2
      go_roundw
      case rel =>
        refine ⟨k + 1, by omega, by go_num, ?_⟩
        obtain ⟨n, rfl⟩ := HW.out
        exact ⟨_, World.drewN_drewN _ _ _⟩
      case measure => simp [intOf]; omega
    · go_wp2
      go_ret
      exact ⟨rfl, HW.out⟩

end Go.Proofs.Ytmephcabgccocau

namespace Go.Proofs.Ytmephcabgccocau
open Go.RowKit
set_option linter.unusedVariables false

/-- The marks: n bytes from k on. -/
def marks (k n : Nat) : List Int := (List.range n).map fun i => ((k + i : Nat) : Int) % 256

theorem marks_range (k n : Nat) : ∀ x ∈ marks k n, 0 ≤ x ∧ x ≤ 255 := by
  intro x hx
  simp only [marks, List.mem_map] at hx
  obtain ⟨i, _, rfl⟩ := hx
  omega

theorem marked_step (k : Nat) (zs : List Int) (j : Nat) (h : j < zs.length) :
    ((marks k j ++ zs.drop j).map (Value.int .u8)).set j (.int .u8 (((k + j : Nat) : Int) % 256)) = (marks k (j + 1) ++ zs.drop (j + 1)).map (Value.int .u8) := by
  have hl : (marks k j).length = j := by simp [marks]
  have hd : zs.drop j = zs[j] :: zs.drop (j + 1) := List.drop_eq_getElem_cons h
  have hm : marks k (j + 1) = marks k j ++ [((k + j : Nat) : Int) % 256] := by simp [marks, List.range_succ]
  rw [hd, hm, List.map_append, List.set_append_right _ _ (by simp [hl]), List.length_map, hl, Nat.sub_self, List.map_cons, List.set_cons_zero]
  rw [List.map_append, List.map_append, List.append_assoc]
  rfl

theorem marks_len (k n : Nat) : (marks k n).length = n := by simp [marks]

theorem marks_get (k n j : Nat) (h : j < n) : (marks k n).getD j 0 = ((k : Int) + (j : Int)) % 256 := by
  rw [List.getD_eq_getElem?_getD, List.getElem?_eq_getElem (by simpa [marks] using h)]
  simp [marks]

set_option maxHeartbeats 400000 in
theorem mark_any (base : Nat) (a : Option Addr) (n cap k : Nat) (zs : List Int) (w : World) (h : Owns w base a n cap zs) (hn : n ≤ 2199023255552) (hk : k ≤ 2199023255552) :
    Calls Try.prog 25 #[.slice a n cap, .int .i64 k] w fun e w' => e = .returned (.int .i64 ((k + n : Nat) : Int)) ∧ Owns w' base a n cap (marks k n) ∧ Only w w' a := by
  have hzl : zs.length = n := h.seg.1
  have HO : Hid (Owns w base a n cap zs) := h
  clear h
  go_enter Try.func25, Try.ntmps25
  go_wp2
  go_loopw [1, 5] (fun v i wr => ∃ j : Nat, j ≤ n ∧ i = .int .i64 j ∧ v = .int .i64 ((k + j : Nat) : Int) ∧ Hid (Owns wr base a n cap (marks k j ++ zs.drop j)) ∧ Hid (Only w wr a)) (fun _ i _ => n - (intOf i).toNat)
  case atStart => exact ⟨0, Nat.zero_le _, rfl, by go_num, by simpa [marks, Hid] using HO.out, ⟨rfl, rfl, rfl, Nat.le_refl _, fun _ _ _ => rfl⟩⟩
  case round =>
    clear HO
    obtain ⟨j, hj, rfl, rfl, HO, HB⟩ := hrel
    by_cases hlt : j < n
    · obtain ⟨g, rfl, hf, ⟨u, hu⟩⟩ : ∃ g, a = some ⟨g, 0, none⟩ ∧ wr.frozen? ⟨g, j, none⟩ = false ∧ ∃ u, wr.cell? ⟨g, j, none⟩ = some u := by
        rcases HO.out.1.2 with ⟨he, hn0⟩ | ⟨g, cap', cur, he, _⟩
        · omega
        · simp only [Value.slice.injEq] at he
          obtain ⟨rfl, _, rfl⟩ := he
          refine ⟨g, rfl, HO.out.1.frozenAt j, ?_⟩
          rw [HO.out.1.cellAt j (by omega)]
          exact ⟨_, List.getElem?_eq_getElem (by have := HO.out.1.1; omega)⟩
      go_wp2
      go_roundw
      case rel =>
        refine ⟨j + 1, by omega, by go_num, by go_num, ?_, ?_⟩
        · have h := (HO.out.1.stored j (.int .u8 (((k + j : Nat) : Int) % 256))).1
          rw [marked_step k zs j (by omega)] at h
          refine ⟨by simpa using h, ?_⟩
          intro x hx
          rcases List.mem_append.1 hx with hx | hx
          · exact marks_range _ _ x hx
          · exact HO.out.2 x (List.mem_append_right _ (by
              rw [List.drop_eq_getElem_cons (by omega)]
              exact List.mem_cons_of_mem _ hx))
        · have h := (HO.out.1.stored j (.int .u8 (((k : Int) + (j : Int)) % 256))).2
          have hB := HB.out
          exact ⟨h.os.trans hB.os, h.tape.trans hB.tape, h.output.trans hB.output, Nat.le_trans hB.size h.size, fun i hi hne => (h.block i (Nat.lt_of_lt_of_le hi hB.size) hne).trans (hB.block i hi hne)⟩
      case measure => simp [intOf]; omega
    · go_wp2
      go_ret
      have hjn : j = n := by omega
      subst hjn
      refine ⟨ret_int (by omega), ?_, HB.out⟩
      have h := HO.out
      rw [List.drop_of_length_le (by omega), List.append_nil] at h
      exact h

set_option maxHeartbeats 400000 in
theorem held_any (base : Nat) (a : Option Addr) (n cap k : Nat) (w : World) (h : Owns w base a n cap (marks k n)) (hn : n ≤ 2199023255552) (hk : k ≤ 2199023255552) :
    Calls Try.prog 26 #[.slice a n cap, .int .i64 k] w fun e w' => e = .returned (.int .i64 ((k + n : Nat) : Int)) ∧ w' = w := by
  have HS : Hid (Seg w a n (marks k n)) := h.seg
  clear h
  go_enter Try.func26, Try.ntmps26
  go_wp2
  go_loop [1, 5] (fun v i => ∃ j : Nat, j ≤ n ∧ i = .int .i64 j ∧ v = .int .i64 ((k + j : Nat) : Int)) (fun _ i => n - (intOf i).toNat)
  case atStart => exact ⟨0, Nat.zero_le _, rfl, by go_num⟩
  case round =>
    obtain ⟨j, hj, rfl, rfl⟩ := hrel
    by_cases hlt : j < n
    · obtain ⟨b, off, rfl, hc⟩ : ∃ b off, a = some ⟨b, off, none⟩ ∧ w.cell? ⟨b, off + j, none⟩ = some (.int .u8 (((k : Int) + (j : Int)) % 256)) := by
        rcases HS.out.2.2 with h | ⟨b, off, e1, _, hc⟩
        · omega
        · exact ⟨b, off, e1, by rw [hc j hlt, marks_get k n j hlt]⟩
      go_wp2
      go_round
      case rel => exact ⟨j + 1, by omega, by go_num, by go_num⟩
      case measure => simp [intOf]; omega
    · go_wp2
      go_ret
      have hjn : j = n := by omega
      subst hjn
      exact ⟨ret_int (by omega), rfl⟩

theorem mark_one (base : Nat) (a : Option Addr) (n cap : Nat) (zs : List Int) (w : World) (h : Owns w base a n cap zs) (hn : n ≤ 2199023255552) :
    Calls Try.prog 25 #[.slice a n cap, .int .i64 1] w fun e w' => e = .returned (.int .i64 ((1 + n : Nat) : Int)) ∧ Owns w' base a n cap (marks 1 n) ∧ Only w w' a := mark_any base a n cap 1 zs w h hn (by omega)

theorem held_one (base : Nat) (a : Option Addr) (n cap : Nat) (w : World) (h : Owns w base a n cap (marks 1 n)) (hn : n ≤ 2199023255552) :
    Calls Try.prog 26 #[.slice a n cap, .int .i64 1] w fun e w' => e = .returned (.int .i64 ((1 + n : Nat) : Int)) ∧ w' = w := held_any base a n cap 1 w h hn (by omega)

end Go.Proofs.Ytmephcabgccocau

namespace Go.Proofs.Ytmephcabgccocau
open Go.RowKit
set_option linter.unusedVariables false

def mbU (k : Nat) : Bool := decide (k % 3 = 0)

theorem mbU_is (k : Nat) : ((k : Int) % 3 == 0) = mbU k := by
  rw [Bool.eq_iff_iff, beq_iff_eq, mbU, decide_eq_true_eq]
  omega

/-- The marks of one upload, from k on. -/
def mkU1 (k : Nat) (e : UE) : UE := { e with u := ⟨mt k, (k : Int) + 1, marks (k + 2) e.n, mbU (k + 2 + e.n)⟩ }

/-- The marks of uploads, from k on. -/
def mkUp : Nat → List UE → List UE
  | _, [] => []
  | k, e :: l => mkU1 k e :: mkUp (k + 3 + e.n) l

/-- The number behind the marks. -/
def mkUEnd : Nat → List UE → Nat
  | k, [] => k
  | k, e :: l => mkUEnd (k + 3 + e.n) l

theorem mkUp_len (k : Nat) (l : List UE) : (mkUp k l).length = l.length := by
  induction l generalizing k with
  | nil => rfl
  | cons e l ih => simp [mkUp, ih]

theorem mkUp_append (k : Nat) (l m : List UE) : mkUp k (l ++ m) = mkUp k l ++ mkUp (mkUEnd k l) m := by
  induction l generalizing k with
  | nil => rfl
  | cons e l ih => simp [mkUp, mkUEnd, ih]

theorem mkUEnd_append (k : Nat) (l m : List UE) : mkUEnd k (l ++ m) = mkUEnd (mkUEnd k l) m := by
  induction l generalizing k with
  | nil => rfl
  | cons e l ih => simp [mkUEnd, ih]

theorem mkUEnd_ge (k : Nat) (l : List UE) : k ≤ mkUEnd k l := by
  induction l generalizing k with
  | nil => exact Nat.le_refl _
  | cons e l ih => have := ih (k + 3 + e.n); simp only [mkUEnd]; omega

theorem mkUEnd_le (k B : Nat) (l : List UE) (h : ∀ e ∈ l, e.n ≤ B) : mkUEnd k l ≤ k + (3 + B) * l.length := by
  induction l generalizing k with
  | nil => simp [mkUEnd]
  | cons e l ih =>
    have h1 := ih (k + 3 + e.n) (fun x hx => h x (List.mem_cons_of_mem _ hx))
    have h2 := h e (List.mem_cons_self ..)
    simp only [mkUEnd, List.length_cons, Nat.mul_add, Nat.mul_one]
    omega

theorem mark_intU (base : Nat) (a : Option Addr) (n cap k : Nat) (kk : Int) (zs : List Int) (w : World) (h : Owns w base a n cap zs) (hn : n ≤ 2199023255552) (hk : k ≤ 2199023255552) (hkk : kk = (k : Int)) :
    Calls Try.prog 25 #[.slice a n cap, .int .i64 kk] w fun e w' => e = .returned (.int .i64 ((k + n : Nat) : Int)) ∧ Owns w' base a n cap (marks k n) ∧ Only w w' a := by
  subst hkk
  exact mark_any base a n cap k zs w h hn hk

set_option maxRecDepth 10000 in
set_option maxHeartbeats 3200000 in
theorem markUpS_any (base : Nat) (a : Option Addr) (n cap k : Nat) (l : List UE) (w : World) (h : UpRow w base (.slice a n cap) l) (hn : l.length = n) (hk : mkUEnd k l ≤ 2199023255552) (hnb : n ≤ 1099511627776) (hi : Nat) (hwi : (∀ q, a.map (·.block) = some q → q < hi) ∧ ∀ e ∈ l, ∀ q, e.a.map (·.block) = some q → q < hi) :
    Calls Try.prog 24 #[.slice a n cap, .int .i64 (k : Int)] w fun e w' => e = .returned (.int .i64 (mkUEnd k l : Int)) ∧ UpRow w' base (.slice a n cap) (mkUp k l) ∧ Within w w' base hi ∧ KeptT w w' := by
  have HO : Hid (UpRow w base (.slice a n cap) l) := h
  have HN : Hid (l.length = n) := hn
  have HK : Hid (mkUEnd k l ≤ 2199023255552) := hk
  have HHi : Hid ((∀ q, a.map (·.block) = some q → q < hi) ∧ ∀ e ∈ l, ∀ q, e.a.map (·.block) = some q → q < hi) := hwi
  clear h hn hk hwi
  go_enter Try.func24, Try.ntmps24
  go_wp2
  go_loopw [1, 5] (fun v i wr => ∃ j : Nat, j ≤ n ∧ i = .int .i64 j ∧ v = .int .i64 (mkUEnd k (l.take j) : Int) ∧ Hid (UpRow wr base (.slice a n cap) (mkUp k (l.take j) ++ l.drop j)) ∧ Hid (Within w wr base hi) ∧ Hid (KeptT w wr)) (fun _ i _ => n - (intOf i).toNat)
  case atStart => exact ⟨0, Nat.zero_le _, rfl, rfl, HO, Within.refl _ _ _, KeptT.refl _⟩
  case round =>
    clear HO
    obtain ⟨j, hj, rfl, rfl, HO, HB, HKt⟩ := hrel
    by_cases hlt : j < n
    · have hjl : j < l.length := by have := HN.out; omega
      have hd : l.drop j = l[j] :: l.drop (j + 1) := List.drop_eq_getElem_cons hjl
      have ht : l.take (j + 1) = l.take j ++ [l[j]] := List.take_succ_eq_append_getElem hjl
      have hml : (mkUp k (l.take j)).length = j := by rw [mkUp_len, List.length_take]; omega
      have HEnd : Hid (mkUEnd k (l.take (j + 1)) = mkUEnd k (l.take j) + 3 + (l[j]).n) := by show _ = _; rw [ht, mkUEnd_append]; rfl
      have HFr : Hid (mkUp k (l.take (j + 1)) = mkUp k (l.take j) ++ [mkU1 (mkUEnd k (l.take j)) (l[j])]) := by show _ = _; rw [ht, mkUp_append]; rfl
      have hKb : mkUEnd k (l.take j) + 3 + (l[j]).n ≤ 2199023255552 := by
        have h1 := HK.out
        rw [← List.take_append_drop (j + 1) l, mkUEnd_append] at h1
        have h2 := mkUEnd_ge (mkUEnd k (l.take (j + 1))) (l.drop (j + 1))
        have h3 := HEnd.out
        omega
      have hO := HO.out
      rw [hd] at hO
      have hlen : (mkUp k (l.take j) ++ l[j] :: l.drop (j + 1)).length = n := by rw [List.length_append, hml, List.length_cons, List.length_drop]; have := HN.out; omega
      have hat := hO.at hlen.symm (i := j) (by omega)
      rw [show (mkUp k (l.take j) ++ l[j] :: l.drop (j + 1))[j]'(by omega) = l[j] by rw [List.getElem_append_right (by omega)]; simp [hml]] at hat
      obtain ⟨g, rfl, c0, c1, c2, c3, _⟩ := hat
      have hge := hO.1.lt g rfl
      have hgh : g < hi := HHi.out.1 g rfl
      have HEh : Hid (∀ q, (l[j]).a.map (·.block) = some q → q < hi) := HHi.out.2 _ (List.getElem_mem hjl)
      clear hd ht c0 c1 c2 c3
      generalize mkUp k (l.take j) = M at *
      generalize mkUEnd k (l.take j) = K at *
      obtain ⟨D, hD⟩ : ∃ D, l.drop (j + 1) = D := ⟨_, rfl⟩
      have HD : Hid (l.drop (j + 1) = D) := hD
      rw [hD] at hO hlen
      clear hD
      have HO1 : Hid (UpRow wr base (.slice (some ⟨g, 0, none⟩) n cap) (M ++ l[j] :: D)) := hO
      clear hO HO
      generalize l[j] = e at *
      obtain ⟨⟨eid, ew, ez, ed⟩, ea, en, ec⟩ := e
      dsimp only at *
      have HFr : Hid (mkUp k (l.take (j + 1)) = M ++ [⟨⟨mt K, (K : Int) + 1, marks (K + 2) en, mbU (K + 2 + en)⟩, ea, en, ec⟩]) := HFr.out
      have hKi : (K : Int) ≤ 2199023255552 := by omega
      have hji : (j : Int) < (n : Int) := by omega
      have hlx : ∀ x : UE, (M ++ x :: D).length = n := fun x => by rw [← hlen]; simp
      go_wp2_with fail
      refine (markText_any K _ (by omega)).mono ?_
      rintro _ x1 ⟨rfl, hb1⟩
      have hR1 := HO1.out.stays hb1
      have hG1 : wr.grownBy x1 (some g) := ⟨hb1.os, hb1.tape, hb1.output, hb1.size, fun i hi _ => hb1.block i hi⟩
      have hnm := hR1.numbers (hlx _) (mt K) ((K : Int) + 1)
      have hKt2 : KeptT w ((x1.setCell ⟨g, M.length * 4, none⟩ (.string (mt K))).setCell ⟨g, M.length * 4 + 1, none⟩ (.int .i64 ((K : Int) + 1))) := (HKt.out.trans (keptT_below hb1)).trans (keptT_grown (v := .slice (some ⟨g, 0, none⟩) n cap) hnm.2 hR1.1 (by decide))
      rw [hml] at hKt2
      have HKt2 : Hid (KeptT w ((x1.setCell ⟨g, j * 4, none⟩ (.string (mt K))).setCell ⟨g, j * 4 + 1, none⟩ (.int .i64 ((K : Int) + 1)))) := hKt2
      clear hKt2 HKt
      rw [hml] at hnm
      dsimp only at hnm
      have hat := hR1.at (hlx _).symm (i := j) (by have := hlx ⟨⟨eid, ew, ez, ed⟩, ea, en, ec⟩; omega)
      rw [show (M ++ (⟨⟨eid, ew, ez, ed⟩, ea, en, ec⟩ : UE) :: D)[j]'(by have := hlx ⟨⟨eid, ew, ez, ed⟩, ea, en, ec⟩; omega) = ⟨⟨eid, ew, ez, ed⟩, ea, en, ec⟩ by rw [List.getElem_append_right (by omega)]; simp [hml]] at hat
      obtain ⟨g', hgg, d0, d1, d2, d3, hfr⟩ := hat
      obtain rfl : g = g' := by simpa using hgg
      have h0 := hfr (j * 4)
      have h1 := hfr (j * 4 + 1)
      dsimp only at d0 d1 d2 d3
      have HR2 : Hid (UpRow ((x1.setCell ⟨g, j * 4, none⟩ (.string (mt K))).setCell ⟨g, j * 4 + 1, none⟩ (.int .i64 ((K : Int) + 1))) base (.slice (some ⟨g, 0, none⟩) n cap) (M ++ ⟨⟨mt K, (K : Int) + 1, ez, ed⟩, ea, en, ec⟩ :: D)) := hnm.1
      have HG2 : Hid (wr.grownBy ((x1.setCell ⟨g, j * 4, none⟩ (.string (mt K))).setCell ⟨g, j * 4 + 1, none⟩ (.int .i64 ((K : Int) + 1))) (some g)) := grow_transU hG1 hnm.2
      have HE : Hid (Owns ((x1.setCell ⟨g, j * 4, none⟩ (.string (mt K))).setCell ⟨g, j * 4 + 1, none⟩ (.int .i64 ((K : Int) + 1))) base ea en ec ez) := hnm.1.2.1 ⟨⟨mt K, (K : Int) + 1, ez, ed⟩, ea, en, ec⟩ (List.mem_append_right _ (List.mem_cons_self ..))
      clear hnm hR1 hG1 hb1 hfr hgg HO1
      generalize mt K = T3 at *
      go_wp2_with fail
      refine (mark_intU base ea en ec (K + 2) _ ez _ HE.out (by omega) (by omega) (by omega)).mono ?_
      rintro _ x4 ⟨rfl, hm, hon⟩
      have hO4 : UpRow x4 base (.slice (some ⟨g, 0, none⟩) n cap) (M ++ ⟨⟨T3, (K : Int) + 1, marks (K + 2) en, ed⟩, ea, en, ec⟩ :: D) := HR2.out.bodied (marks (K + 2) en) hm hon
      have hdn := hO4.doned (hlx _) (mbU (K + 2 + en))
      have hKt4 : KeptT w x4 := HKt2.out.trans (keptT_grown (v := .slice ea en ec) (by rw [ownBlock_sU]; exact hon) HE.out.1 (by decide))
      have hKt5 : KeptT w (x4.setCell ⟨g, M.length * 4 + 3, none⟩ (.bool (mbU (K + 2 + en)))) := hKt4.trans (keptT_grown (v := .slice (some ⟨g, 0, none⟩) n cap) hdn.2 hO4.1 (by decide))
      rw [hml] at hKt5
      have HKt5 : Hid (KeptT w (x4.setCell ⟨g, j * 4 + 3, none⟩ (.bool (mbU (K + 2 + en))))) := hKt5
      clear hKt4 hKt5 HKt2
      rw [hml] at hdn
      dsimp only at hdn
      have HB4 : Hid (Within w x4 base hi) := by
        have h1 := HB.out.trans (within_grown HG2.out (fun q e => by injection e with e; omega))
        exact h1.trans (within_grown hon (fun q e => ⟨(HE.out.lt q e).1, HEh.out q e⟩))
      have hat := hO4.at (hlx _).symm (i := j) (by have := hlx ⟨⟨T3, (K : Int) + 1, marks (K + 2) en, ed⟩, ea, en, ec⟩; omega)
      obtain ⟨g', hgg, _, _, _, q3, hfr⟩ := hat
      obtain rfl : g = g' := by simpa using hgg
      have z3 := hfr (j * 4 + 3)
      have HO5 : Hid (UpRow (x4.setCell ⟨g, j * 4 + 3, none⟩ (.bool (mbU (K + 2 + en)))) base (.slice (some ⟨g, 0, none⟩) n cap) (M ++ ⟨⟨T3, (K : Int) + 1, marks (K + 2) en, mbU (K + 2 + en)⟩, ea, en, ec⟩ :: D)) := hdn.1
      have HB5 : Hid (Within w (x4.setCell ⟨g, j * 4 + 3, none⟩ (.bool (mbU (K + 2 + en)))) base hi) := HB4.out.trans (within_grown hdn.2 (fun q e => by injection e with e; omega))
      clear hm hon HE HR2 HG2 HB HB4 d0 d1 d2 d3 h0 h1 hO4 hdn hfr hgg
      obtain ⟨K4, hK4⟩ : ∃ K4, K + 2 + en = K4 := ⟨_, rfl⟩
      have HK4 : Hid (K + 2 + en = K4) := hK4
      rw [hK4] at HO5 HB5 HKt5 ⊢
      have HFr2 : Hid (mkUp k (l.take (j + 1)) = M ++ [⟨⟨T3, (K : Int) + 1, marks (K + 2) en, mbU K4⟩, ea, en, ec⟩]) := by show _ = _; rw [HFr.out, hK4]
      have hmb := mbU_is K4
      have hK4i : (K4 : Int) ≤ 2199023255552 := by omega
      clear hK4 HFr
      go_wp2
      go_roundw
      case rel =>
        refine ⟨j + 1, by omega, by go_num, ?_, ?_, HB5, HKt5⟩
        · rw [HEnd.out]
          have := HK4.out
          go_num
        · show UpRow _ _ _ _
          rw [HFr2.out, List.append_assoc, HD.out]
          exact HO5.out
      case measure => simp [intOf]; omega
    · have hjn : j = n := by omega
      subst hjn
      have hl := HN.out
      have HO2 : Hid (UpRow wr base (.slice a j cap) (mkUp k l)) := by
        have h := HO.out
        rw [List.take_of_length_le (by omega), List.drop_of_length_le (by omega), List.append_nil] at h
        exact h
      have HE : Hid (mkUEnd k (l.take j) = mkUEnd k l) := by show _ = _; rw [List.take_of_length_le (by omega)]
      generalize mkUEnd k (l.take j) = K at *
      go_wp2
      go_ret
      exact ⟨ret_int (by rw [HE.out]), HO2.out, HB.out, HKt.out⟩

end Go.Proofs.Ytmephcabgccocau

namespace Go.Proofs.Ytmephcabgccocau
open Go.RowKit
set_option linter.unusedVariables false

set_option maxHeartbeats 400000 in
theorem szStrS_any (a : Option Addr) (len ca : Nat) (xs : List ByteArray) (n : Int) (w : World) (hx : Strs w a len xs) (hn : 0 ≤ n) (hn2 : n ≤ 1048576) (hl : len ≤ maxLen) :
    Calls Try.prog 27 #[.slice a len ca, .int .i64 n] w fun e w' => (∃ v : Int, e = .returned (.int .i64 v) ∧ v ≤ n ∧ (0 ≤ v → v + (len + strBytes xs) ≤ n)) ∧ Below w.heap.size w w' := by
  have HX : Hid (Strs w a len xs) := hx
  clear hx
  have hm : maxLen < 9223372036854775808 := by decide
  by_cases h0 : n - len < 0
  · go_enter Try.func27, Try.ntmps27
    go_wp2
    go_ret
    exact ⟨⟨_, rfl, by omega, by omega⟩, Below.refl _ _⟩
  · go_enter Try.func27, Try.ntmps27
    go_wp2
    go_loopw [1, 5] (fun l i wr => ∃ (k : Nat) (u : Int), k ≤ len ∧ i = .int .i64 k ∧ l = .int .i64 u ∧ 0 ≤ u ∧ u ≤ 1048576 ∧ Hid (u = n - len - strBytes (xs.take k)) ∧ Hid (Below w.heap.size w wr)) (fun _ i _ => len - (intOf i).toNat)
    case atStart => exact ⟨0, n - len, Nat.zero_le _, rfl, rfl, by omega, by omega, by show _ = _; simp [strBytes], Below.refl _ _⟩
    case round =>
      obtain ⟨k, u, hk, rfl, rfl, hu, hu2, HU, HW⟩ := hrel
      by_cases hlt : k < len
      · obtain ⟨ba, oa, x, rfl, hba, hfa, ha0⟩ := HX.out.at hlt
        have ga0 : wr.cell? ⟨ba, oa + k, none⟩ = some (.string x) := (HW.out.cell (p := ⟨ba, _, none⟩) hba).trans ha0
        have hsz := HX.out.2.1 x (List.mem_of_getElem? hfa)
        have HF : Hid (strBytes (xs.take (k + 1)) = strBytes (xs.take k) + x.size) := strBytes_step xs k x hfa
        clear hfa ha0
        have hki : (k : Int) < (len : Int) := by omega
        have hk0 : (0 : Int) ≤ (k : Int) := by omega
        by_cases hneg : u - x.size < 0
        · go_wp2
          go_ret
          exact ⟨⟨_, rfl, by omega, by omega⟩, HW.out⟩
        · go_wp2
          go_roundw
          case rel =>
            refine ⟨k + 1, u - x.size, by omega, by go_num, rfl, by omega, by omega, ?_, HW⟩
            show _ = _
            have h2 := HF.out
            have h3 := HU.out
            omega
          case measure => simp [intOf]; omega
      · go_wp2
        go_ret
        have hkl : k = len := by omega
        have h3 := HU.out
        have h4 := HX.out.1
        rw [List.take_of_length_le (by omega)] at h3
        exact ⟨⟨_, rfl, by omega, by omega⟩, HW.out⟩

end Go.Proofs.Ytmephcabgccocau
