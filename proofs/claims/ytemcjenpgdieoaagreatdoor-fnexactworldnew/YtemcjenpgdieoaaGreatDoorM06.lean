/- The mark of a number as a text. The comparison of bytes that the laws call. For slices of at most 2^40 bytes. What the marks do: a row of the call's own is written over with 1, 2, .., and read again; nothing else is written. For rows of at most 2^41 bytes. The marks laid into a row of uploads. Marks laid on a row of texts. The marks laid into a disk. The marks laid into a store, and asked for. A server in a variable of the law's: where the rows of its store lie. No statement of the program but its table of types. -/
import Derived.Test.YtemcjenpgdieoaaGreatDoorM05
import Derived.Laws.IdiomStrings
import Derived.Laws.BytesArg
import Derived.Deep.QuietTactic
import Derived.BigQuiet
import Derived.Test.YtemcjenpgdieoaaGreatDoorRows
import Derived.Test.YtemcjenpgdieoaaGreatDoorM01
import Derived.Test.YtemcjenpgdieoaaGreatDoorM04
import Derived.Test.YtemcjenpgdieoaaGreatDoorM03
import Derived.Deep.CutBlock
namespace Go.Proofs.YtemcjenpgdieoaaGreatDoor
open Go.RowKit
set_option linter.unusedVariables false

theorem own_stays {w w' : World} {base size n : Nat} {v : Value} {e : TypeId} {xs : List Value} (h : w.ownsRow base e size v n xs) (hb : Below w.heap.size w w') : w'.ownsRow base e size v n xs := by
  refine ⟨h.1, ?_⟩
  rcases h.2 with h0 | ⟨g, cap, cur, he, hg, hh, r⟩
  · exact .inl h0
  · exact .inr ⟨g, cap, cur, he, hg, (hb.block g (Array.getElem?_eq_some_iff.1 hh).1).trans hh, r⟩

/-- 'string([]byte{c})'. -/
theorem convm_one (c : Nat) (hc : c < 256) (W : World) (g : Nat) (h : W.cell? ⟨g, 0, none⟩ = some (.int .u8 (c : Int))) :
    (convert 47 9 (.slice (some ⟨g, 0, none⟩) 1 1)).run Tryz.prog W = .ok (.string ⟨#[UInt8.ofNat c]⟩) W := by
  refine run_convert_bytes_back W 47 9 5 ⟨g, 0, none⟩ 1 [UInt8.ofNat c] Tryz.underlying47 Tryz.underlying5 Tryz.underlying9 (fun j hj => ?_)
  obtain rfl : j = 0 := by simpa using hj
  have e : (UInt8.ofNat c).toNat = c := by simp; omega
  simpa [Addr.add, Nat.mod_eq_of_lt hc] using h

/-- The digits of k ahead of a text. -/
def mtGo (k : Nat) (out : ByteArray) : ByteArray := if k = 0 then out else mtGo (k / 10) (⟨#[UInt8.ofNat (48 + k % 10)]⟩ ++ out)
termination_by k
decreasing_by omega

/-- The mark of the number k. -/
def mt (k : Nat) : ByteArray := if k = 0 then ⟨#[109, 48]⟩ else ⟨#[109]⟩ ++ mtGo k ⟨#[]⟩

set_option maxRecDepth 10000 in
set_option maxHeartbeats 800000 in
theorem markText_any (k : Nat) (w : World) (hk : k ≤ 4398046511104) : Calls Tryz.prog 28 #[.int .i64 (k : Int)] w fun e w' => e = .returned (.string (mt k)) ∧ Below w.heap.size w w' := by
  by_cases h0 : k = 0
  · subst h0
    go_enter Tryz.func28, Tryz.ntmps28
    go_wp2
    go_ret
    exact ⟨rfl, Below.refl _ _⟩
  · have e : mt k = ⟨#[109]⟩ ++ mtGo k ⟨#[]⟩ := by rw [mt, if_neg h0]
    rw [e]
    have hki : ¬ (k : Int) ≤ 0 := by omega
    have hkd : decide ((k : Int) ≤ 0) = false := by simp; omega
    generalize hT : mtGo k ⟨#[]⟩ = T
    have HT : Hid (mtGo k ⟨#[]⟩ = T) := hT
    clear hT e
    go_enter Tryz.func28, Tryz.ntmps28
    go_wp2_with fail
    go_loopw [0, 3] (fun n o wr => ∃ (j : Nat) (u : ByteArray), j + u.size ≤ k ∧ n = .int .i64 (j : Int) ∧ o = .string u ∧ Hid (mtGo j u = T) ∧ Hid (Below w.heap.size w wr)) (fun n _ _ => (intOf n).toNat)
    case atStart => exact ⟨k, ⟨#[]⟩, Nat.le_refl _, rfl, rfl, HT, Below.refl _ _⟩
    case round =>
      clear HT
      obtain ⟨j, u, hj, rfl, rfl, HT, HB⟩ := hrel
      by_cases hj0 : j = 0
      · subst hj0
        have hTu : u = T := by
          have := HT.out
          rw [mtGo, if_pos rfl] at this
          exact this
        subst hTu
        go_wp2_with fail
        go_ret
        exact ⟨rfl, HB.out⟩
      · have hj1 : (0 : Int) < (j : Int) := by omega
        have HT2 : Hid (mtGo (j / 10) (⟨#[UInt8.ofNat (48 + j % 10)]⟩ ++ u) = T) := by
          show _ = _
          have := HT.out
          rw [mtGo, if_neg hj0] at this
          exact this
        have hjb : (j : Int) ≤ 4398046511104 := by omega
        have hcv : ∀ (W : World) (g : Nat), W.cell? ⟨g, 0, none⟩ = some (.int .u8 (48 + (j : Int) % 10)) → (convert 47 9 (.slice (some ⟨g, 0, none⟩) 1 1)).run Tryz.prog W = .ok (.string ⟨#[UInt8.ofNat (48 + j % 10)]⟩) W := fun W g hW => convm_one (48 + j % 10) (by omega) W g (by rw [hW]; congr 2)
        have hsz : (⟨#[UInt8.ofNat (48 + j % 10)]⟩ ++ u : ByteArray).size = 1 + u.size := by rw [ByteArray.size_append]; rfl
        have hXs : (⟨#[UInt8.ofNat (48 + j % 10)]⟩ : ByteArray).size = 1 := rfl
        generalize hX : (⟨#[UInt8.ofNat (48 + j % 10)]⟩ : ByteArray) = X at *
        clear hX
        have hus : X.size + u.size ≤ 4398046511105 := by omega
        have HSz : Hid ((X ++ u).size = 1 + u.size) := hsz
        clear hsz
        go_wp2_with fail
        go_roundw
        case rel =>
          refine ⟨j / 10, X ++ u, by rw [HSz.out]; omega, by congr 1, rfl, HT2, ?_⟩
          exact HB.out.alloc HB.out.size _
        case measure => simp [intOf]; omega

theorem mtGo_size (k : Nat) : ∀ u : ByteArray, (mtGo k u).size ≤ k + u.size := by
  induction k using Nat.strongRecOn with
  | _ k ih =>
    intro u
    rw [mtGo]
    split
    · omega
    · have := ih (k / 10) (by omega) (⟨#[UInt8.ofNat (48 + k % 10)]⟩ ++ u)
      rw [ByteArray.size_append] at this
      have e : (⟨#[UInt8.ofNat (48 + k % 10)]⟩ : ByteArray).size = 1 := rfl
      omega

theorem mt_size (k : Nat) : (mt k).size ≤ k + 2 := by
  unfold mt
  split
  · have e : (⟨#[109, 48]⟩ : ByteArray).size = 2 := rfl
    omega
  · have := mtGo_size k ⟨#[]⟩
    rw [ByteArray.size_append]
    have e : (⟨#[109]⟩ : ByteArray).size = 1 := rfl
    have e2 : (⟨#[]⟩ : ByteArray).size = 0 := rfl
    omega

theorem grown_refl (w : World) (r : Option Nat) : w.grownBy w r := ⟨rfl, rfl, rfl, Nat.le_refl _, fun _ _ _ => rfl⟩
theorem grown_trans {a b c : World} {r : Option Nat} (h : a.grownBy b r) (g : b.grownBy c r) : a.grownBy c r :=
  ⟨g.os.trans h.os, g.tape.trans h.tape, g.output.trans h.output, Nat.le_trans h.size g.size, fun k hk hr => (g.block k (Nat.lt_of_lt_of_le hk h.size) hr).trans (h.block k hk hr)⟩
theorem grown_below {a b : World} {r : Option Nat} (h : Below a.heap.size a b) : a.grownBy b r := ⟨h.os, h.tape, h.output, h.size, fun k hk _ => h.block k hk⟩

end Go.Proofs.YtemcjenpgdieoaaGreatDoor

namespace Go.Proofs.YtemcjenpgdieoaaGreatDoor
open Go.RowKit
set_option linter.unusedVariables false

set_option maxHeartbeats 400000 in
theorem eqByteS_same (a b : Option Addr) (len ca cb : Nat) (xs : List Int) (w : World) (hx : Seg w a len xs) (hy : Seg w b len xs) (hla : len ≤ 1099511627776) :
    Calls Tryz.prog 73 #[.slice a len ca, .slice b len cb] w fun e w' => e = .returned (.bool true) ∧ ∃ n, w' = w.drewN n := by
  have HX : Hid (Seg w a len xs) := hx
  have HY : Hid (Seg w b len xs) := hy
  clear hx hy
  have hne : ((len : Int) != (len : Int)) = false := by simp
  go_enter Tryz.func73, Tryz.ntmps73
  go_wp2
  go_loopw [5] (fun i wr => ∃ k : Nat, k ≤ len ∧ i = .int .i64 k ∧ Hid (∃ n, wr = w.drewN n)) (fun i _ => len - (intOf i).toNat)
  case atStart => exact ⟨0, Nat.zero_le _, rfl, ⟨0, rfl⟩⟩
  case round =>
    obtain ⟨k, hk, rfl, HW⟩ := hrel
    by_cases hlt : k < len
    · obtain ⟨ba, oa, rfl, hba, hca⟩ : ∃ b off, a = some ⟨b, off, none⟩ ∧ b < w.heap.size ∧ ∀ i, i < len → w.cell? ⟨b, off + i, none⟩ = some (.int .u8 (xs.getD i 0)) := by
        rcases HX.out.2.2 with h | h
        · omega
        · exact h
      obtain ⟨bb, ob, rfl, hbb, hcb⟩ : ∃ b' off, b = some ⟨b', off, none⟩ ∧ b' < w.heap.size ∧ ∀ i, i < len → w.cell? ⟨b', off + i, none⟩ = some (.int .u8 (xs.getD i 0)) := by
        rcases HY.out.2.2 with h | h
        · omega
        · exact h
      have ha : wr.cell? ⟨ba, oa + k, none⟩ = some (.int .u8 (xs.getD k 0)) := by obtain ⟨n, rfl⟩ := HW; exact hca k hlt
      have hb : wr.cell? ⟨bb, ob + k, none⟩ = some (.int .u8 (xs.getD k 0)) := by obtain ⟨n, rfl⟩ := HW; exact hcb k hlt
      clear hca hcb
      have hki : (k : Int) < (len : Int) := by omega
      have hk0 : (0 : Int) ≤ (k : Int) := by omega
      go_wp2
      go_quiet (fail)
      go_wp2
      go_roundw
      case rel =>
        refine ⟨k + 1, by omega, by go_num, ?_⟩
        obtain ⟨n, rfl⟩ := HW.out
        exact ⟨_, World.drewN_drewN _ _ _⟩
      case measure => simp [intOf]; omega
    · go_wp2
      go_ret
      exact ⟨rfl, HW.out⟩

end Go.Proofs.YtemcjenpgdieoaaGreatDoor

namespace Go.Proofs.YtemcjenpgdieoaaGreatDoor
open Go.RowKit
set_option linter.unusedVariables false

/-- The marks: n bytes from k on. -/
def marks (k n : Nat) : List Int := (List.range n).map fun i => ((k + i : Nat) : Int) % 256

theorem marks_range (k n : Nat) : ∀ x ∈ marks k n, 0 ≤ x ∧ x ≤ 255 := by
  intro x hx
  simp only [marks, List.mem_map] at hx
  obtain ⟨i, _, rfl⟩ := hx
  omega

theorem marked_step (k : Nat) (zs : List Int) (j : Nat) (h : j < zs.length) :
    ((marks k j ++ zs.drop j).map (Value.int .u8)).set j (.int .u8 (((k + j : Nat) : Int) % 256)) = (marks k (j + 1) ++ zs.drop (j + 1)).map (Value.int .u8) := by
  have hl : (marks k j).length = j := by simp [marks]
  have hd : zs.drop j = zs[j] :: zs.drop (j + 1) := List.drop_eq_getElem_cons h
  have hm : marks k (j + 1) = marks k j ++ [((k + j : Nat) : Int) % 256] := by simp [marks, List.range_succ]
  rw [hd, hm, List.map_append, List.set_append_right _ _ (by simp [hl]), List.length_map, hl, Nat.sub_self, List.map_cons, List.set_cons_zero]
  rw [List.map_append, List.map_append, List.append_assoc]
  rfl

theorem marks_len (k n : Nat) : (marks k n).length = n := by simp [marks]

theorem marks_get (k n j : Nat) (h : j < n) : (marks k n).getD j 0 = ((k : Int) + (j : Int)) % 256 := by
  rw [List.getD_eq_getElem?_getD, List.getElem?_eq_getElem (by simpa [marks] using h)]
  simp [marks]

set_option maxHeartbeats 400000 in
theorem mark_any (base : Nat) (a : Option Addr) (n cap k : Nat) (zs : List Int) (w : World) (h : Owns w base a n cap zs) (hn : n ≤ 2199023255552) (hk : k ≤ 2199023255552) :
    Calls Tryz.prog 29 #[.slice a n cap, .int .i64 k] w fun e w' => e = .returned (.int .i64 ((k + n : Nat) : Int)) ∧ Owns w' base a n cap (marks k n) ∧ Only w w' a := by
  have hzl : zs.length = n := h.seg.1
  have HO : Hid (Owns w base a n cap zs) := h
  clear h
  go_enter Tryz.func29, Tryz.ntmps29
  go_wp2
  go_loopw [1, 5] (fun v i wr => ∃ j : Nat, j ≤ n ∧ i = .int .i64 j ∧ v = .int .i64 ((k + j : Nat) : Int) ∧ Hid (Owns wr base a n cap (marks k j ++ zs.drop j)) ∧ Hid (Only w wr a)) (fun _ i _ => n - (intOf i).toNat)
  case atStart => exact ⟨0, Nat.zero_le _, rfl, by go_num, by simpa [marks, Hid] using HO.out, ⟨rfl, rfl, rfl, Nat.le_refl _, fun _ _ _ => rfl⟩⟩
  case round =>
    clear HO
    obtain ⟨j, hj, rfl, rfl, HO, HB⟩ := hrel
    by_cases hlt : j < n
    · obtain ⟨g, rfl, hf, ⟨u, hu⟩⟩ : ∃ g, a = some ⟨g, 0, none⟩ ∧ wr.frozen? ⟨g, j, none⟩ = false ∧ ∃ u, wr.cell? ⟨g, j, none⟩ = some u := by
        rcases HO.out.1.2 with ⟨he, hn0⟩ | ⟨g, cap', cur, he, _⟩
        · omega
        · simp only [Value.slice.injEq] at he
          obtain ⟨rfl, _, rfl⟩ := he
          refine ⟨g, rfl, HO.out.1.frozenAt j, ?_⟩
          rw [HO.out.1.cellAt j (by omega)]
          exact ⟨_, List.getElem?_eq_getElem (by have := HO.out.1.1; omega)⟩
      go_wp2
      go_roundw
      case rel =>
        refine ⟨j + 1, by omega, by go_num, by go_num, ?_, ?_⟩
        · have h := (HO.out.1.stored j (.int .u8 (((k + j : Nat) : Int) % 256))).1
          rw [marked_step k zs j (by omega)] at h
          refine ⟨by simpa using h, ?_⟩
          intro x hx
          rcases List.mem_append.1 hx with hx | hx
          · exact marks_range _ _ x hx
          · exact HO.out.2 x (List.mem_append_right _ (by
              rw [List.drop_eq_getElem_cons (by omega)]
              exact List.mem_cons_of_mem _ hx))
        · have h := (HO.out.1.stored j (.int .u8 (((k : Int) + (j : Int)) % 256))).2
          have hB := HB.out
          exact ⟨h.os.trans hB.os, h.tape.trans hB.tape, h.output.trans hB.output, Nat.le_trans hB.size h.size, fun i hi hne => (h.block i (Nat.lt_of_lt_of_le hi hB.size) hne).trans (hB.block i hi hne)⟩
      case measure => simp [intOf]; omega
    · go_wp2
      go_ret
      have hjn : j = n := by omega
      subst hjn
      refine ⟨ret_int (by omega), ?_, HB.out⟩
      have h := HO.out
      rw [List.drop_of_length_le (by omega), List.append_nil] at h
      exact h

set_option maxHeartbeats 400000 in
theorem held_any (base : Nat) (a : Option Addr) (n cap k : Nat) (w : World) (h : Owns w base a n cap (marks k n)) (hn : n ≤ 2199023255552) (hk : k ≤ 2199023255552) :
    Calls Tryz.prog 76 #[.slice a n cap, .int .i64 k] w fun e w' => e = .returned (.int .i64 ((k + n : Nat) : Int)) ∧ w' = w := by
  have HS : Hid (Seg w a n (marks k n)) := h.seg
  clear h
  go_enter Tryz.func76, Tryz.ntmps76
  go_wp2
  go_loop [1, 5] (fun v i => ∃ j : Nat, j ≤ n ∧ i = .int .i64 j ∧ v = .int .i64 ((k + j : Nat) : Int)) (fun _ i => n - (intOf i).toNat)
  case atStart => exact ⟨0, Nat.zero_le _, rfl, by go_num⟩
  case round =>
    obtain ⟨j, hj, rfl, rfl⟩ := hrel
    by_cases hlt : j < n
    · obtain ⟨b, off, rfl, hc⟩ : ∃ b off, a = some ⟨b, off, none⟩ ∧ w.cell? ⟨b, off + j, none⟩ = some (.int .u8 (((k : Int) + (j : Int)) % 256)) := by
        rcases HS.out.2.2 with h | ⟨b, off, e1, _, hc⟩
        · omega
        · exact ⟨b, off, e1, by rw [hc j hlt, marks_get k n j hlt]⟩
      go_wp2
      go_round
      case rel => exact ⟨j + 1, by omega, by go_num, by go_num⟩
      case measure => simp [intOf]; omega
    · go_wp2
      go_ret
      have hjn : j = n := by omega
      subst hjn
      exact ⟨ret_int (by omega), rfl⟩

theorem mark_one (base : Nat) (a : Option Addr) (n cap : Nat) (zs : List Int) (w : World) (h : Owns w base a n cap zs) (hn : n ≤ 2199023255552) :
    Calls Tryz.prog 29 #[.slice a n cap, .int .i64 1] w fun e w' => e = .returned (.int .i64 ((1 + n : Nat) : Int)) ∧ Owns w' base a n cap (marks 1 n) ∧ Only w w' a := mark_any base a n cap 1 zs w h hn (by omega)

theorem held_one (base : Nat) (a : Option Addr) (n cap : Nat) (w : World) (h : Owns w base a n cap (marks 1 n)) (hn : n ≤ 2199023255552) :
    Calls Tryz.prog 76 #[.slice a n cap, .int .i64 1] w fun e w' => e = .returned (.int .i64 ((1 + n : Nat) : Int)) ∧ w' = w := held_any base a n cap 1 w h hn (by omega)

end Go.Proofs.YtemcjenpgdieoaaGreatDoor

namespace Go.Proofs.YtemcjenpgdieoaaGreatDoor
open Go.RowKit
set_option linter.unusedVariables false

def mbU (k : Nat) : Bool := decide (k % 3 = 0)

theorem mbU_is (k : Nat) : ((k : Int) % 3 == 0) = mbU k := by
  rw [Bool.eq_iff_iff, beq_iff_eq, mbU, decide_eq_true_eq]
  omega

/-- The marks of one upload, from k on. -/
def mkU1 (k : Nat) (e : UE) : UE := { e with u := ⟨mt k, (k : Int) + 1, marks (k + 2) e.n, mbU (k + 2 + e.n)⟩ }

/-- The marks of uploads, from k on. -/
def mkUp : Nat → List UE → List UE
  | _, [] => []
  | k, e :: l => mkU1 k e :: mkUp (k + 3 + e.n) l

/-- The number behind the marks. -/
def mkUEnd : Nat → List UE → Nat
  | k, [] => k
  | k, e :: l => mkUEnd (k + 3 + e.n) l

theorem mkUp_len (k : Nat) (l : List UE) : (mkUp k l).length = l.length := by
  induction l generalizing k with
  | nil => rfl
  | cons e l ih => simp [mkUp, ih]

theorem mkUp_append (k : Nat) (l m : List UE) : mkUp k (l ++ m) = mkUp k l ++ mkUp (mkUEnd k l) m := by
  induction l generalizing k with
  | nil => rfl
  | cons e l ih => simp [mkUp, mkUEnd, ih]

theorem mkUEnd_append (k : Nat) (l m : List UE) : mkUEnd k (l ++ m) = mkUEnd (mkUEnd k l) m := by
  induction l generalizing k with
  | nil => rfl
  | cons e l ih => simp [mkUEnd, ih]

theorem mkUEnd_ge (k : Nat) (l : List UE) : k ≤ mkUEnd k l := by
  induction l generalizing k with
  | nil => exact Nat.le_refl _
  | cons e l ih => have := ih (k + 3 + e.n); simp only [mkUEnd]; omega

theorem mkUEnd_le (k B : Nat) (l : List UE) (h : ∀ e ∈ l, e.n ≤ B) : mkUEnd k l ≤ k + (3 + B) * l.length := by
  induction l generalizing k with
  | nil => simp [mkUEnd]
  | cons e l ih =>
    have h1 := ih (k + 3 + e.n) (fun x hx => h x (List.mem_cons_of_mem _ hx))
    have h2 := h e (List.mem_cons_self ..)
    simp only [mkUEnd, List.length_cons, Nat.mul_add, Nat.mul_one]
    omega

theorem mark_intU (base : Nat) (a : Option Addr) (n cap k : Nat) (kk : Int) (zs : List Int) (w : World) (h : Owns w base a n cap zs) (hn : n ≤ 2199023255552) (hk : k ≤ 2199023255552) (hkk : kk = (k : Int)) :
    Calls Tryz.prog 29 #[.slice a n cap, .int .i64 kk] w fun e w' => e = .returned (.int .i64 ((k + n : Nat) : Int)) ∧ Owns w' base a n cap (marks k n) ∧ Only w w' a := by
  subst hkk
  exact mark_any base a n cap k zs w h hn hk

set_option maxRecDepth 10000 in
set_option maxHeartbeats 3200000 in
theorem markUpS_any (base : Nat) (a : Option Addr) (n cap k : Nat) (l : List UE) (w : World) (h : UpRow w base (.slice a n cap) l) (hn : l.length = n) (hk : mkUEnd k l ≤ 2199023255552) (hnb : n ≤ 1099511627776) (hi : Nat) (hwi : (∀ q, a.map (·.block) = some q → q < hi) ∧ ∀ e ∈ l, ∀ q, e.a.map (·.block) = some q → q < hi) :
    Calls Tryz.prog 101 #[.slice a n cap, .int .i64 (k : Int)] w fun e w' => e = .returned (.int .i64 (mkUEnd k l : Int)) ∧ UpRow w' base (.slice a n cap) (mkUp k l) ∧ Within w w' base hi ∧ KeptT w w' := by
  have HO : Hid (UpRow w base (.slice a n cap) l) := h
  have HN : Hid (l.length = n) := hn
  have HK : Hid (mkUEnd k l ≤ 2199023255552) := hk
  have HHi : Hid ((∀ q, a.map (·.block) = some q → q < hi) ∧ ∀ e ∈ l, ∀ q, e.a.map (·.block) = some q → q < hi) := hwi
  clear h hn hk hwi
  go_enter Tryz.func101, Tryz.ntmps101
  go_wp2
  go_loopw [1, 5] (fun v i wr => ∃ j : Nat, j ≤ n ∧ i = .int .i64 j ∧ v = .int .i64 (mkUEnd k (l.take j) : Int) ∧ Hid (UpRow wr base (.slice a n cap) (mkUp k (l.take j) ++ l.drop j)) ∧ Hid (Within w wr base hi) ∧ Hid (KeptT w wr)) (fun _ i _ => n - (intOf i).toNat)
  case atStart => exact ⟨0, Nat.zero_le _, rfl, rfl, HO, Within.refl _ _ _, KeptT.refl _⟩
  case round =>
    clear HO
    obtain ⟨j, hj, rfl, rfl, HO, HB, HKt⟩ := hrel
    by_cases hlt : j < n
    · have hjl : j < l.length := by have := HN.out; omega
      have hd : l.drop j = l[j] :: l.drop (j + 1) := List.drop_eq_getElem_cons hjl
      have ht : l.take (j + 1) = l.take j ++ [l[j]] := List.take_succ_eq_append_getElem hjl
      have hml : (mkUp k (l.take j)).length = j := by rw [mkUp_len, List.length_take]; omega
      have HEnd : Hid (mkUEnd k (l.take (j + 1)) = mkUEnd k (l.take j) + 3 + (l[j]).n) := by show _ = _; rw [ht, mkUEnd_append]; rfl
      have HFr : Hid (mkUp k (l.take (j + 1)) = mkUp k (l.take j) ++ [mkU1 (mkUEnd k (l.take j)) (l[j])]) := by show _ = _; rw [ht, mkUp_append]; rfl
      have hKb : mkUEnd k (l.take j) + 3 + (l[j]).n ≤ 2199023255552 := by
        have h1 := HK.out
        rw [← List.take_append_drop (j + 1) l, mkUEnd_append] at h1
        have h2 := mkUEnd_ge (mkUEnd k (l.take (j + 1))) (l.drop (j + 1))
        have h3 := HEnd.out
        omega
      have hO := HO.out
      rw [hd] at hO
      have hlen : (mkUp k (l.take j) ++ l[j] :: l.drop (j + 1)).length = n := by rw [List.length_append, hml, List.length_cons, List.length_drop]; have := HN.out; omega
      have hat := hO.at hlen.symm (i := j) (by omega)
      rw [show (mkUp k (l.take j) ++ l[j] :: l.drop (j + 1))[j]'(by omega) = l[j] by rw [List.getElem_append_right (by omega)]; simp [hml]] at hat
      obtain ⟨g, rfl, c0, c1, c2, c3, _⟩ := hat
      have hge := hO.1.lt g rfl
      have hgh : g < hi := HHi.out.1 g rfl
      have HEh : Hid (∀ q, (l[j]).a.map (·.block) = some q → q < hi) := HHi.out.2 _ (List.getElem_mem hjl)
      clear hd ht c0 c1 c2 c3
      generalize mkUp k (l.take j) = M at *
      generalize mkUEnd k (l.take j) = K at *
      obtain ⟨D, hD⟩ : ∃ D, l.drop (j + 1) = D := ⟨_, rfl⟩
      have HD : Hid (l.drop (j + 1) = D) := hD
      rw [hD] at hO hlen
      clear hD
      have HO1 : Hid (UpRow wr base (.slice (some ⟨g, 0, none⟩) n cap) (M ++ l[j] :: D)) := hO
      clear hO HO
      generalize l[j] = e at *
      obtain ⟨⟨eid, ew, ez, ed⟩, ea, en, ec⟩ := e
      dsimp only at *
      have HFr : Hid (mkUp k (l.take (j + 1)) = M ++ [⟨⟨mt K, (K : Int) + 1, marks (K + 2) en, mbU (K + 2 + en)⟩, ea, en, ec⟩]) := HFr.out
      have hKi : (K : Int) ≤ 2199023255552 := by omega
      have hji : (j : Int) < (n : Int) := by omega
      have hlx : ∀ x : UE, (M ++ x :: D).length = n := fun x => by rw [← hlen]; simp
      go_wp2_with fail
      refine (markText_any K _ (by omega)).mono ?_
      rintro _ x1 ⟨rfl, hb1⟩
      have hR1 := HO1.out.stays hb1
      have hG1 : wr.grownBy x1 (some g) := ⟨hb1.os, hb1.tape, hb1.output, hb1.size, fun i hi _ => hb1.block i hi⟩
      have hnm := hR1.numbers (hlx _) (mt K) ((K : Int) + 1)
      have hKt2 : KeptT w ((x1.setCell ⟨g, M.length * 4, none⟩ (.string (mt K))).setCell ⟨g, M.length * 4 + 1, none⟩ (.int .i64 ((K : Int) + 1))) := (HKt.out.trans (keptT_below hb1)).trans (keptT_grown (v := .slice (some ⟨g, 0, none⟩) n cap) hnm.2 hR1.1 (by decide))
      rw [hml] at hKt2
      have HKt2 : Hid (KeptT w ((x1.setCell ⟨g, j * 4, none⟩ (.string (mt K))).setCell ⟨g, j * 4 + 1, none⟩ (.int .i64 ((K : Int) + 1)))) := hKt2
      clear hKt2 HKt
      rw [hml] at hnm
      dsimp only at hnm
      have hat := hR1.at (hlx _).symm (i := j) (by have := hlx ⟨⟨eid, ew, ez, ed⟩, ea, en, ec⟩; omega)
      rw [show (M ++ (⟨⟨eid, ew, ez, ed⟩, ea, en, ec⟩ : UE) :: D)[j]'(by have := hlx ⟨⟨eid, ew, ez, ed⟩, ea, en, ec⟩; omega) = ⟨⟨eid, ew, ez, ed⟩, ea, en, ec⟩ by rw [List.getElem_append_right (by omega)]; simp [hml]] at hat
      obtain ⟨g', hgg, d0, d1, d2, d3, hfr⟩ := hat
      obtain rfl : g = g' := by simpa using hgg
      have h0 := hfr (j * 4)
      have h1 := hfr (j * 4 + 1)
      dsimp only at d0 d1 d2 d3
      have HR2 : Hid (UpRow ((x1.setCell ⟨g, j * 4, none⟩ (.string (mt K))).setCell ⟨g, j * 4 + 1, none⟩ (.int .i64 ((K : Int) + 1))) base (.slice (some ⟨g, 0, none⟩) n cap) (M ++ ⟨⟨mt K, (K : Int) + 1, ez, ed⟩, ea, en, ec⟩ :: D)) := hnm.1
      have HG2 : Hid (wr.grownBy ((x1.setCell ⟨g, j * 4, none⟩ (.string (mt K))).setCell ⟨g, j * 4 + 1, none⟩ (.int .i64 ((K : Int) + 1))) (some g)) := grow_transU hG1 hnm.2
      have HE : Hid (Owns ((x1.setCell ⟨g, j * 4, none⟩ (.string (mt K))).setCell ⟨g, j * 4 + 1, none⟩ (.int .i64 ((K : Int) + 1))) base ea en ec ez) := hnm.1.2.1 ⟨⟨mt K, (K : Int) + 1, ez, ed⟩, ea, en, ec⟩ (List.mem_append_right _ (List.mem_cons_self ..))
      clear hnm hR1 hG1 hb1 hfr hgg HO1
      generalize mt K = T3 at *
      go_wp2_with fail
      refine (mark_intU base ea en ec (K + 2) _ ez _ HE.out (by omega) (by omega) (by omega)).mono ?_
      rintro _ x4 ⟨rfl, hm, hon⟩
      have hO4 : UpRow x4 base (.slice (some ⟨g, 0, none⟩) n cap) (M ++ ⟨⟨T3, (K : Int) + 1, marks (K + 2) en, ed⟩, ea, en, ec⟩ :: D) := HR2.out.bodied (marks (K + 2) en) hm hon
      have hdn := hO4.doned (hlx _) (mbU (K + 2 + en))
      have hKt4 : KeptT w x4 := HKt2.out.trans (keptT_grown (v := .slice ea en ec) (by rw [ownBlock_sU]; exact hon) HE.out.1 (by decide))
      have hKt5 : KeptT w (x4.setCell ⟨g, M.length * 4 + 3, none⟩ (.bool (mbU (K + 2 + en)))) := hKt4.trans (keptT_grown (v := .slice (some ⟨g, 0, none⟩) n cap) hdn.2 hO4.1 (by decide))
      rw [hml] at hKt5
      have HKt5 : Hid (KeptT w (x4.setCell ⟨g, j * 4 + 3, none⟩ (.bool (mbU (K + 2 + en))))) := hKt5
      clear hKt4 hKt5 HKt2
      rw [hml] at hdn
      dsimp only at hdn
      have HB4 : Hid (Within w x4 base hi) := by
        have h1 := HB.out.trans (within_grown HG2.out (fun q e => by injection e with e; omega))
        exact h1.trans (within_grown hon (fun q e => ⟨(HE.out.lt q e).1, HEh.out q e⟩))
      have hat := hO4.at (hlx _).symm (i := j) (by have := hlx ⟨⟨T3, (K : Int) + 1, marks (K + 2) en, ed⟩, ea, en, ec⟩; omega)
      obtain ⟨g', hgg, _, _, _, q3, hfr⟩ := hat
      obtain rfl : g = g' := by simpa using hgg
      have z3 := hfr (j * 4 + 3)
      have HO5 : Hid (UpRow (x4.setCell ⟨g, j * 4 + 3, none⟩ (.bool (mbU (K + 2 + en)))) base (.slice (some ⟨g, 0, none⟩) n cap) (M ++ ⟨⟨T3, (K : Int) + 1, marks (K + 2) en, mbU (K + 2 + en)⟩, ea, en, ec⟩ :: D)) := hdn.1
      have HB5 : Hid (Within w (x4.setCell ⟨g, j * 4 + 3, none⟩ (.bool (mbU (K + 2 + en)))) base hi) := HB4.out.trans (within_grown hdn.2 (fun q e => by injection e with e; omega))
      clear hm hon HE HR2 HG2 HB HB4 d0 d1 d2 d3 h0 h1 hO4 hdn hfr hgg
      obtain ⟨K4, hK4⟩ : ∃ K4, K + 2 + en = K4 := ⟨_, rfl⟩
      have HK4 : Hid (K + 2 + en = K4) := hK4
      rw [hK4] at HO5 HB5 HKt5 ⊢
      have HFr2 : Hid (mkUp k (l.take (j + 1)) = M ++ [⟨⟨T3, (K : Int) + 1, marks (K + 2) en, mbU K4⟩, ea, en, ec⟩]) := by show _ = _; rw [HFr.out, hK4]
      have hmb := mbU_is K4
      have hK4i : (K4 : Int) ≤ 2199023255552 := by omega
      clear hK4 HFr
      go_wp2
      go_roundw
      case rel =>
        refine ⟨j + 1, by omega, by go_num, ?_, ?_, HB5, HKt5⟩
        · rw [HEnd.out]
          have := HK4.out
          go_num
        · show UpRow _ _ _ _
          rw [HFr2.out, List.append_assoc, HD.out]
          exact HO5.out
      case measure => simp [intOf]; omega
    · have hjn : j = n := by omega
      subst hjn
      have hl := HN.out
      have HO2 : Hid (UpRow wr base (.slice a j cap) (mkUp k l)) := by
        have h := HO.out
        rw [List.take_of_length_le (by omega), List.drop_of_length_le (by omega), List.append_nil] at h
        exact h
      have HE : Hid (mkUEnd k (l.take j) = mkUEnd k l) := by show _ = _; rw [List.take_of_length_le (by omega)]
      generalize mkUEnd k (l.take j) = K at *
      go_wp2
      go_ret
      exact ⟨ret_int (by rw [HE.out]), HO2.out, HB.out, HKt.out⟩

end Go.Proofs.YtemcjenpgdieoaaGreatDoor

namespace Go.Proofs.YtemcjenpgdieoaaGreatDoor
open Go.RowKit
set_option linter.unusedVariables false

/-- The marks of n texts, from the number k on. -/
def marksS (k n : Nat) : List ByteArray := (List.range n).map fun j => mt (k + j)
theorem marksS_len (k n : Nat) : (marksS k n).length = n := by simp [marksS]
theorem marksS_at (k n j : Nat) (hj : j < n) : (marksS k n)[j]? = some (mt (k + j)) := by simp [marksS, hj]

/-- Texts of which the first j are marked. -/
def smarkTo (k : Nat) (xs : List ByteArray) (j : Nat) : List ByteArray := marksS k j ++ xs.drop j

theorem smarkTo_len (k : Nat) (xs : List ByteArray) (j : Nat) (h : j ≤ xs.length) : (smarkTo k xs j).length = xs.length := by
  simp [smarkTo, marksS_len]
  omega

theorem smarkTo_step (k : Nat) (xs : List ByteArray) (j : Nat) (h : j < xs.length) : (smarkTo k xs j).set j (mt (k + j)) = smarkTo k xs (j + 1) := by
  rw [smarkTo, smarkTo, List.set_append_right j _ (by rw [marksS_len]; exact Nat.le_refl _), marksS_len, Nat.sub_self, List.drop_eq_getElem_cons h, List.set_cons_zero]
  simp [marksS, List.range_succ]

set_option maxRecDepth 10000 in
set_option maxHeartbeats 1600000 in
theorem markStrS_any (base : Nat) (a : Option Addr) (n cap k : Nat) (xs : List ByteArray) (w : World) (h : OwnSt w base (.slice a n cap) n xs) (hn : n ≤ 1099511627776) (hk : k ≤ 1099511627776) :
    Calls Tryz.prog 120 #[.slice a n cap, .int .i64 (k : Int)] w fun e w' => e = .returned (.int .i64 ((k + n : Nat) : Int)) ∧ OwnSt w' base (.slice a n cap) n (marksS k n) ∧ w.grownBy w' (a.map (·.block)) := by
  have hlen := h.len
  have HO0 : Hid (w.ownsRow base 9 1 (.slice a n cap) n (scells (smarkTo k xs 0))) := h.1
  clear h
  go_enter Tryz.func120, Tryz.ntmps120
  go_wp2_with fail
  go_loopw [1, 5] (fun q i wr => ∃ j : Nat, j ≤ n ∧ i = .int .i64 j ∧ q = .int .i64 ((k + j : Nat) : Int) ∧ Hid (wr.ownsRow base 9 1 (.slice a n cap) n (scells (smarkTo k xs j))) ∧ Hid (w.grownBy wr (a.map (·.block)))) (fun _ i _ => n - (intOf i).toNat)
  case atStart => exact ⟨0, Nat.zero_le _, rfl, rfl, HO0, grown_refl _ _⟩
  case round =>
    clear HO0
    obtain ⟨j, hj, rfl, rfl, HO, HG⟩ := hrel
    by_cases hlt : j < n
    · obtain ⟨g, rfl⟩ : ∃ g, a = some ⟨g, 0, none⟩ := by
        rcases HO.out.2 with ⟨_, h0⟩ | ⟨g, cap', cur, he, _⟩
        · omega
        · injection he with e1 _ _
          exact ⟨g, e1⟩
      have hji : (j : Int) < (n : Int) := by omega
      have HM1 : Hid (∀ W, Calls Tryz.prog 28 #[.int .i64 ((k + j : Nat) : Int)] W fun e w' => e = .returned (.string (mt (k + j))) ∧ Below W.heap.size W w') := fun W => markText_any _ W (by omega)
      have HSt : Hid ((smarkTo k xs j).set j (mt (k + j)) = smarkTo k xs (j + 1)) := smarkTo_step k xs j (by omega)
      have HLn : Hid ((smarkTo k xs j).length = n) := by show _ = _; rw [smarkTo_len k xs j (by omega), hlen]
      generalize mt (k + j) = m1 at *
      generalize smarkTo k xs j = L at *
      obtain ⟨K1, hK1⟩ : ∃ K1, k + (j + 1) = K1 := ⟨_, rfl⟩
      obtain ⟨K0, hK0⟩ : ∃ K0, k + j = K0 := ⟨_, rfl⟩
      have hq1 : (K0 : Int) + 1 = (K1 : Int) := by omega
      rw [hK0] at HM1 ⊢
      have HK1 : Hid (k + (j + 1) = K1) := hK1
      have hK0b : (K0 : Int) ≤ 4398046511104 := by omega
      clear hK0 hK1
      go_wp2_with fail
      refine (HM1.out wr).mono ?_
      rintro e x1 ⟨rfl, hb1⟩
      have HO1 : Hid (x1.ownsRow base 9 1 (.slice (some ⟨g, 0, none⟩) n cap) n (scells L)) := own_stays HO.out hb1
      have HG1 : Hid (w.grownBy x1 (some g)) := grown_trans HG.out (grown_below hb1)
      clear hb1 HO HG
      have hln : (scells L).length = n := by rw [scells_len, HLn.out]
      have f0 : x1.frozen? ⟨g, j, none⟩ = false := HO1.out.frozenAt _
      obtain ⟨u0, hu0⟩ : ∃ u, x1.cell? ⟨g, j, none⟩ = some u := by
        rw [HO1.out.cellAt _ (by omega)]
        exact ⟨_, List.getElem?_eq_getElem (by omega)⟩
      have hst := HO1.out.stored j (.string m1)
      have HO4 : Hid ((x1.setCell ⟨g, j, none⟩ (.string m1)).ownsRow base 9 1 (.slice (some ⟨g, 0, none⟩) n cap) n (scells (smarkTo k xs (j + 1)))) := by
        have h1 := hst.1
        rw [scells_set, HSt.out] at h1
        exact h1
      have HG4 : Hid (w.grownBy (x1.setCell ⟨g, j, none⟩ (.string m1)) (some g)) := grown_trans HG1.out hst.2
      clear hst hln HO1 HG1
      go_wp2_with fail
      go_roundw
      case rel => exact ⟨j + 1, by omega, by go_num, by rw [HK1.out], HO4, HG4⟩
      case measure => simp [intOf]; omega
    · have hjn : j = n := by omega
      subst hjn
      go_wp2_with fail
      go_ret
      have hd : smarkTo k xs j = marksS k j := by
        rw [smarkTo, List.drop_eq_nil_of_le (by omega), List.append_nil]
      have h1 := HO.out
      rw [hd] at h1
      refine ⟨rfl, ⟨h1, ?_⟩, HG.out⟩
      intro f hf
      simp only [marksS, List.mem_map, List.mem_range] at hf
      obtain ⟨i, hi, rfl⟩ := hf
      have s1 := mt_size (k + i)
      unfold maxLen
      omega

end Go.Proofs.YtemcjenpgdieoaaGreatDoor

namespace Go.Proofs.YtemcjenpgdieoaaGreatDoor
open Go.RowKit
set_option linter.unusedVariables false

theorem blkOf_slice (a : Option Addr) (n c : Nat) : blkOf (.slice a n c) = a.map (·.block) := by cases a <;> rfl

theorem ret_i64 {a b : Int} (h : a = b) : Ending.returned (.int .i64 a) = .returned (.int .i64 b) := by rw [h]

/-- Of all that was there two blocks alone may have changed. -/
def Two (w w' : World) (r r' : Option Nat) : Prop := ∃ w1, w.grownBy w1 r ∧ w1.grownBy w' r'

set_option maxHeartbeats 800000 in
theorem markDisk_any (base : Nat) (a : Option Addr) (n ca : Nat) (xs : List ByteArray) (a' : Option Addr) (n' ca' : Nat) (ys : List ByteArray) (k : Nat) (w : World) (h1 : OwnSt w base (.slice a n ca) n xs) (h2 : OwnSt w base (.slice a' n' ca') n' ys) (hne : ∀ q, a.map (·.block) = some q → a'.map (·.block) ≠ some q) (hn : n ≤ 1073741824) (hn' : n' ≤ 1073741824) (hk : k ≤ 1073741824) :
    Calls Tryz.prog 100 #[.agg #[.slice a n ca, .slice a' n' ca'], .int .i64 (k : Int)] w fun r w' => r = .returned (.int .i64 ((k + n + n' : Nat) : Int)) ∧ OwnSt w' base (.slice a n ca) n (marksS k n) ∧ OwnSt w' base (.slice a' n' ca') n' (marksS (k + n) n') ∧ Two w w' (a.map (·.block)) (a'.map (·.block)) := by
  have HO : Hid (OwnSt w base (.slice a n ca) n xs) := h1
  have HP : Hid (OwnSt w base (.slice a' n' ca') n' ys) := h2
  have HN : Hid (∀ q, a.map (·.block) = some q → a'.map (·.block) ≠ some q) := hne
  clear h1 h2 hne
  have HA : Hid (Box2R (w.alloc (Obj.cells #[Value.slice a n ca, Value.slice a' n' ca'] 26)) w.heap.size 26 (.slice a n ca) (.slice a' n' ca')) := Box2R.new _ _ _ _
  have HB : Hid (Below w.heap.size w (w.alloc (Obj.cells #[Value.slice a n ca, Value.slice a' n' ca'] 26))) := (Below.refl _ _).alloc (Nat.le_refl _) _
  go_enter Tryz.func100, Tryz.ntmps100
  go_wp2_with fail
  refine (markStrS_any base a n ca k xs _ (HO.out.below HB.out) (by omega) (by omega)).mono ?_
  rintro r x1 ⟨rfl, ho1, hg1⟩
  have hlt : ∀ q, a.map (·.block) = some q → q < w.heap.size := fun q hq => (HO.out.lt q (by rw [blkOf_slice]; exact hq)).2
  have HO1 : Hid (OwnSt x1 base (.slice a n ca) n (marksS k n)) := ho1
  have HP1 : Hid (OwnSt x1 base (.slice a' n' ca') n' ys) := (HP.out.below HB.out).kept hg1 (fun q hq => by rw [blkOf_slice]; exact HN.out q hq)
  have HG1 : Hid (w.grownBy x1 (a.map (·.block))) := grown_trans (grown_below HB.out) hg1
  have HA1 : Hid (Box2R x1 w.heap.size 26 (.slice a n ca) (.slice a' n' ca')) := HA.out.grown hg1 (fun e => by have := hlt _ e; omega)
  clear ho1 hg1 hlt HA HB HO HP
  obtain ⟨c0, c1⟩ := HA1.out.cells
  have HM : Hid (Calls Tryz.prog 120 #[.slice a' n' ca', .int .i64 ((k + n : Nat) : Int)] x1 fun e w' => e = .returned (.int .i64 ((k + n + n' : Nat) : Int)) ∧ OwnSt w' base (.slice a' n' ca') n' (marksS (k + n) n') ∧ x1.grownBy w' (a'.map (·.block))) := markStrS_any base a' n' ca' (k + n) ys _ HP1.out (by omega) (by omega)
  obtain ⟨K, hK⟩ : ∃ K, k + n = K := ⟨_, rfl⟩
  rw [hK] at HM ⊢
  have hKb : K ≤ 2147483648 := by omega
  have HK : Hid (k + n = K) := hK
  clear hK
  go_wp2_with fail
  refine HM.out.mono ?_
  rintro r x2 ⟨rfl, ho2, hg2⟩
  have HP2 : Hid (OwnSt x2 base (.slice a' n' ca') n' (marksS K n')) := ho2
  have HO2 : Hid (OwnSt x2 base (.slice a n ca) n (marksS k n)) := HO1.out.kept hg2 (fun q hq e => HN.out q (by rw [blkOf_slice] at e; exact e) hq)
  have HG2 : Hid (Two w x2 (a.map (·.block)) (a'.map (·.block))) := ⟨x1, HG1.out, hg2⟩
  clear ho2 hg2 HM HA1 c0 c1
  obtain ⟨K2, hK2⟩ : ∃ K2, K + n' = K2 := ⟨_, rfl⟩
  have HK2 : Hid (K + n' = K2) := hK2
  rw [hK2]
  clear hK2
  go_wp2_with fail
  go_ret
  exact ⟨ret_i64 (by rw [HK.out, HK2.out]), HO2.out, by rw [HK.out]; exact HP2.out, HG2.out⟩

end Go.Proofs.YtemcjenpgdieoaaGreatDoor

namespace Go.Proofs.YtemcjenpgdieoaaGreatDoor
open Go.RowKit
set_option linter.unusedVariables false

/-- The rows of a store with the marks in them, from k on. -/
def StoMkd (W : World) (base k : Nat) (a : Option Addr) (n ca : Nat) (a' : Option Addr) (n' ca' : Nat) (ua : Option Addr) (un uc : Nat) (l : List UE) : Prop :=
  StoAt W base a n ca (marksS k n) a' n' ca' (marksS (k + n) n') ua un uc (mkUp (k + n + n') l)

set_option maxRecDepth 10000 in
set_option maxHeartbeats 1600000 in
theorem markStore_any (base : Nat) (a : Option Addr) (n ca : Nat) (X : List ByteArray) (a' : Option Addr) (n' ca' : Nat) (Y : List ByteArray) (ep nx : Int) (ua : Option Addr) (un uc : Nat) (l : List UE) (k : Nat) (w : World) (h : StoAt w base a n ca X a' n' ca' Y ua un uc l) (hn : n ≤ 2097152) (hn' : n' ≤ 2097152) (hk : k ≤ 1073741824) (hul : un ≤ 1099511627776) (hkE : mkUEnd (k + n + n') l ≤ 2199023255552) (hi : Nat) (hwi : StoIn a a' ua l hi) :
    Calls Tryz.prog 74 #[.agg #[.slice a n ca, .slice a' n' ca', .int .i64 ep, .int .i64 nx, .slice ua un uc], .int .i64 (k : Int)] w fun r w' => r = .returned (.int .i64 (mkUEnd (k + n + n') l : Int)) ∧ StoMkd w' base k a n ca a' n' ca' ua un uc l ∧ Within w w' base hi := by
  have HHi : Hid (StoIn a a' ua l hi) := hwi
  clear hwi
  have HS : Hid (StoAt w base a n ca X a' n' ca' Y ua un uc l) := h
  have HK : Hid (mkUEnd (k + n + n') l ≤ 2199023255552) := hkE
  clear h hkE
  have HA : Hid (BoxN (w.alloc (.cells #[.slice a n ca, .slice a' n' ca', .int .i64 ep, .int .i64 nx, .slice ua un uc] 29)) w.heap.size 29 [.slice a n ca, .slice a' n' ca', .int .i64 ep, .int .i64 nx, .slice ua un uc]) := BoxN.new _ _ _
  have HB : Hid (Below w.heap.size w (w.alloc (.cells #[.slice a n ca, .slice a' n' ca', .int .i64 ep, .int .i64 nx, .slice ua un uc] 29))) := (Below.refl _ _).alloc (Nat.le_refl _) _
  go_enter Tryz.func74, Tryz.ntmps74
  go_wp2_with fail
  obtain ⟨w0, hw0⟩ : ∃ w0, w.alloc (.cells #[.slice a n ca, .slice a' n' ca', .int .i64 ep, .int .i64 nx, .slice ua un uc] 29) = w0 := ⟨_, rfl⟩
  rw [hw0] at HA HB ⊢
  clear hw0
  have HS0 : Hid (StoAt w0 base a n ca X a' n' ca' Y ua un uc l) := HS.out.stays HB.out
  have hww : w.heap.size < w0.heap.size := HA.out.lt
  refine (markDisk_any base a n ca X a' n' ca' Y k w0 HS0.out.now HS0.out.sure HS0.out.apart (by omega) (by omega) hk).mono ?_
  rintro _ x1 ⟨rfl, ho1, ho2, h2⟩
  have HT : Hid (Two w0 x1 (a.map (·.block)) (a'.map (·.block))) := h2
  have hU1 : UpRow x1 base (.slice ua un uc) l := by
    obtain ⟨y, g1, g2⟩ := h2
    have hy := HS0.out.ups.keptS HS0.out.now g1
    have hy2 : OwnSt y base (.slice a' n' ca') n' Y := HS0.out.sure.kept g1 (fun q hq hq2 => by rw [blk_own] at hq2; exact HS0.out.apart q hq hq2)
    exact hy.keptS hy2 g2
  have HB1 : Hid (Within w x1 base hi) := by
    obtain ⟨y, g1, g2⟩ := h2
    exact ((within_below HB.out).trans (within_grown g1 (fun q hq => ⟨(HS0.out.now.lt q (by rw [blk_own]; exact hq)).1, HHi.out.1 q hq⟩))).trans (within_grown g2 (fun q hq => ⟨(HS0.out.sure.lt q (by rw [blk_own]; exact hq)).1, HHi.out.2.1 q hq⟩))
  have hA1 : BoxN x1 w.heap.size 29 [.slice a n ca, .slice a' n' ca', .int .i64 ep, .int .i64 nx, .slice ua un uc] := by
    obtain ⟨y, g1, g2⟩ := h2
    refine (HA.out.grown g1 (fun e => ?_)).grown g2 (fun e => ?_)
    · have h9 := HS.out.now.lt w.heap.size (by rw [blk_own]; exact e); omega
    · have h9 := HS.out.sure.lt w.heap.size (by rw [blk_own]; exact e); omega
  have c4 := hA1.cell 4 rfl
  have HD1 : Hid (OwnSt x1 base (.slice a n ca) n (marksS k n) ∧ OwnSt x1 base (.slice a' n' ca') n' (marksS (k + n) n') ∧ UpRow x1 base (.slice ua un uc) l) := ⟨ho1, ho2, hU1⟩
  obtain ⟨K, hK⟩ : ∃ K, k + n + n' = K := ⟨_, rfl⟩
  have HKe : Hid (k + n + n' = K) := hK
  rw [hK] at HK ⊢
  have hKb : (K : Int) ≤ 2199023255552 := by have := HKe.out; omega
  clear hK ho1 ho2 h2 hU1 hA1
  go_wp2_with fail
  refine (markUpS_any base ua un uc K l x1 HD1.out.2.2 HS.out.len.symm HK.out hul hi HHi.out.2.2).mono ?_
  rintro _ x2 ⟨rfl, hu2, hb2, hk2⟩
  have HR : Hid (StoMkd x2 base k a n ca a' n' ca' ua un uc l ∧ Within w x2 base hi) := by
    refine ⟨⟨HD1.out.1.keptT hk2, HD1.out.2.1.keptT hk2, HS.out.apart, ?_, ?_⟩, HB1.out.trans hb2⟩
    · rw [HKe.out]; exact hu2
    · rw [mkUp_len]; exact HS.out.len
  obtain ⟨E, hE⟩ : ∃ E, mkUEnd K l = E := ⟨_, rfl⟩
  have HEe : Hid (mkUEnd K l = E) := hE
  rw [hE]
  clear hE hu2 hb2 hk2
  go_wp2_with fail
  go_ret
  exact ⟨ret_i64 (by rw [HKe.out, HEe.out]), HR.out.1, HR.out.2⟩

section
variable {W W' : World} {lo b : Nat} {a : Option Addr} {n ca : Nat} {X : List ByteArray} {a' : Option Addr} {n' ca' : Nat} {Y : List ByteArray} {ep nx : Int} {ua : Option Addr} {un uc : Nat} {l : List UE}

/-- The marks are in it. -/
theorem SAt.marked {k : Nat} (h : SAt W lo b a n ca X a' n' ca' Y ep nx ua un uc l) (hm : StoMkd W' lo k a n ca a' n' ca' ua un uc l) (hw : Within W W' lo b) : BoxN W' b 29 [.slice a n ca, .slice a' n' ca', .int .i64 ep, .int .i64 nx, .slice ua un uc] ∧ StoMkd W' lo k a n ca a' n' ca' ua un uc l :=
  ⟨(hw.block b h.box.lt (.inr (Nat.le_refl _))).trans h.box, hm⟩
end

end Go.Proofs.YtemcjenpgdieoaaGreatDoor

namespace Go.Proofs.YtemcjenpgdieoaaGreatDoor
open Go.RowKit
set_option linter.unusedVariables false

/-- A variable that holds a server; hv: what waits. -/
structure VAt (W : World) (lo b : Nat) (a : Option Addr) (n ca : Nat) (X : List ByteArray) (a' : Option Addr) (n' ca' : Nat) (Y : List ByteArray) (ep nx : Int) (ua : Option Addr) (un uc : Nat) (l : List UE) (hv : Value) : Prop where
  box : BoxN W b 32 [.slice a n ca, .slice a' n' ca', .int .i64 ep, .int .i64 nx, .slice ua un uc, hv]
  sto : StoAt W lo a n ca X a' n' ca' Y ua un uc l
  inn : StoIn a a' ua l b
  lob : lo ≤ b

section
variable {W W' : World} {lo b : Nat} {a : Option Addr} {n ca : Nat} {X : List ByteArray} {a' : Option Addr} {n' ca' : Nat} {Y : List ByteArray} {ep nx : Int} {ua : Option Addr} {un uc : Nat} {l : List UE} {hv : Value}

theorem VAt.new (h : StoAt W lo a n ca X a' n' ca' Y ua un uc l) (hl : lo ≤ W.heap.size) : VAt (W.alloc (.cells #[.slice a n ca, .slice a' n' ca', .int .i64 ep, .int .i64 nx, .slice ua un uc, hv] 32)) lo W.heap.size a n ca X a' n' ca' Y ep nx ua un uc l hv :=
  ⟨BoxN.new _ _ _, h.stays ((Below.refl _ _).alloc (Nat.le_refl _) _), h.inn, hl⟩

theorem VAt.stays (h : VAt W lo b a n ca X a' n' ca' Y ep nx ua un uc l hv) (hb : Below W.heap.size W W') : VAt W' lo b a n ca X a' n' ca' Y ep nx ua un uc l hv := ⟨h.box.stays hb, h.sto.stays hb, h.inn, h.lob⟩

theorem VAt.kept {lo2 hi2 : Nat} (h : VAt W lo b a n ca X a' n' ca' Y ep nx ua un uc l hv) (hw : Within W W' lo2 hi2) (ho : b < lo2 ∨ hi2 ≤ lo) : VAt W' lo b a n ca X a' n' ca' Y ep nx ua un uc l hv :=
  ⟨(hw.block b h.box.lt (by have := h.lob; omega)).trans h.box, h.sto.same h.inn (fun q h1 h2 h3 => hw.block q h3 (by omega)), h.inn, h.lob⟩

/-- The marks in the store of a server leave its variable as it was. -/
theorem VAt.marked {k : Nat} (h : VAt W lo b a n ca X a' n' ca' Y ep nx ua un uc l hv) (hm : StoMkd W' lo k a n ca a' n' ca' ua un uc l) (hw : Within W W' lo b) : BoxN W' b 32 [.slice a n ca, .slice a' n' ca', .int .i64 ep, .int .i64 nx, .slice ua un uc, hv] ∧ StoMkd W' lo k a n ca a' n' ca' ua un uc l :=
  ⟨(hw.block b h.box.lt (.inr (Nat.le_refl _))).trans h.box, hm⟩

end

end Go.Proofs.YtemcjenpgdieoaaGreatDoor
