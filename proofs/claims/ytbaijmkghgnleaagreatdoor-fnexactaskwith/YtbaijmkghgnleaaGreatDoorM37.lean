/- What the specification's l11Id, l11Most, ReqOk and RespOk answer. What the specification's l1Text answers: the digits of a number. -/
import Derived.Test.YtbaijmkghgnleaaGreatDoorM24
import Derived.Test.YtbaijmkghgnleaaGreatDoorM26
import Derived.Test.YtbaijmkghgnleaaGreatDoorM36
import Derived.Test.YtbaijmkghgnleaaGreatDoorM25
import Derived.Deep.QuietTactic
import Derived.Test.YtbaijmkghgnleaaGreatDoorM01
import Derived.WalkKit
import Derived.WalkSpells
import Derived.WalkLawsBesides
import Derived.Deep.RegionWith
import Derived.Deep.DrawnRows
import Derived.Lib.ItoaMem
namespace Go.Proofs.YtbaijmkghgnleaaGreatDoor
open Go.RowKit
set_option linter.unusedVariables false

theorem specMost_any (op : Int) (w : World) : Calls Tryz.prog 44 #[.int .i64 op] w fun e w' => e = .returned (.int .i64 (mostR op)) ∧ w' = w := by
  by_cases h1 : op = 1
  · subst h1
    go_enter Tryz.func44, Tryz.ntmps44
    go_wp2
    go_ret
    exact ⟨rfl, rfl⟩
  by_cases h3 : op = 3
  · subst h3
    go_enter Tryz.func44, Tryz.ntmps44
    go_wp2
    go_ret
    exact ⟨rfl, rfl⟩
  by_cases h4 : op = 4
  · subst h4
    go_enter Tryz.func44, Tryz.ntmps44
    go_wp2
    go_ret
    exact ⟨rfl, rfl⟩
  have HM : Hid (mostR op = -1) := by show _ = _; rw [mostR, if_neg (by omega), if_neg h4]
  have k1 : (op == 1) = false := by simpa using h1
  have k3 : (op == 3) = false := by simpa using h3
  have k4 : (op == 4) = false := by simpa using h4
  rw [HM.out]
  go_enter Tryz.func44, Tryz.ntmps44
  go_wp2
  go_ret
  exact ⟨rfl, rfl⟩

set_option maxRecDepth 10000 in
set_option maxHeartbeats 800000 in
theorem specReqOk_any (op : Int) (s : ByteArray) (n : Int) (w : World) (hm : s.size ≤ 9223372036854775807) :
    Calls Tryz.prog 19 #[.agg #[.int .i64 op, .string s, .int .i64 n]] w fun e w' => e = .returned (.bool (reqB op s.data.toList n)) ∧ Below w.heap.size w w' := by
  have HR : Hid (reqB op s.data.toList n = (decide (1 ≤ op ∧ op ≤ 6) && idB s.data.toList && (if mostR op < 0 then n == 0 else decide (0 ≤ n ∧ n ≤ mostR op)))) := rfl
  have HB0 : Hid (Below w.heap.size w (w.alloc (.cells #[.int .i64 op, .string s, .int .i64 n] 36))) := (Below.refl _ _).alloc (Nat.le_refl _) _
  have HX0 : Hid (Box3 (w.alloc (.cells #[.int .i64 op, .string s, .int .i64 n] 36)) w.heap.size 36 (.int .i64 op) (.string s) (.int .i64 n)) := Box3.new _ _ _ _ _
  go_enter Tryz.func19, Tryz.ntmps19
  go_wp2_with fail
  obtain ⟨w1, hw1⟩ : ∃ w1, w.alloc (.cells #[.int .i64 op, .string s, .int .i64 n] 36) = w1 := ⟨_, rfl⟩
  rw [hw1] at HB0 HX0 ⊢
  clear hw1
  obtain ⟨c0, c1, c2⟩ := HX0.out.cells
  refine (l1In_any op 1 6 _).mono ?_
  rintro e w2 ⟨rfl, hw2⟩
  subst hw2
  generalize decide (1 ≤ op ∧ op ≤ 6) = b1 at *
  cases b1
  · go_wp2_with fail
    go_ret
    exact ⟨ret_bool (by rw [HR.out]; rfl), HB0.out⟩
  go_wp2_with fail
  refine (specId_any s _ hm).mono ?_
  rintro e w3 ⟨rfl, hw3⟩
  subst hw3
  generalize idB s.data.toList = b2 at *
  cases b2
  · go_wp2_with fail
    go_ret
    exact ⟨ret_bool (by rw [HR.out]; rfl), HB0.out⟩
  go_wp2_with fail
  refine (specMost_any op _).mono ?_
  rintro e w4 ⟨rfl, hw4⟩
  subst hw4
  generalize mostR op = m at *
  by_cases hm0 : m < 0
  · rw [if_pos hm0] at HR
    go_wp2_with fail
    go_ret
    exact ⟨ret_bool (by rw [HR.out]; rfl), HB0.out⟩
  · rw [if_neg hm0] at HR
    go_wp2_with fail
    refine (l1In_any n 0 m _).mono ?_
    rintro e w5 ⟨rfl, hw5⟩
    subst hw5
    generalize decide (0 ≤ n ∧ n ≤ m) = b3 at *
    go_wp2_with fail
    go_ret
    exact ⟨ret_bool (by rw [HR.out]; rfl), HB0.out⟩

end Go.Proofs.YtbaijmkghgnleaaGreatDoor

namespace Go.Proofs.YtbaijmkghgnleaaGreatDoor
open Go.RowKit
set_option linter.unusedVariables false
attribute [local go_sem ↓] Go.wp_at_zero Go.wp_at_succ

/-- 'string([]byte{c})'. -/
theorem conv_one (c : Nat) (hc : c < 256) (W : World) (g : Nat) (h : W.cell? ⟨g, 0, none⟩ = some (.int .u8 (c : Int))) :
    (convert 27 9 (.slice (some ⟨g, 0, none⟩) 1 1)).run Tryz.prog W = .ok (.string ⟨#[UInt8.ofNat c]⟩) W := by
  refine run_convert_bytes_back W 27 9 5 ⟨g, 0, none⟩ 1 [UInt8.ofNat c] Tryz.underlying27 Tryz.underlying5 Tryz.underlying9 (fun j hj => ?_)
  obtain rfl : j = 0 := by simpa using hj
  have e : (UInt8.ofNat c).toNat = c := by simp; omega
  simpa [Addr.add, Nat.mod_eq_of_lt hc] using h

theorem bcell {W w1 : World} (hb : Below W.heap.size W w1) : ∀ b o, b < W.heap.size → w1.cell? ⟨b, o, none⟩ = W.cell? ⟨b, o, none⟩ := fun b o h => hb.cell (p := ⟨b, o, none⟩) h

theorem way_one {w w' : World} (hb : Below w.drew.heap.size w.drew w') (o : Obj) : Below w.heap.size w (w'.alloc o) :=
  (Below.trans ((Below.refl _ _).drew) hb).alloc hb.size o

theorem way_two {w w' : World} {o : Obj} (hb : Below (w.alloc o).drew.heap.size (w.alloc o).drew w') : Below w.heap.size w w' :=
  (((Below.refl _ _).alloc (Nat.le_refl _) o).drew).trans (hb.mono (by simp))

set_option maxHeartbeats 400000 in
theorem l1Text_small (u : Nat) (w : World) (h : u < 10) :
    Calls Tryz.prog 48 #[.int .i64 u] w fun e w' => e = .returned (.string ⟨(Lib.decDigits u).toArray⟩) ∧ Below w.heap.size w w' := by
  have hu : (u : Int) < 10 := by omega
  rw [Lib.decDigits_one h]
  have hcv0 : ∀ (W : World) (g : Nat), W.cell? ⟨g, 0, none⟩ = some (.int .u8 (48 + (u : Int))) → (convert 27 9 (.slice (some ⟨g, 0, none⟩) 1 1)).run Tryz.prog W = .ok (.string ⟨#[UInt8.ofNat (48 + u)]⟩) W := fun W g hW => conv_one (48 + u) (by omega) W g (by simpa using hW)
  show Calls Tryz.prog 48 #[.int .i64 u] w fun e w' => e = .returned (.string ⟨#[UInt8.ofNat (48 + u)]⟩) ∧ Below w.heap.size w w'
  generalize (⟨#[UInt8.ofNat (48 + u)]⟩ : ByteArray) = T at *
  go_enter Tryz.func48, Tryz.ntmps48
  go_wp2_with fail
  go_ret
  exact ⟨rfl, (Below.refl _ _).alloc (Nat.le_refl _) _⟩

set_option maxHeartbeats 400000 in
theorem l1Text_big (u : Nat) (w : World) (h : ¬ u < 10) (hm : u ≤ 4294967295) (S T : ByteArray) (hS : S.size ≤ 100) (hT : T.size ≤ 1)
    (hcv : ∀ (W : World) (g : Nat), W.cell? ⟨g, 0, none⟩ = some (.int .u8 (48 + (u : Int) % 10)) → (convert 27 9 (.slice (some ⟨g, 0, none⟩) 1 1)).run Tryz.prog W = .ok (.string T) W)
    (ih : ∀ w, Calls Tryz.prog 48 #[.int .i64 ((u : Int) / 10)] w fun e w' => e = .returned (.string S) ∧ Below w.heap.size w w') :
    Calls Tryz.prog 48 #[.int .i64 u] w fun e w' => e = .returned (.string (S ++ T)) ∧ Below w.heap.size w w' := by
  have hu : ¬ (u : Int) < 10 := by omega
  have hu2 : (u : Int) ≤ 4294967295 := by omega
  have IH : Hid _ := ih
  clear ih
  have hw1 : IntKind.i64.wrap ((u : Int) / 10) = (u : Int) / 10 := by rw [IntKind.wrap_i64]; omega
  have hw2 : (u : Int).tmod 10 = (u : Int) % 10 := Int.tmod_eq_emod_of_nonneg (by omega)
  have hw3 : IntKind.i64.wrap (48 + (u : Int) % 10) = 48 + (u : Int) % 10 := by rw [IntKind.wrap_i64]; omega
  have hw4 : IntKind.u8.wrap (48 + (u : Int) % 10) = 48 + (u : Int) % 10 := by rw [IntKind.wrap_u8']; omega
  go_enter Tryz.func48, Tryz.ntmps48
  go_wp2_with fail
  go_region_with (go_at_call 48; refine (IH.out _).mono ?_; rintro e w' ⟨rfl, hb⟩; have hbc := bcell hb)
  all_goals
    go_wp2_with fail
    go_ret
    first
      | exact ⟨rfl, way_one hb _⟩
      | exact ⟨rfl, way_two hb⟩

theorem decDigits_len (u : Nat) : (Lib.decDigits u).length ≤ u + 1 := by
  induction u using Nat.strongRecOn with
  | ind u ih =>
    by_cases h : u < 10
    · rw [Lib.decDigits_one h]; simp
    · rw [Lib.decDigits, dif_neg h]
      have := ih (u / 10) (by omega)
      simp only [List.length_append, List.length_cons, List.length_nil]
      omega

theorem decDigits_small (n : Nat) : ∀ u, u < 10 ^ (n + 1) → (Lib.decDigits u).length ≤ n + 1 := by
  induction n with
  | zero => intro u hu; rw [Lib.decDigits_one (by simpa using hu)]; simp
  | succ n ih =>
    intro u hu
    by_cases h : u < 10
    · rw [Lib.decDigits_one h]; simp
    · rw [Lib.decDigits, dif_neg h]
      have h2 : u / 10 < 10 ^ (n + 1) := by
        rw [Nat.pow_succ] at hu
        omega
      have := ih (u / 10) h2
      simp only [List.length_append, List.length_cons, List.length_nil]
      omega

theorem l1Text_any (u : Nat) : ∀ (w : World), u ≤ 4294967295 →
    Calls Tryz.prog 48 #[.int .i64 u] w fun e w' => e = .returned (.string ⟨(Lib.decDigits u).toArray⟩) ∧ Below w.heap.size w w' := by
  induction u using Nat.strongRecOn with
  | ind u ih =>
    intro w hm
    by_cases h : u < 10
    · exact l1Text_small u w h
    · have hl := decDigits_small 9 (u / 10) (by omega)
      have e : (⟨(Lib.decDigits u).toArray⟩ : ByteArray) = ⟨(Lib.decDigits (u / 10)).toArray⟩ ++ ⟨#[UInt8.ofNat (48 + u % 10)]⟩ := by
        rw [Lib.decDigits, dif_neg h]
        apply ByteArray.ext
        simp
      rw [e]
      refine l1Text_big u w h hm _ _ ?_ ?_ (fun W g hW => conv_one (48 + u % 10) (by omega) W g (by simpa using hW)) (fun w => ?_)
      · show (Lib.decDigits (u / 10)).toArray.size ≤ 100
        simp
        omega
      · show (#[UInt8.ofNat (48 + u % 10)] : Array UInt8).size ≤ 1
        simp
      · exact ih (u / 10) (by omega) w (by omega)

end Go.Proofs.YtbaijmkghgnleaaGreatDoor
