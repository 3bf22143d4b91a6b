/- What the specification's l14At answers. The bytes of an upload of a row grow. No statement of the program but its table of types. Elements of a row move down. No statement of the program but its table of types. -/
import Derived.Test.YtiigdcpjelbdjaaGreatDoorM07
import Derived.Test.YtiigdcpjelbdjaaGreatDoorM03
import Derived.Test.YtiigdcpjelbdjaaGreatDoorM04
import Derived.Laws.IdiomCopy
namespace Go.Proofs.YtiigdcpjelbdjaaGreatDoor
open Go.RowKit
set_option linter.unusedVariables false

set_option maxRecDepth 10000 in
set_option maxHeartbeats 800000 in
theorem specAtU_any (a : Option Addr) (n c lo : Nat) (id : ByteArray) (l : List UE) (w : World) (h : UpRow w lo (.slice a n c) l) (hn : n = l.length) (hl : n ≤ 1099511627776) :
    Calls Tryz.prog 87 #[.slice a n c, .string id] w fun e w' => e = .returned (.int .i64 (atI (l.map UE.u) id)) ∧ w' = w := by
  have HR : Hid (UpRow w lo (.slice a n c) l) := h
  have HN : Hid (n = l.length) := hn
  clear h hn
  go_enter Tryz.func87, Tryz.ntmps87
  go_wp2_with fail
  go_loop [5] (fun v => ∃ k : Nat, k ≤ n ∧ v = .int .i64 (k : Int) ∧ Hid (∀ j (hj : j < l.length), j < k → (l[j]).u.id ≠ id)) (fun v => n - (intOf v).toNat)
  case atStart => exact ⟨0, Nat.zero_le _, rfl, fun j _ hj => absurd hj (Nat.not_lt_zero _)⟩
  case round =>
    obtain ⟨k, hk, rfl, HJ⟩ := hrel
    by_cases hlt : k < n
    · have hkl : k < l.length := by rw [← HN.out]; exact hlt
      obtain ⟨g, rfl, g0, _⟩ := HR.out.at HN.out hkl
      have hki : (k : Int) < (n : Int) := by omega
      have hk0 : (0 : Int) ≤ (k : Int) := by omega
      have he := ids_eq (l[k]).u.id id
      by_cases hid : (l[k]).u.id = id
      · rw [decide_eq_true hid] at he
        have HF : Hid (atI (l.map UE.u) id = (k : Int)) := by
          show _ = _
          rw [atI, atU_some (k := k) (by simpa using hkl) (by simpa using hid) (fun j hj hjk => by simpa using HJ.out j (by simpa using hj) hjk)]
        clear hid HJ
        generalize (l[k]).u.id = x at *
        go_wp2_with fail
        go_ret
        exact ⟨ret_int HF.out.symm, rfl⟩
      · rw [decide_eq_false hid] at he
        have HJ2 : Hid (∀ j (hj : j < l.length), j < k + 1 → (l[j]).u.id ≠ id) := fun j hj hjk => by
          by_cases e : j = k
          · subst e; exact hid
          · exact HJ.out j hj (by omega)
        clear hid HJ
        generalize (l[k]).u.id = x at *
        go_wp2_with fail
        go_round
        case rel => exact ⟨k + 1, by omega, by go_num, HJ2⟩
        case measure => simp [intOf]; omega
    · have hkl : k = n := by omega
      have HF : Hid (atI (l.map UE.u) id = -1) := by
        show _ = _
        rw [atI, atU_none (fun j hj => by simpa using HJ.out j (by simpa using hj) (by rw [hkl, HN.out]; simpa using hj))]
      clear HJ
      go_wp2_with fail
      go_ret
      exact ⟨ret_int HF.out.symm, rfl⟩

end Go.Proofs.YtiigdcpjelbdjaaGreatDoor

namespace Go.Proofs.YtiigdcpjelbdjaaGreatDoor
open Go.RowKit
set_option linter.unusedVariables false

theorem ueCells_data (l : List UE) (e : UE) (m : List UE) (A : Option Addr) (N C : Nat) (zs : List Int) :
    (ueCells (l ++ e :: m)).set (l.length * 4 + 2) (.slice A N C) = ueCells (l ++ ⟨{ e.u with zs := zs }, A, N, C⟩ :: m) := by
  have hl := ueCells_len l
  rw [ueCells_append, ueCells_append, ueCells_cons, ueCells_cons]
  rw [List.set_append_right _ _ (by omega), hl, show l.length * 4 + 2 - l.length * 4 = 2 by omega]
  rfl

theorem UpRow.grew {W W' : World} {base g n c : Nat} {M D : List UE} {e : UE} (h : UpRow W base (.slice (some ⟨g, 0, none⟩) n c) (M ++ e :: D)) (hn : (M ++ e :: D).length = n) {A : Option Addr} {N C : Nat} {zs : List Int} (ho : Owns W' base A N C zs) (hg : W.grownBy W' (e.a.map (·.block))) (hw : A.map (·.block) = e.a.map (·.block) ∨ ∀ q, A.map (·.block) = some q → W.heap.size ≤ q) :
    UpRow (W'.setCell ⟨g, M.length * 4 + 2, none⟩ (.slice A N C)) base (.slice (some ⟨g, 0, none⟩) n c) (M ++ ⟨{ e.u with zs := zs }, A, N, C⟩ :: D) := by
  have he := h.2.1 e (List.mem_append_right _ (List.mem_cons_self ..))
  have hrow := h.rowApart he g rfl
  have hgl : g < W.heap.size := (h.lts.1 g rfl).2
  have hp := h.2.2
  rw [List.pairwise_append, List.pairwise_cons] at hp
  have hAg : A.map (·.block) ≠ some g := fun q => by
    rcases hw with hw | hw
    · exact hrow (hw ▸ q)
    · have := hw g q; omega
  have hother : ∀ x ∈ M ++ D, Owns (W'.setCell ⟨g, M.length * 4 + 2, none⟩ (.slice A N C)) base x.a x.n x.c x.u.zs ∧ (∀ q, x.a.map (·.block) = some q → A.map (·.block) ≠ some q) := by
    intro x hx
    have hx' : x ∈ M ++ e :: D := by
      rcases List.mem_append.1 hx with hx | hx
      · exact List.mem_append_left _ hx
      · exact List.mem_append_right _ (List.mem_cons_of_mem _ hx)
    have hap : ∀ q, x.a.map (·.block) = some q → e.a.map (·.block) ≠ some q := by
      rcases List.mem_append.1 hx with hx | hx
      · exact hp.2.2 x hx e (List.mem_cons_self ..)
      · intro q hq hq2
        exact hp.2.1.1 x hx q hq2 hq
    have hxo := h.2.1 x hx'
    refine ⟨owns_set (hxo.grown hg (fun q hq hq2 => hap q hq2 hq)) (fun q => h.rowApart hxo g rfl q), fun q hq hq2 => ?_⟩
    rcases hw with hw | hw
    · exact hap q hq (by rw [← hw]; exact hq2)
    · have h1 := hw q hq2
      have h2 := (hxo.lt q hq).2
      omega
  refine ⟨?_, ?_, ?_⟩
  · have h1 : W'.ownsRow base 42 4 (.slice (some ⟨g, 0, none⟩) n c) n (ueCells (M ++ e :: D)) := by
      have h0 := h.1
      rw [hn] at h0
      exact h0.kept hg (.inr (fun q => hrow q.symm))
    have h2 := (h1.stored (M.length * 4 + 2) (.slice A N C)).1
    rw [ueCells_data M e D A N C zs] at h2
    rw [show (M ++ (⟨{ e.u with zs := zs }, A, N, C⟩ : UE) :: D).length = n by rw [← hn]; simp]
    exact h2
  · intro x hx
    rcases List.mem_append.1 hx with hx | hx
    · exact (hother x (List.mem_append_left _ hx)).1
    · rcases List.mem_cons.1 hx with rfl | hx
      · exact owns_set ho hAg
      · exact (hother x (List.mem_append_right _ hx)).1
  · rw [List.pairwise_append, List.pairwise_cons]
    refine ⟨hp.1, ⟨fun y hy q hq hq2 => (hother y (List.mem_append_right _ hy)).2 q hq2 hq, hp.2.1.2⟩, fun x hx y hy => ?_⟩
    rcases List.mem_cons.1 hy with rfl | hy
    · exact (hother x (List.mem_append_left _ hx)).2
    · exact hp.2.2 x hx y (List.mem_cons_of_mem _ hy)

end Go.Proofs.YtiigdcpjelbdjaaGreatDoor

namespace Go.Proofs.YtiigdcpjelbdjaaGreatDoor
open Go.RowKit
set_option linter.unusedVariables false

def setAll (xs : List Value) (o : Nat) : List Value → List Value
  | [] => xs
  | v :: r => setAll (xs.set o v) (o + 1) r

theorem setAll_eq (vs : List Value) : ∀ (xs : List Value) (o : Nat), o + vs.length ≤ xs.length → setAll xs o vs = xs.take o ++ vs ++ xs.drop (o + vs.length) := by
  induction vs with
  | nil => intro xs o _; simp [setAll]
  | cons v r ih =>
    intro xs o h
    simp only [List.length_cons] at h
    rw [setAll, ih _ _ (by simp; omega)]
    have ho : o < xs.length := by omega
    have e1 : (xs.set o v).take (o + 1) = xs.take o ++ [v] := by
      rw [List.take_add_one, List.getElem?_set_self (by omega), List.take_set_of_le (Nat.le_refl _)]
      rfl
    have e2 : (xs.set o v).drop (o + 1 + r.length) = xs.drop (o + 1 + r.length) := List.drop_set_of_lt (by omega)
    rw [e1, e2, List.length_cons, show o + 1 + r.length = o + (r.length + 1) by omega]
    simp

theorem row_setCells {base g n c : Nat} {e : TypeId} {size : Nat} (vs : List Value) : ∀ (W : World) (xs : List Value) (o : Nat), W.ownsRow base e size (.slice (some ⟨g, 0, none⟩) n c) n xs → (W.setCells g o vs).ownsRow base e size (.slice (some ⟨g, 0, none⟩) n c) n (setAll xs o vs) ∧ W.grownBy (W.setCells g o vs) (some g) := by
  induction vs with
  | nil => intro W xs o h; exact ⟨h, ⟨rfl, rfl, rfl, Nat.le_refl _, fun _ _ _ => rfl⟩⟩
  | cons v r ih =>
    intro W xs o h
    have h1 := h.stored o v
    have a1 : World.grownBy _ _ (some g) := h1.2
    obtain ⟨h2, h3⟩ := ih _ _ (o + 1) h1.1
    exact ⟨h2, grow_transU a1 h3⟩

theorem row_short {W : World} {base g n m c : Nat} {e : TypeId} {size : Nat} {xs : List Value} (h : W.ownsRow base e size (.slice (some ⟨g, 0, none⟩) n c) n xs) (hm : m ≤ n) : W.ownsRow base e size (.slice (some ⟨g, 0, none⟩) m c) m (xs.take (m * size)) := by
  have hmn : m * size ≤ n * size := Nat.mul_le_mul_right _ hm
  rcases h.2 with ⟨h0, _⟩ | ⟨g', cap', cur, he, hb, hg, hnc, hcm, hcs, htk⟩
  · cases h0
  · injection he with e1 e2 e3
    injection e1 with e1
    injection e1 with e1
    subst e1 e3
    refine ⟨by rw [List.length_take, h.1]; omega, .inr ⟨g, c, cur, rfl, hb, hg, by omega, hcm, hcs, ?_⟩⟩
    rw [← htk, List.take_take, Nat.min_eq_left hmn]

end Go.Proofs.YtiigdcpjelbdjaaGreatDoor
