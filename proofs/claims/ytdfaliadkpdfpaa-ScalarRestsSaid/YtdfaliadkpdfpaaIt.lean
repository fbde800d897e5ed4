/- slices.Backward over bytes: what it hands on. -/
import Derived.RangeFuncNested
import Derived.RangeFuncBound
import Derived.RangeFuncCalls
import Derived.RangeFuncLeaves
import Derived.Shelf.Abstract
import Derived.Shelf.RegionOpen
import Derived.WalkKit
import Derived.OwnWalkIn
import Derived.TacticsInMore
import Derived.LoopNIn
import Derived.LoopIn
import Derived.Test.YtdfaliadkpdfpaaWc
namespace Go.Proofs.Ytdfaliadkpdfpaa
set_option linter.unusedSimpArgs false
set_option linter.unusedVariables false
open Go.RowKit Go.Shelf

attribute [local go_sem] Oper.semAt_some

/-- What a round keeps: what lay below n, and block b. -/
def Kb (b n : Nat) (W W' : World) : Prop := Below n W W' ∧ W'.heap[b]? = W.heap[b]?
theorem Kb.refl (b n : Nat) (W : World) : Kb b n W W := ⟨Below.refl _ _, rfl⟩
theorem Kb.trans {b n : Nat} {A B C : World} (h : Kb b n A B) (k : Kb b n B C) : Kb b n A C := ⟨h.1.trans k.1, k.2.trans h.2⟩
theorem Kb.cell {b n : Nat} {A B : World} (h : Kb b n A B) {v : Value} {o : Nat} (hv : A.cell? ⟨b, o, none⟩ = some v) : B.cell? ⟨b, o, none⟩ = some v := (World.cell?_of_block h.2).trans hv

set_option maxRecDepth 100000 in
set_option maxHeartbeats 2000000 in
theorem bwd1_in (F : Fence) (n : Nat) (h25 : F.fn 25) (hro : F.round = none) (hn : 1 ≤ n) (l Bs n₀ : Nat) (A : Option Addr) (m c : Nat) (bs : List UInt8) (hm : m ≤ 1000000) (J Jx : List (Int × UInt8) → World → Prop)
    (hY : ∀ pre x W, J pre W → pre.length < m → YieldAt F (n - 1) Try.prog l #[.int .i64 x.1, .int .u8 (x.2.toNat : Int)] W fun e W' =>
      (e = .returned (.bool true) ∧ J (pre ++ [x]) W' ∧ Kb Bs n₀ W W') ∨ (e = .returned (.bool false) ∧ Jx (pre ++ [x]) W'))
    (W : World) (hBs : W.cell? ⟨Bs, 0, none⟩ = some (.slice A m c)) (hr : Rd W n₀ A m c bs) (h0 : J [] W) :
    CallsIn F n Try.prog 25 #[.func (.yield l) #[] #[], .pointer (some ⟨Bs, 0, none⟩)] W fun e W' => (∃ v, e = .returned v) ∧
      ((∃ ys, ys.map (·.2) = bs.reverse ∧ J ys W') ∨ (∃ pre, Jx pre W')) := by
  refine callsIn_of_wp Try.func25 rfl h25 ?_ hro
  simp only [Try.ntmps25, List.size_toArray, List.length_cons, List.length_nil, Nat.reduceAdd, Nat.reduceSub, Array.replicate_succ, Array.replicate_zero, List.push_toArray, List.append_toArray, List.nil_append, List.cons_append]
  have hlen := hr.len
  gi_wp2
  gi_loopw [3] (fun i wr => ∃ (j : Nat) (pre : List (Int × UInt8)) (z : Int), j ≤ m ∧ i = .int .i64 z ∧ Hid (z = (j : Int) - 1) ∧ Hid (pre.map (·.2) = (bs.drop j).reverse) ∧ J pre wr ∧ Hid (Kb Bs n₀ W wr))
    (fun i _ => (intOf i + 1).toNat)
  case atStart => exact ⟨m, [], _, Nat.le_refl _, rfl, Lib.hid (by omega), Lib.hid (by rw [List.drop_eq_nil_of_le (by omega)]; rfl), h0, Lib.hid (Kb.refl _ _ _)⟩
  case round =>
    obtain ⟨j, pre, z, hj, rfl, hz, hp, hJs, hk⟩ := hrel
    have hcb := hk.out.cell hBs
    rcases j with _ | j
    · have hz2 : z = -1 := by have := hz.out; omega
      subst hz2
      have hd : decide (0 ≤ (-1 : Int)) = false := by decide
      gi_wp2
      go_end0
      exact ⟨⟨_, rfl⟩, .inl ⟨pre, by simpa using hp.out, hJs⟩⟩
    · have hz2 : z = (j : Int) := by have := hz.out; omega
      subst hz2
      have hjm : j < m := by omega
      obtain ⟨ad, rfl, hab, u, hu, hcu⟩ := (hr.below hk.out.1).at_ hjm
      have hpl : pre.length < m := by
        have := congrArg List.length hp.out
        rw [List.length_map, List.length_reverse, List.length_drop] at this
        omega
      obtain ⟨fn, tmps, assign, body, hy, hR⟩ := hY pre ((j : Int), u) wr hJs hpl
      dsimp only at hy
      rw [B8] at hcu
      gi_wp2
      refine hR.mono ?_
      rintro e W3 (⟨rfl, hJ3, hk3⟩ | ⟨rfl, hJx3⟩)
      · have hk4 := Lib.hid (hk.out.trans hk3)
        clear hk3
        gi_wp2
        go_roundw
        case rel =>
          refine ⟨j, pre ++ [((j : Int), u)], _, by omega, rfl, Lib.hid rfl, Lib.hid ?_, hJ3, hk4⟩
          have hjl : j < bs.length := by omega
          rw [List.map_append, hp.out, List.drop_eq_getElem_cons hjl, List.reverse_cons]
          rw [List.getElem?_eq_getElem hjl] at hu
          injection hu with hu
          rw [hu]
          rfl
        case measure => simp [intOf]
      · gi_wp2
        refine bodyPost_ret (results_none rfl _ _ _) rfl ?_
        exact ⟨⟨_, rfl⟩, .inr ⟨_, hJx3⟩⟩

set_option maxHeartbeats 1000000 in
theorem bwd_in (F : Fence) (n : Nat) (h22 : F.fn 22) (hro : F.round = none) (a : Option Addr) (len cap : Nat) (w : World) :
    CallsIn F n Try.prog 22 #[.slice a len cap] w fun e w' => e = .returned (.func (.func 25) #[] #[.pointer (some ⟨w.heap.size, 0, none⟩)]) ∧ w' = w.alloc (.cells #[.slice a len cap] 22) := by
  refine callsIn_of_wp Try.func22 rfl h22 ?_ hro
  simp only [Try.ntmps22, List.size_toArray, List.length_cons, List.length_nil, Nat.reduceAdd, Nat.reduceSub, Array.replicate_succ, Array.replicate_zero, List.push_toArray, List.append_toArray, List.nil_append, List.cons_append]
  gi_wp2
  go_ret
  exact ⟨rfl, rfl⟩

theorem bwd_stops (F : Fence) (n : Nat) (h25 : F.fn 25) (hro : F.round = none) (hn : 1 ≤ n) (Bs n₀ : Nat) (A : Option Addr) (m c : Nat) (bs : List UInt8) (hm : m ≤ 1000000) (w : World) (hBs : Bs < w.heap.size) (hn₀ : n₀ ≤ w.heap.size)
    (hc : w.cell? ⟨Bs, 0, none⟩ = some (.slice A m c)) (hr : Rd w n₀ A m c bs) :
    SeqStopsK F n Try.prog 25 #[.pointer (some ⟨Bs, 0, none⟩)] (fun x : Int × UInt8 => #[Value.int .i64 x.1, Value.int .u8 (x.2.toNat : Int)]) (Kb Bs n₀) (fun ys => ys.map (·.2) = bs.reverse)
      (fun _ => True) m w := fun l J Jx W hW _ _ hY h0 => by
  have hc' := (hW.cell (p := ⟨Bs, 0, none⟩) hBs).trans hc
  refine (bwd1_in F n h25 hro hn l Bs n₀ A m c bs hm J Jx hY W hc' (hr.below (hW.mono hn₀)) h0).mono ?_
  rintro e W' ⟨he, ⟨ys, hy, hj⟩ | ⟨pre, hj⟩⟩
  · exact ⟨he, .inl ⟨ys, hy, hj⟩⟩
  · exact ⟨he, .inr ⟨pre, trivial, hj⟩⟩
end Go.Proofs.Ytdfaliadkpdfpaa
