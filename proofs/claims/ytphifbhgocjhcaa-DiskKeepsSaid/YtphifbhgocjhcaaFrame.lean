/- What the last steps of all claims of this seat share. -/
import Derived.Test.YtphifbhgocjhcaaRows
import Derived.Test.YtphifbhgocjhcaaFm
import Derived.ProofKit
import Derived.OpenShut
import Derived.ShutString
import Derived.ChangeOld
import Derived.Deep.Slices
namespace Go.Proofs.Ytphifbhgocjhcaa
set_option linter.unusedSimpArgs false
set_option linter.unusedVariables false
open Go.ChangeShapes Go.WideShapes Go.ChangeAt Go.RowKit

theorem own : ownKnob Try.prog.godebug = none := by kernel_rfl
theorem laidOut : laidOutB Try.prog = true := by kernel_rfl
theorem cells3 : Try.prog.cellsOf 3 = 1 := by kernel_rfl
theorem cells4 : Try.prog.cellsOf 4 = 1 := by kernel_rfl
theorem cells5 : Try.prog.cellsOf 5 = 1 := by kernel_rfl
theorem cells44 : Try.prog.cellsOf 44 = 1 := by kernel_rfl
theorem cells46 : Try.prog.cellsOf 46 = 5 := by kernel_rfl

/-- The bool that a cell holds. -/
def boolIn : Value → Bool | .bool b => b | _ => false

section
variable {H : Type} {enc : TypeId × Value → H} {W : World} {base : Nat} {spare : Nat → Bool} {held : Bool}
/-- A slice of bools that came in. -/
theorem bools_of {fuel : Nat} {cs : List Value} {x : DataW H × List MemPlace} (h : DataW.trod enc Try.prog W base spare held fuel 44 cs = some x) :
    ∃ A c keep, cs = [.slice A keep.length c] ∧ Bi W W.heap.size A keep.length c keep := by
  rcases Go.Deep.open_slice1 Try.underlying44 cells4 h with ⟨rfl, _⟩ | ⟨a, len, cap, m, n, V, D, Pl, rfl, hb, hl, hm, hmm, _, hx⟩
  · exact ⟨none, 0, [], rfl, Bi.nil _ _ _ _⟩
  · have hle : len ≤ m := by rw [hmm]; split <;> omega
    have hlen : ((List.range len).map fun i => boolIn (V i)).length = len := by simp
    have e : ∀ i, i < len → V i = .bool (boolIn (V i)) := fun i hi => by
      obtain ⟨b, hb, _⟩ := DataW.trod_bool Try.underlying4 (hx i (by omega)).2
      have hv : V i = .bool b := by simpa using hb
      rw [hv]
      rfl
    refine ⟨some a, cap, (List.range len).map fun i => boolIn (V i), by rw [hlen], by rw [hlen], by rw [hlen]; exact hl, fun hn => ⟨a, rfl, ?_, fun j u hu => ?_⟩⟩
    · have hn : 0 < len := by omega
      have := (hx 0 (by omega)).1
      have := block_lt_of_cell this
      rwa [add_block] at this
    · simp only [List.getElem?_map, Option.map_eq_some_iff] at hu
      obtain ⟨i, hi, rfl⟩ := hu
      have hj := (List.getElem?_eq_some_iff.1 hi).1
      simp only [List.length_range] at hj
      have : i = j := by simpa using (List.getElem?_eq_some_iff.1 hi).2.symm
      subst this
      rw [(hx i (by omega)).1, ← e i hj]
/-- A call that came in. -/
theorem act_of {fuel : Nat} {cs : List Value} {x : DataW H × List MemPlace} (h : DataW.trod enc Try.prog W base spare held fuel 46 cs = some x) : ∃ v : Av, cs = v.cells ∧ v.ok W W.heap.size := by
  obtain ⟨xs, n, rfl, _, hl, hxs, hf⟩ := DataW.trod_struct Try.underlying46 h
  rw [cells46] at hl
  match cs, hl with
  | [c0, c1, c2, c3, c4], _ =>
    have h0 : DataW.trod enc Try.prog W base spare held n 3 (([c0, c1, c2, c3, c4].drop 0).take (Try.prog.cellsOf 3)) = xs[0]? := hf 0 _ rfl
    have h1 : DataW.trod enc Try.prog W base spare held n 3 (([c0, c1, c2, c3, c4].drop 1).take (Try.prog.cellsOf 3)) = xs[1]? := hf 1 _ rfl
    have h2 : DataW.trod enc Try.prog W base spare held n 5 (([c0, c1, c2, c3, c4].drop 2).take (Try.prog.cellsOf 5)) = xs[2]? := hf 2 _ rfl
    have h3 : DataW.trod enc Try.prog W base spare held n 4 (([c0, c1, c2, c3, c4].drop 3).take (Try.prog.cellsOf 4)) = xs[3]? := hf 3 _ rfl
    have h4 : DataW.trod enc Try.prog W base spare held n 44 (([c0, c1, c2, c3, c4].drop 4).take (Try.prog.cellsOf 44)) = xs[4]? := hf 4 _ rfl
    rw [cells3] at h0 h1
    rw [cells5] at h2
    rw [cells4] at h3
    rw [cells44] at h4
    simp only [List.drop_zero, List.drop_succ_cons, List.take_succ_cons, List.take_zero] at h0 h1 h2 h3 h4
    have s : ∀ i, i < 5 → ∃ y, xs[i]? = some y := fun i hi => ⟨_, List.getElem?_eq_getElem (by rw [hxs]; exact hi)⟩
    obtain ⟨y0, e0⟩ := s 0 (by omega)
    obtain ⟨y1, e1⟩ := s 1 (by omega)
    obtain ⟨y2, e2⟩ := s 2 (by omega)
    obtain ⟨y3, e3⟩ := s 3 (by omega)
    obtain ⟨y4, e4⟩ := s 4 (by omega)
    rw [e0] at h0
    rw [e1] at h1
    rw [e2] at h2
    rw [e3] at h3
    rw [e4] at h4
    obtain ⟨z0, g0, _, _⟩ := DataW.trod_int Try.underlying3 h0
    obtain ⟨z1, g1, _, _⟩ := DataW.trod_int Try.underlying3 h1
    obtain ⟨z2, g2, _, w2⟩ := DataW.trod_int Try.underlying5 h2
    obtain ⟨b3, g3, _⟩ := DataW.trod_bool Try.underlying4 h3
    obtain ⟨A, c, keep, g4, hk⟩ := bools_of h4
    have hb := bounds_u8 w2
    refine ⟨⟨⟨z0, z1, UInt8.ofNat z2.toNat, b3, keep⟩, A, c⟩, ?_, hk⟩
    have t2 : ((UInt8.ofNat z2.toNat).toNat : Int) = z2 := by
      have : (UInt8.ofNat z2.toNat).toNat = z2.toNat := by simp; omega
      rw [this, Int.toNat_of_nonneg hb.1]
    simp only [List.cons.injEq, and_true] at g0 g1 g2 g3 g4
    simp only [Av.cells, t2, g0, g1, g2, g3, g4]
theorem open_act {r : Reach} {b0 : Nat} {v : Value} {d : DataW H} {p : List MemPlace} (hv : Value.okWide Try.prog W r b0 46 v) (h : DataW.Trod enc Try.prog W base spare held 46 v d p) :
    ∃ x : Av, v = .agg x.cells.toArray ∧ x.ok W W.heap.size := by
  unfold Value.okWide at hv
  rw [Try.underlying46] at hv
  obtain ⟨cs, rfl, hsz, _⟩ := hv
  obtain ⟨fuel, hf⟩ := h
  obtain ⟨x, hx, ho⟩ := act_of hf
  refine ⟨x, ?_, ho⟩
  rw [← hx]
  rfl
/-- Calls that came in. -/
theorem open_acts {A : Option Addr} {n c : Nat} {d : DataW H} {p : List MemPlace} (h : DataW.Trod enc Try.prog W base spare held 38 (.slice A n c) d p) : ∃ l, Ai W W.heap.size A n c l := by
  obtain ⟨fuel, hf⟩ := h
  rcases Go.Deep.open_slice Try.underlying38 hf with ⟨hcs, _⟩ | ⟨a, len, cap, m, k, D, Pl, hcs, hb, hl, hm, hmm, _, hx⟩
  · simp [Value.cells] at hcs
    obtain ⟨rfl, rfl, rfl⟩ := hcs
    exact ⟨[], rfl, Nat.le_refl _, by simp, fun h => absurd h (by omega)⟩
  · simp [Value.cells] at hcs
    obtain ⟨rfl, rfl, rfl⟩ := hcs
    rw [cells46] at hx
    have hle : n ≤ m := by rw [hmm]; split <;> omega
    have hex : ∀ i, ∃ v : Av, i < n → (∀ j u, v.cells[j]? = some u → W.cell? (a.add (i * 5 + j)) = some u) ∧ v.ok W W.heap.size := fun i => by
      by_cases hi : i < n
      · obtain ⟨cs', h1, h2⟩ := hx i (by omega)
        obtain ⟨v, hv, ho⟩ := act_of h2
        refine ⟨v, fun _ => ⟨fun j u hu => ?_, ho⟩⟩
        have hj : j < 5 := (List.getElem?_eq_some_iff.1 hu).1
        have := (World.cells?_some h1).2.2 j hj
        rw [hv, hu, add_add] at this
        exact this
      · exact ⟨⟨⟨0, 0, 0, false, []⟩, none, 0⟩, fun h => absurd h hi⟩
    have hch := Classical.axiomOfChoice hex
    obtain ⟨F, hF⟩ := hch
    refine ⟨(List.range n).map F, by simp, hl, fun x hx => ?_, fun hn => ⟨a, rfl, ?_, fun j x hx i v hv => ?_⟩⟩
    · obtain ⟨i, hi, rfl⟩ := List.mem_map.1 hx
      exact (hF i (by simpa using hi)).2
    · have := (hF 0 hn).1 0 _ rfl
      have := block_lt_of_cell this
      rwa [add_block] at this
    · simp only [List.getElem?_map, Option.map_eq_some_iff] at hx
      obtain ⟨i', hi, rfl⟩ := hx
      have hj := (List.getElem?_eq_some_iff.1 hi).1
      simp only [List.length_range] at hj
      have : i' = j := by simpa using (List.getElem?_eq_some_iff.1 hi).2.symm
      subst this
      exact (hF i' hj).1 i v hv
end
end Go.Proofs.Ytphifbhgocjhcaa
