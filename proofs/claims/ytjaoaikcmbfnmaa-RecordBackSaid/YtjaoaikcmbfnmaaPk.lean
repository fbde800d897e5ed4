/- The kit's Pick. -/
import Derived.Test.YtjaoaikcmbfnmaaRw
namespace Go.Proofs.Ytjaoaikcmbfnmaa
open Go.RowKit

theorem tmod_cases (n : Int) (m : Nat) (h : 1 ≤ m) : ∃ r : Nat, n % (m : Int) = r ∧ r < m ∧ ((n.tmod m < 0 ∧ n.tmod m = (r : Int) - m) ∨ (0 ≤ n.tmod m ∧ n.tmod m = r)) := by
  have h0 := Int.emod_nonneg n (show (m : Int) ≠ 0 by omega)
  have h1 := Int.emod_lt_of_pos n (show (0 : Int) < m by omega)
  refine ⟨(n % (m : Int)).toNat, by omega, by omega, ?_⟩
  have ht := Int.tmod_eq_emod (a := n) (b := m)
  rw [Int.toNat_of_nonneg h0]
  by_cases hc : 0 ≤ n ∨ (m : Int) ∣ n
  · rw [if_pos hc] at ht
    exact Or.inr ⟨by omega, by omega⟩
  · rw [if_neg hc] at ht
    simp only [Int.natAbs_natCast] at ht
    exact Or.inl ⟨by omega, by omega⟩

set_option maxHeartbeats 800000 in
theorem Pick_any (n : Int) (m : Nat) (h1 : 1 ≤ m) (h2 : m ≤ 1000000) (w : World) : Calls Try.prog 18 #[.int .i64 n, .int .i64 (m : Int)] w fun x w' => (∃ r : Nat, r < m ∧ x = .returned (.int .i64 (r : Int))) ∧ w = w' := by
  obtain ⟨r, -, hlt, hs⟩ := tmod_cases n m h1
  have hm0 : (m : Int) ≠ 0 := by omega
  rcases hs with ⟨hs, hq⟩ | ⟨hs, hq⟩
  · go_enter Try.func18, Try.ntmps18
    go_wp2
    go_ret
    exact ⟨⟨r, hlt, by first | rfl | (congr 3; omega)⟩, rfl⟩
  · go_enter Try.func18, Try.ntmps18
    go_wp2
    go_ret
    exact ⟨⟨r, hlt, by first | rfl | (congr 3; omega)⟩, rfl⟩
end Go.Proofs.Ytjaoaikcmbfnmaa
