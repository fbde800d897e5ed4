/- Lists of numbers that are the same. -/
import Derived.Test.YtphifbhgocjhcaaFi
namespace Go.Proofs.Ytphifbhgocjhcaa
set_option linter.unusedSimpArgs false
set_option linter.unusedVariables false
open Go.RowKit Go.Maps

theorem Ni.bel {w w' : World} {base : Nat} {A : Option Addr} {n c : Nat} {l : List Nat} (h : Ni w base A n c l) (hb : Below w.heap.size w w') : Ni w' base A n c l := h.kp (Kp.of_old (may := fun _ => False) hb) (fun _ h => h.elim)
set_option maxRecDepth 100000 in
theorem ints_eq {w : World} {b1 b2 n c1 c2 : Nat} {A1 A2 : Option Addr} {l : List Nat} (h1 : Ni w b1 A1 n c1 l) (h2 : Ni w b2 A2 n c2 l) (hn : n ≤ 16384) :
    Calls Try.prog 27 #[.slice A1 n c1, .slice A2 n c2] w fun e w' => e = .returned (.bool true) ∧ Below w.heap.size w w' := by
  have H1 := Lib.hid h1
  have H2 := Lib.hid h2
  clear h1 h2
  go_enter Try.func27, Try.ntmps27
  go_wp2
  go_loopw [5] (fun v wr => ∃ i : Nat, i ≤ n ∧ v = .int .i64 (i : Int) ∧ Hid (Below w.heap.size w wr)) (fun v _ => n - (RowKit.intOf v).toNat)
  case atStart => exact ⟨0, by omega, rfl, Lib.hid (bl0 w)⟩
  case round =>
    obtain ⟨i, hi, rfl, HB⟩ := hrel
    by_cases hlt : i < n
    · obtain ⟨ad, u, rfl, hu, hc⟩ := (H1.out.bel HB.out).at_ hlt
      obtain ⟨ad2, u2, rfl, hu2, hc2⟩ := (H2.out.bel HB.out).at_ hlt
      obtain rfl : u = u2 := by rw [hu] at hu2; injection hu2
      clear hu hu2
      go_wp2_with fail
      go_still (by kernel_rfl)
      go_wp2
      go_roundw
      case rel => exact ⟨i + 1, by omega, by go_num, Lib.hid (HB.out.drew)⟩
      case measure => simp [RowKit.intOf]; omega
    · obtain rfl : i = n := by omega
      go_wp2
      go_ret
      exact ⟨rfl, HB.out⟩
end Go.Proofs.Ytphifbhgocjhcaa
