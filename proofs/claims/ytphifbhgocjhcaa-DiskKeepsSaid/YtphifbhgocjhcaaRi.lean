/- The document's own disk: Flush, Crash, Cached. -/
import Derived.Test.YtphifbhgocjhcaaRh
namespace Go.Proofs.Ytphifbhgocjhcaa
set_option linter.unusedSimpArgs false
set_option linter.unusedVariables false
open Go.RowKit Go.Maps

section
variable {w : World} {lo p b q : Nat} {B : List UInt8} {C : Ca}
theorem rflush_any (h : Rk w lo p b q B C) : Calls Try.prog 22 #[ptr p] w fun e w' => e = .returned (.int .i64 0) ∧ Rk w' lo p b q (settle C (idx 0 C) B) (noC C.length) ∧ Kp (fun k => k = b ∨ k = q) w w' := by
  have HP := Lib.hid (put_any h (Bi.nil w 0 0 none) (Nat.zero_le _) (by omega) true)
  clear h
  go_enter Try.func22, Try.ntmps22
  go_wp2_with (go_at_call 39; refine HP.out.mono ?_; rintro e w2 ⟨rfl, hr, hk⟩; have HR := Lib.hid hr; have HK := Lib.hid hk; clear hr hk)
  go_ret
  exact ⟨rfl, HR.out, HK.out⟩
theorem rcrash_any (h : Rk w lo p b q B C) {top : Nat} {A : Option Addr} {n c : Nat} {keep : List Bool} (hk : Bi w top A n c keep) (ht : top ≤ lo) (hn : n ≤ 4294967296) :
    Calls Try.prog 24 #[ptr p, .slice A n c] w fun e w' => e = .returned (.int .i64 0) ∧ Rk w' lo p b q (settle C (chosen (idx 0 C) keep) B) (noC C.length) ∧ Kp (fun k => k = b ∨ k = q) w w' := by
  have HP := Lib.hid (put_any h hk ht hn false)
  clear h hk
  go_enter Try.func24, Try.ntmps24
  go_wp2_with (go_at_call 39; refine HP.out.mono ?_; rintro e w2 ⟨rfl, hr, hk⟩; have HR := Lib.hid hr; have HK := Lib.hid hk; clear hr hk)
  go_ret
  exact ⟨rfl, HR.out, HK.out⟩

set_option maxRecDepth 100000 in
theorem rcached_any (h : Rk w lo p b q B C) : Calls Try.prog 28 #[ptr p] w fun e w' => ∃ v, e = .returned v ∧ Oi w' w.heap.size v (idx 0 C) ∧ Below w.heap.size w w' := by
  have HR := Lib.hid h
  have h1 := h.h1
  have hq27 : ∀ (w : World) (a : Option Addr) (n c n' c' : Nat), (binOp .eql 27 (.slice a n c) (.slice none n' c')).run Try.prog w = .ok (.bool a.isNone) w := fun w a n c n' c' => Lib.run_eql_slice_nil w _ _ a n c n' c' Try.underlying27
  clear h
  go_enter Try.func28, Try.ntmps28
  go_wp2
  go_loopw [3, 4] (fun v i' wr => ∃ i : Nat, i ≤ C.length ∧ i' = .int .i64 (i : Int) ∧ Hid (Oi wr w.heap.size v (idx 0 (C.take i))) ∧ Hid (Below w.heap.size w wr)) (fun _ i' _ => C.length - (RowKit.intOf i').toNat)
  case atStart => exact ⟨0, by omega, rfl, Lib.hid (by simpa [idx] using Oi.nil w w.heap.size), Lib.hid (bl0 w)⟩
  case round =>
    obtain ⟨i, hi, rfl, HO, HB⟩ := hrel
    have HD := Lib.hid (HR.out.old HB.out)
    have HSZ := Lib.hid (rsize_any HD.out)
    obtain ⟨c0, c1⟩ := HD.out.c
    by_cases hlt : i < C.length
    · obtain ⟨v, hv, hcv⟩ := HD.out.at_ (i := i) hlt
      have hge : C[i]? = some (C.getD i none) := by rw [List.getD_eq_getElem?_getD, List.getElem?_eq_getElem hlt]; rfl
      have hit := idx_take C 0 i _ hge
      have HU : Hid ((idx 0 (C.take i)).length ≤ 4294967296) := Lib.hid (by have := idx_len (C.take i) 0; rw [List.length_take] at this; omega)
      cases hg : C.getD i none with
      | none =>
        rw [hg] at hcv hit
        obtain rfl : v = .slice none 0 0 := hcv
        have HT : Hid (idx 0 (C.take (i + 1)) = idx 0 (C.take i)) := Lib.hid (by rw [hit]; simp)
        clear hit hg hge
        go_wp2_with (go_at_call 38; refine HSZ.out.mono ?_; rintro e w' ⟨rfl, rfl⟩)
        go_roundw
        case rel => exact ⟨i + 1, by omega, by go_num, Lib.hid (by rw [HT.out]; exact HO.out), HB⟩
        case measure => simp [RowKit.intOf]; omega
      | some x =>
        rw [hg] at hcv hit
        obtain ⟨hx, ad, c', rfl, hc', g1, g2, g3, g4, g5, g6⟩ := hcv
        have HT : Hid (idx 0 (C.take (i + 1)) = idx 0 (C.take i) ++ [i]) := Lib.hid (by rw [hit]; simp)
        clear hit hg hge g1 g2 g3 g4 g5 g6
        go_wp2_with (first | (go_at_call 38; refine HSZ.out.mono ?_; rintro e w9 ⟨rfl, rfl⟩) | (at_builtin; refine wpList_appn (base := w.heap.size) (u := i) (xs := idx 0 (C.take i)) rfl _ _ rfl rfl ?qo rfl ?qr ?qb ?qh ?_))
        case qo => exact World.ownsRow.alloc HO.out _
        case qr =>
          rw [cell_of_row _ w9.heap.size 0 _ 3 (0, 0) (heap_alloc_new w9 _)]
          rfl
        case qb => exact HU.out
        case qh =>
          have := HB.out.size
          simp
          omega
        intro v3 w3 ho3 hg3
        have HO3 := Lib.hid ho3
        have HB3 := Lib.hid ((bl_alloc HB.out (.cells #[.int .i64 (i : Int)] 3)).grown hg3 (by have := HB.out.size; simp; omega) HO.out.base)
        clear ho3 hg3
        go_wp2
        go_roundw
        case rel => exact ⟨i + 1, by omega, by go_num, Lib.hid (by rw [HT.out]; exact HO3.out), HB3⟩
        case measure => simp [RowKit.intOf]; omega
    · obtain rfl : C.length = i := by omega
      have HE := HO.out
      rw [List.take_of_length_le (Nat.le_refl _)] at HE
      have HE := Lib.hid HE
      go_wp2_with (go_at_call 38; refine HSZ.out.mono ?_; rintro e w' ⟨rfl, rfl⟩)
      go_ret
      exact ⟨_, rfl, HE.out, HB.out⟩
end
end Go.Proofs.Ytphifbhgocjhcaa
