/- What is cached of sectors is put on the disk itself; the cache is emptied. -/
import Derived.Test.YtphifbhgocjhcaaFd
import Derived.Test.YtphifbhgocjhcaaCh
namespace Go.Proofs.Ytphifbhgocjhcaa
set_option linter.unusedSimpArgs false
set_option linter.unusedVariables false
open Go.RowKit Go.Maps

section
variable {w : World} {p s m : Nat} {B : List UInt8} {C : Ca}

theorem exec_lookup {o : Oper} {a : Act} {x k : Operand} (ho : o.op = .lookup 59 x k false) (hD : Dk w p s m B C) {i : Nat} (hi : i ≤ 16384) (hx : a.eval x = .map (some m)) (hk : a.eval k = .int .i64 (i : Int)) :
    (execOp a.eval o).run Try.prog w = .ok (.value (sec (valAt C i))) w := by
  unfold execOp
  simp only [ho, hx, hk, Sem.run_bind, hD.lookup hi, Result.andThen_ok, Sem.run_pure]
theorem Dk.put (hD : Dk w p s m B C) {i : Nat} (hi : i < C.length) {v : List UInt8} (hv : v.length = 256) :
    Dk (w.setCells s (256 * i) (cs8 v)) p s m (putS B i v) C ∧ Kp (· = s) w (w.setCells s (256 * i) (cs8 v)) := by
  obtain ⟨h1, h2⟩ := hD.hs.put hv (hD.bound hi)
  refine ⟨⟨?_, h1, ?_, by rw [putS_len hv (hD.bound hi)]; exact hD.hB, hD.hC, hD.h0, hD.h1, hD.ps⟩, h2⟩
  · obtain ⟨c, a, b, e⟩ := hD.hp
    exact ⟨c, a, b, (h2.block p hD.plt hD.ps).trans e⟩
  · obtain ⟨k, hk⟩ := hD.hm
    exact ⟨k, ownsMap_of_heap hk (h2.block m hD.mlt (fun e => hD.sm e.symm))⟩
/-- A sector put on the disk itself. -/
theorem wpList_store_sec {ops : Array Oper} {rest : List Oper} {o : Oper} {a : Act} {Q : Exit → Act → World → Prop} (hgd : o.guard = none) (x y : Operand) (ho : o.op = .store 63 x y) (hD : Dk w p s m B C) {i : Nat} (hi : i < C.length)
    (hx : a.eval x = .pointer (some ⟨s, i * 256, none⟩)) {v : List UInt8} (hy : a.eval y = sec v) (hv : v.length = 256)
    (h : ∀ w', Dk w' p s m (putS B i v) C → Kp (· = s) w w' → wpList Try.prog ops Q rest (a.put o.dst undef) w') : wpList Try.prog ops Q (o :: rest) a w := by
  have ht := hD.hs.there (hD.bound hi)
  obtain ⟨h1, h2⟩ := hD.put hi hv
  refine wpList_store_mid hgd 63 x y ho s (i * 256) (cs8 v).toArray hx hy (by rw [List.size_toArray, cs8_length, hv, Nat.mul_comm]; exact ht) (by rw [info63, List.size_toArray, cs8_length, hv]) (all_oneCell_toArray (cs8_one v)) ?_
  rw [Nat.mul_comm]
  exact h _ h1 h2
/-- The cache emptied. -/
theorem wpList_clear {ops : Array Oper} {rest : List Oper} {o : Oper} {a : Act} {Q : Exit → Act → World → Prop} (hgd : o.guard = none) (x : Operand) (ho : o.op = .call { callee := .builtin .clear, args := #[x], argTypes := #[59] }) (hD : Dk w p s m B C)
    (hx : a.eval x = .map (some m)) (h : ∀ w', Dk w' p s m B (noC C.length) → Kp (· = m) w w' → wpList Try.prog ops Q rest (a.put o.dst (.tuple #[])) w') : wpList Try.prog ops Q (o :: rest) a w := by
  refine wpList_plain hgd fun K hK => ?_
  obtain ⟨w', hrun, h1, h2⟩ := hD.clear o.type
  unfold Oper.wp execOp
  simp only [ho, resolve, invoke, builtin, Sem.run_bind, Sem.run_pure, Result.andThen_ok, List.map_toArray, List.map_cons, List.map_nil, hx, hrun]
  exact hK _ _ (h w' h1 h2)
theorem Kp.mono {may may' : Nat → Prop} {w w' : World} (h : Kp may w w') (hm : ∀ k, may k → may' k) : Kp may' w w' := ⟨h.os, h.tape, h.output, h.size, fun k hk hn => h.block k hk (fun e => hn (hm k e))⟩
theorem Kp.trans {may : Nat → Prop} {w w' w2 : World} (h : Kp may w w') (k : Kp may w' w2) : Kp may w w2 := (Kp.stays may).trans h k
theorem settle_take (C : Ca) (l : List Nat) (B : List UInt8) {i u : Nat} (h : l[i]? = some u) : putS (settle C (l.take i) B) u (valAt C u) = settle C (l.take (i + 1)) B := by
  rw [List.take_add_one, h, Option.toList_some, settle_app]
  rfl

set_option maxRecDepth 100000 in
theorem settle_any (h : Dk w p s m B C) {base : Nat} {A : Option Addr} {n c : Nat} {l : List Nat} (hr : Ni w base A n c l) (hl : ∀ i ∈ l, i < C.length) (hs : s < base) (hn : n ≤ 16384) :
    Calls Try.prog 37 #[ptr p, .slice A n c] w fun e w' => e = .returned (.tuple #[]) ∧ Dk w' p s m (settle C l B) (noC C.length) ∧ Kp (fun k => k = s ∨ k = m) w w' := by
  have HD := Lib.hid h
  have HR := Lib.hid hr
  have hlen := hr.1
  have hcap := hr.2.1
  have HL := Lib.hid hl
  have HS := Lib.hid hs
  clear h hr hl hs
  go_enter Try.func37, Try.ntmps37
  go_wp2
  go_loopw [8] (fun v wr => ∃ i : Nat, i ≤ n ∧ v = .int .i64 (i : Int) ∧ Hid (Dk wr p s m (settle C (l.take i) B) C) ∧ Hid (Kp (· = s) w wr)) (fun v _ => n - (RowKit.intOf v).toNat)
  case atStart => exact ⟨0, by omega, rfl, Lib.hid HD.out, Lib.hid (Kp.refl _ _)⟩
  case round =>
    obtain ⟨i, hi, rfl, HDr, HK⟩ := hrel
    have h1 := HDr.out.h1
    obtain ⟨cap, hc, hc2, c0, c1⟩ := HDr.out.c0
    by_cases hlt : i < n
    · obtain ⟨ad, u, rfl, hu, hcu⟩ := (HR.out.kp HK.out (fun k hk => by have := HS.out; omega)).at_ hlt
      have hul := HL.out u (List.mem_of_getElem? hu)
      have HU := Lib.hid (settle_take C l B hu)
      have HV := Lib.hid (valAt_len HDr.out.hC u)
      clear hu
      go_wp2_with fail
      refine wp_region_still_tail 11 (by kernel_rfl) (by kernel_rfl) ?_
      simp only [List.take_succ_cons, List.take_zero, List.drop_succ_cons, List.drop_zero]
      iterate 10 still_step
      refine still_val rfl (exec_lookup rfl HDr.out.drew (by omega) rfl rfl) ?_
      refine wpStill_nil ?_
      change wpList _ _ _ _ _ wr.drew
      go_wp2_with (first | (refine wpList_store_sec rfl _ _ rfl HDr.out.drew hul rfl rfl HV.out ?_; intro w2 hd2 hk2; have HD2 := Lib.hid hd2; have HK2 := Lib.hid hk2; clear hd2 hk2) | fail)
      go_roundw
      case rel => exact ⟨i + 1, by omega, by go_num, Lib.hid (by rw [← HU.out]; exact HD2.out), Lib.hid (HK.out.trans HK2.out.undrew)⟩
      case measure => simp [RowKit.intOf]; omega
    · obtain rfl : i = n := by omega
      have e : l.take i = l := List.take_of_length_le (by omega)
      rw [e] at HDr
      clear e
      go_wp2_with (first | (refine wpList_clear rfl _ rfl HDr.out rfl ?_; intro w2 hd2 hk2; have HD2 := Lib.hid hd2; have HK2 := Lib.hid hk2; clear hd2 hk2) | fail)
      go_end0
      exact ⟨rfl, HD2.out, (HK.out.mono (fun k hk => .inl hk)).trans (HK2.out.mono (fun k hk => .inr hk))⟩
end
end Go.Proofs.Ytphifbhgocjhcaa
