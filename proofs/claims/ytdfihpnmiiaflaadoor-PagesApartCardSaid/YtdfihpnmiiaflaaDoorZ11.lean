/- Texts of this claim, one behind the other: DFi, DFk, DLi, DIn. -/
import Derived.Test.YtdfihpnmiiaflaaDoorZ10
import Derived.Test.YtdfihpnmiiaflaaDoorZ04
set_option linter.unusedSimpArgs false
set_option linter.unusedVariables false
section
/- What is cached of sectors is put on the disk itself; the cache is emptied. -/
namespace Go.Proofs.YtdfihpnmiiaflaaDoor
set_option linter.unusedSimpArgs false
set_option linter.unusedVariables false
open Go.RowKit Go.Maps

section
variable {w : World} {p s m : Nat} {B : List UInt8} {C : Ca}

theorem exec_lookup {o : Oper} {a : Act} {x k : Operand} (ho : o.op = .lookup 59 x k false) (hD : Dk w p s m B C) {i : Nat} (hi : i ≤ 16384) (hx : a.eval x = .map (some m)) (hk : a.eval k = .int .i64 (i : Int)) :
    (execOp a.eval o).run Tryd.prog w = .ok (.value (sec (valAt C i))) w := by
  unfold execOp
  simp only [ho, hx, hk, Sem.run_bind, hD.lookup hi, Result.andThen_ok, Sem.run_pure]
theorem Dk.put (hD : Dk w p s m B C) {i : Nat} (hi : i < C.length) {v : List UInt8} (hv : v.length = 256) :
    Dk (w.setCells s (256 * i) (cs8 v)) p s m (putS B i v) C ∧ Kp (· = s) w (w.setCells s (256 * i) (cs8 v)) := by
  obtain ⟨h1, h2⟩ := hD.hs.put hv (hD.bound hi)
  refine ⟨⟨?_, h1, ?_, by rw [putS_len hv (hD.bound hi)]; exact hD.hB, hD.hC, hD.h0, hD.h1, hD.ps⟩, h2⟩
  · obtain ⟨c, a, b, e⟩ := hD.hp
    exact ⟨c, a, b, (h2.block p hD.plt hD.ps).trans e⟩
  · obtain ⟨k, hk⟩ := hD.hm
    exact ⟨k, ownsMap_of_heap hk (h2.block m hD.mlt (fun e => hD.sm e.symm))⟩
/-- A sector put on the disk itself. -/
theorem wpList_store_sec {ops : Array Oper} {rest : List Oper} {o : Oper} {a : Act} {Q : Exit → Act → World → Prop} (hgd : o.guard = none) (x y : Operand) (ho : o.op = .store 82 x y) (hD : Dk w p s m B C) {i : Nat} (hi : i < C.length)
    (hx : a.eval x = .pointer (some ⟨s, i * 256, none⟩)) {v : List UInt8} (hy : a.eval y = sec v) (hv : v.length = 256)
    (h : ∀ w', Dk w' p s m (putS B i v) C → Kp (· = s) w w' → wpList Tryd.prog ops Q rest (a.put o.dst undef) w') : wpList Tryd.prog ops Q (o :: rest) a w := by
  have ht := hD.hs.there (hD.bound hi)
  obtain ⟨h1, h2⟩ := hD.put hi hv
  refine wpList_store_mid hgd 82 x y ho s (i * 256) (cs8 v).toArray hx hy (by rw [List.size_toArray, cs8_length, hv, Nat.mul_comm]; exact ht) (by rw [info63, List.size_toArray, cs8_length, hv]) (all_oneCell_toArray (cs8_one v)) ?_
  rw [Nat.mul_comm]
  exact h _ h1 h2
/-- The cache emptied. -/
theorem wpList_clear {ops : Array Oper} {rest : List Oper} {o : Oper} {a : Act} {Q : Exit → Act → World → Prop} (hgd : o.guard = none) (x : Operand) (ho : o.op = .call { callee := .builtin .clear, args := #[x], argTypes := #[59] }) (hD : Dk w p s m B C)
    (hx : a.eval x = .map (some m)) (h : ∀ w', Dk w' p s m B (noC C.length) → Kp (· = m) w w' → wpList Tryd.prog ops Q rest (a.put o.dst (.tuple #[])) w') : wpList Tryd.prog ops Q (o :: rest) a w := by
  refine wpList_plain hgd fun K hK => ?_
  obtain ⟨w', hrun, h1, h2⟩ := hD.clear o.type
  unfold Oper.wp execOp
  simp only [ho, resolve, invoke, builtin, Sem.run_bind, Sem.run_pure, Result.andThen_ok, List.map_toArray, List.map_cons, List.map_nil, hx, hrun]
  exact hK _ _ (h w' h1 h2)
theorem Kp.trans {may : Nat → Prop} {w w' w2 : World} (h : Kp may w w') (k : Kp may w' w2) : Kp may w w2 := (Kp.stays may).trans h k
theorem settle_take (C : Ca) (l : List Nat) (B : List UInt8) {i u : Nat} (h : l[i]? = some u) : putS (settle C (l.take i) B) u (valAt C u) = settle C (l.take (i + 1)) B := by
  rw [List.take_add_one, h, Option.toList_some, settle_app]
  rfl

set_option maxRecDepth 100000 in
theorem settle_any (h : Dk w p s m B C) {base : Nat} {A : Option Addr} {n c : Nat} {l : List Nat} (hr : Ni w base A n c l) (hl : ∀ i ∈ l, i < C.length) (hs : s < base) (hn : n ≤ 16384) :
    Calls Tryd.prog 42 #[ptr p, .slice A n c] w fun e w' => e = .returned (.tuple #[]) ∧ Dk w' p s m (settle C l B) (noC C.length) ∧ Kp (fun k => k = s ∨ k = m) w w' := by
  have HD := Lib.hid h
  have HR := Lib.hid hr
  have hlen := hr.1
  have hcap := hr.2.1
  have HL := Lib.hid hl
  have HS := Lib.hid hs
  clear h hr hl hs
  go_enter Tryd.func42, Tryd.ntmps42
  go_wp2
  go_loopw [8] (fun v wr => ∃ i : Nat, i ≤ n ∧ v = .int .i64 (i : Int) ∧ Hid (Dk wr p s m (settle C (l.take i) B) C) ∧ Hid (Kp (· = s) w wr)) (fun v _ => n - (RowKit.intOf v).toNat)
  case atStart => exact ⟨0, by omega, rfl, Lib.hid HD.out, Lib.hid (Kp.refl _ _)⟩
  case round =>
    obtain ⟨i, hi, rfl, HDr, HK⟩ := hrel
    have h1 := HDr.out.h1
    obtain ⟨cap, hc, hc2, c0, c1⟩ := HDr.out.c0
    by_cases hlt : i < n
    · obtain ⟨ad, u, rfl, hu, hcu⟩ := (HR.out.kp HK.out (fun k hk => by have := HS.out; omega)).at_ hlt
      have hul := HL.out u (List.mem_of_getElem? hu)
      have HU := Lib.hid (settle_take C l B hu)
      have HV := Lib.hid (valAt_len HDr.out.hC u)
      clear hu
      go_wp2_with fail
      refine wp_region_still_tail 11 (by kernel_rfl) (by kernel_rfl) ?_
      simp only [List.take_succ_cons, List.take_zero, List.drop_succ_cons, List.drop_zero]
      iterate 10 still_step
      refine still_val rfl (exec_lookup rfl HDr.out.drew (by omega) rfl rfl) ?_
      refine wpStill_nil ?_
      change wpList _ _ _ _ _ wr.drew
      go_wp2_with (first | (refine wpList_store_sec rfl _ _ rfl HDr.out.drew hul rfl rfl HV.out ?_; intro w2 hd2 hk2; have HD2 := Lib.hid hd2; have HK2 := Lib.hid hk2; clear hd2 hk2) | fail)
      go_roundw
      case rel => exact ⟨i + 1, by omega, by go_num, Lib.hid (by rw [← HU.out]; exact HD2.out), Lib.hid (HK.out.trans HK2.out.undrew)⟩
      case measure => simp [RowKit.intOf]; omega
    · obtain rfl : i = n := by omega
      have e : l.take i = l := List.take_of_length_le (by omega)
      rw [e] at HDr
      clear e
      go_wp2_with (first | (refine wpList_clear rfl _ rfl HDr.out rfl ?_; intro w2 hd2 hk2; have HD2 := Lib.hid hd2; have HK2 := Lib.hid hk2; clear hd2 hk2) | fail)
      go_end0
      exact ⟨rfl, HD2.out, (HK.out.mono (fun k hk => .inl hk)).trans (HK2.out.mono (fun k hk => .inr hk))⟩
end
end Go.Proofs.YtdfihpnmiiaflaaDoor
end
section
/- Flush and Crash. -/
namespace Go.Proofs.YtdfihpnmiiaflaaDoor
set_option maxRecDepth 8192
set_option linter.unusedSimpArgs false
set_option linter.unusedVariables false
open Go.RowKit Go.Maps

section
variable {w : World} {p s m : Nat} {B : List UInt8} {C : Ca}
theorem flush_nil (w : World) : Calls Tryd.prog 40 #[.pointer none] w fun e w' => e = .returned (.int .i64 1) ∧ w' = w := by
  go_enter Tryd.func40, Tryd.ntmps40
  go_wp2_with (go_at_call 41; refine (made_nil _).mono ?_; rintro e w' ⟨rfl, rfl⟩)
  go_ret
  exact ⟨rfl, rfl⟩
theorem crash_nil (w : World) (v : Value) : Calls Tryd.prog 23 #[.pointer none, v] w fun e w' => e = .returned (.int .i64 1) ∧ w' = w := by
  go_enter Tryd.func23, Tryd.ntmps23
  go_wp2_with (go_at_call 41; refine (made_nil _).mono ?_; rintro e w' ⟨rfl, rfl⟩)
  go_ret
  exact ⟨rfl, rfl⟩
theorem Kp.below {base : Nat} {may : Nat → Prop} {w w' : World} (h : Kp may w w') (hb : base ≤ w.heap.size) (hm : ∀ k, may k → base ≤ k) : Below base w w' :=
  ⟨h.os, h.tape, h.output, h.size, fun i hi => h.block i (by omega) (fun e => by have := hm i e; omega)⟩
theorem Kp.old {may : Nat → Prop} {w w' : World} (h : Below w.heap.size w w') : Kp may w w' := Kp.of_old h

theorem flush_any (h : Dk w p s m B C) : Calls Tryd.prog 40 #[ptr p] w fun e w' => e = .returned (.int .i64 0) ∧ Dk w' p s m (settle C (idx 0 C) B) (noC C.length) ∧ Kp (fun k => k = s ∨ k = m) w w' := by
  have HM := Lib.hid (made_any h)
  have HD := Lib.hid h
  have HC := Lib.hid (cached_any h)
  have HL : Hid (∀ i ∈ idx 0 C, i < C.length) := Lib.hid (fun i hi => by have := idx_lt C 0 i hi; omega)
  have HN : Hid ((idx 0 C).length ≤ 16384) := Lib.hid (by have := idx_len C 0; have := h.h1; omega)
  have HS := Lib.hid h.slt
  clear h
  go_enter Tryd.func40, Tryd.ntmps40
  go_wp2_with (first | (go_at_call 41; refine HM.out.mono ?_; rintro e w' ⟨rfl, rfl⟩) | (go_at_call 44; refine HC.out.mono ?_; rintro e w2 ⟨A, c, rfl, hn2, hb2⟩; have HN2 := Lib.hid hn2; have HB2 := Lib.hid hb2; clear hn2 hb2) | (go_at_call 42; refine (settle_any (HD.out.old HB2.out) HN2.out HL.out HS.out HN.out).mono ?_; rintro e w3 ⟨rfl, hd3, hk3⟩; have HD3 := Lib.hid hd3; have HK3 := Lib.hid hk3; clear hd3 hk3))
  go_ret
  exact ⟨rfl, HD3.out, (Kp.old HB2.out).trans HK3.out⟩
theorem crash_any (h : Dk w p s m B C) {top : Nat} {A : Option Addr} {n c : Nat} {k : List Bool} (hk : Bi w top A n c k) (ht : top ≤ w.heap.size) (hn : n ≤ 4294967296) :
    Calls Tryd.prog 23 #[ptr p, .slice A n c] w fun e w' => e = .returned (.int .i64 0) ∧ Dk w' p s m (settle C (chosen (idx 0 C) k) B) (noC C.length) ∧ Kp (fun k => k = s ∨ k = m) w w' := by
  have HM := Lib.hid (made_any h)
  have HD := Lib.hid h
  have HC := Lib.hid (cached_any h)
  have HL : Hid (∀ i ∈ chosen (idx 0 C) k, i < C.length) := Lib.hid (fun i hi => by have := idx_lt C 0 i (chosen_sub _ _ i hi); omega)
  have HN : Hid ((idx 0 C).length ≤ 16384) := Lib.hid (by have := idx_len C 0; have := h.h1; omega)
  have HN' : Hid ((chosen (idx 0 C) k).length ≤ 16384) := Lib.hid (by have := idx_len C 0; have := chosen_len (idx 0 C) k; have := h.h1; omega)
  have HS := Lib.hid h.slt
  have HK := Lib.hid hk
  have HT := Lib.hid ht
  have HZ := Lib.hid hn
  clear h hk ht hn
  go_enter Tryd.func23, Tryd.ntmps23
  go_wp2_with (first | (go_at_call 41; refine HM.out.mono ?_; rintro e w' ⟨rfl, rfl⟩) | (go_at_call 44; refine HC.out.mono ?_; rintro e w2 ⟨A', c', rfl, hn2, hb2⟩; have HN2 := Lib.hid hn2; have HB2 := Lib.hid hb2; clear hn2 hb2) | (go_at_call 43; refine (chosen_any HN2.out (HK.out.below (HB2.out.mono HT.out)) (Nat.le_trans HT.out HB2.out.size) HN.out HZ.out).mono ?_; rintro e w3 ⟨v, rfl, ho3, hb3⟩; obtain ⟨A3, c3, rfl, hn3⟩ := ho3.ni; have HN3 := Lib.hid hn3; have HB3 := Lib.hid hb3; clear ho3 hn3 hb3) | (go_at_call 42; refine (settle_any (HD.out.old (bl_call HB2.out HB3.out)) HN3.out HL.out (Nat.lt_of_lt_of_le HS.out HB2.out.size) HN'.out).mono ?_; rintro e w4 ⟨rfl, hd4, hk4⟩; have HD4 := Lib.hid hd4; have HK4 := Lib.hid hk4; clear hd4 hk4))
  go_ret
  exact ⟨rfl, HD4.out, (Kp.old (bl_call HB2.out HB3.out)).trans HK4.out⟩
end
end Go.Proofs.YtdfihpnmiiaflaaDoor
end
section
/- The chapter's examples live. -/
namespace Go.Proofs.YtdfihpnmiiaflaaDoor
set_option maxRecDepth 8192
set_option linter.unusedSimpArgs false
set_option linter.unusedVariables false
open Go.RowKit Go.Maps

/-- A disk's three blocks lie from block b on. -/
def Hi (b p s m : Nat) : Prop := b ≤ p ∧ b ≤ s ∧ b ≤ m
theorem new_any (w : World) (n : Nat) (h0 : 0 < n) (h1 : n ≤ 16384) : Calls Tryd.prog 7 #[.int .i64 (n : Int)] w fun e w' => ∃ p s m, e = .returned (.tuple #[ptr p, .int .i64 0]) ∧ Dk w' p s m (zs (n * 256)) (noC n) ∧ Hi w.heap.size p s m ∧ Below w.heap.size w w' :=
  (new_ok w n h0 h1).mono fun e w' ⟨he, hw⟩ => by
    subst hw
    exact ⟨_, _, _, he, nw_dk w n h0 h1, ⟨by omega, by omega, by omega⟩, nw_below w n⟩
/-- What changes a disk's own blocks alone leaves what lay before the call. -/
theorem bl_dk {w w1 w2 : World} {p s m : Nat} {may : Nat → Prop} (h : Below w.heap.size w w1) (k : Kp may w1 w2) (hm : ∀ k, may k → w.heap.size ≤ k) : Below w.heap.size w w2 := h.trans (k.below h.size hm)
theorem rd_row {w : World} {g : Nat} {b : UInt8} (h : Row w g (List.replicate 256 b)) : Rd w w.heap.size (some ⟨g, 0, none⟩) 256 256 (List.replicate 256 b) := by
  have := h.rd
  rw [List.length_replicate] at this
  exact this

theorem Bi.two (w : World) (a b : Bool) : Bi (w.alloc (.cells #[.bool a, .bool b] 4)) (w.heap.size + 1) (some ⟨w.heap.size, 0, none⟩) 2 2 [a, b] := by
  refine ⟨rfl, Nat.le_refl _, fun _ => ⟨_, rfl, by simp, fun j u hu => ?_⟩⟩
  rw [Addr.add_mid, cell_of_row _ w.heap.size _ _ 4 (0, 0) (heap_alloc_new w _)]
  rcases j with _ | _ | j
  · simp at hu; subst hu; rfl
  · simp at hu; subst hu; rfl
  · simp at hu

end Go.Proofs.YtdfihpnmiiaflaaDoor
end
section
/- Lists of numbers that are the same. -/
namespace Go.Proofs.YtdfihpnmiiaflaaDoor
set_option linter.unusedSimpArgs false
set_option linter.unusedVariables false
open Go.RowKit Go.Maps

theorem Ni.bel {w w' : World} {base : Nat} {A : Option Addr} {n c : Nat} {l : List Nat} (h : Ni w base A n c l) (hb : Below w.heap.size w w') : Ni w' base A n c l := h.kp (Kp.of_old (may := fun _ => False) hb) (fun _ h => h.elim)
set_option maxRecDepth 100000 in
theorem ints_eq {w : World} {b1 b2 n c1 c2 : Nat} {A1 A2 : Option Addr} {l : List Nat} (h1 : Ni w b1 A1 n c1 l) (h2 : Ni w b2 A2 n c2 l) (hn : n ≤ 16384) :
    Calls Tryd.prog 15 #[.slice A1 n c1, .slice A2 n c2] w fun e w' => e = .returned (.bool true) ∧ Below w.heap.size w w' := by
  have H1 := Lib.hid h1
  have H2 := Lib.hid h2
  clear h1 h2
  go_enter Tryd.func15, Tryd.ntmps15
  go_wp2
  go_loopw [5] (fun v wr => ∃ i : Nat, i ≤ n ∧ v = .int .i64 (i : Int) ∧ Hid (Below w.heap.size w wr)) (fun v _ => n - (RowKit.intOf v).toNat)
  case atStart => exact ⟨0, by omega, rfl, Lib.hid (bl0 w)⟩
  case round =>
    obtain ⟨i, hi, rfl, HB⟩ := hrel
    by_cases hlt : i < n
    · obtain ⟨ad, u, rfl, hu, hc⟩ := (H1.out.bel HB.out).at_ hlt
      obtain ⟨ad2, u2, rfl, hu2, hc2⟩ := (H2.out.bel HB.out).at_ hlt
      obtain rfl : u = u2 := by rw [hu] at hu2; injection hu2
      clear hu hu2
      go_wp2_with fail
      go_still (by kernel_rfl)
      go_wp2
      go_roundw
      case rel => exact ⟨i + 1, by omega, by go_num, Lib.hid (HB.out.drew)⟩
      case measure => simp [RowKit.intOf]; omega
    · obtain rfl : i = n := by omega
      go_wp2
      go_ret
      exact ⟨rfl, HB.out⟩
end Go.Proofs.YtdfihpnmiiaflaaDoor
end
