package ratchet

import (
	"bytes"
	"math"
	"slices"
	"testing"

	"pawl/api"
	"pawl/chain"
	"pawl/prim"
)

// expectSkips: the store of a side has the keys of these messages, in this order.
func (k *talk) expectSkips(side int, all ...message) {
	k.Helper()
	got := k.sides[side].Skips.All()
	same := slices.EqualFunc(got, all, func(x chain.Skip, m message) bool {
		return bytes.Equal(x.Of, m.head.Key) && x.N == m.head.N &&
			bytes.Equal(k.p.Seal(x.Key, With(with, m.head), []byte(m.text)), m.sealed)
	})
	if !same {
		k.Errorf("the store has %v, not the keys of %v", got, all)
	}
}

// TestOpenOfANewKey: the state after it is as the chapter says it.
func TestOpenOfANewKey(t *testing.T) {
	for _, mode := range modes {
		k := begin(t, mode)
		k.exchange()
		k.several(1, 3)
		k.open(1, k.seal(0, "turn")) // the second side has a new key now
		m := k.seal(1, "new")
		s, made := k.sides[0], k.p.Made()
		k.open(0, m)
		if k.p.Made() != made+1 {
			t.Errorf("Open of a new key has made %d keys", k.p.Made()-made)
		}
		got := k.sides[0]
		if bytes.Equal(got.Own, s.Own) || got.Prev != s.Send.N || m.head.Prev != 4 {
			t.Errorf("Own %x, Prev %d", got.Own, got.Prev)
		}
		want := State{Own: got.Own, Their: m.head.Key, Prev: s.Send.N, Skips: got.Skips}
		var root []byte
		root, want.Take = turn(k.p, s.Root, s.Own, m.head.Key)
		_, want.Take = chain.Step(k.p, want.Take)
		want.Root, want.Send = turn(k.p, root, got.Own, m.head.Key)
		expectState(t, "the state after a new key", got, want)
		if got.Skips.Len() != 3 {
			t.Errorf("%d keys are kept", got.Skips.Len())
		}
	}
}

// TestOpenOfTheSameKey: nothing but Take goes on.
func TestOpenOfTheSameKey(t *testing.T) {
	for _, mode := range modes {
		k := begin(t, mode)
		k.exchange()
		k.open(1, k.seal(0, "first"))
		for range 3 {
			m := k.seal(0, "text")
			want, made := Copy(k.sides[1]), k.p.Made()
			_, want.Take = chain.Step(k.p, want.Take)
			k.open(1, m)
			expectState(t, "the state after a message", k.sides[1], want)
			if k.p.Made() != made {
				t.Errorf("Open has made %d keys", k.p.Made()-made)
			}
		}
	}
}

// TestOpenOfASkippedKey: nothing but its key goes.
func TestOpenOfASkippedKey(t *testing.T) {
	for _, mode := range modes {
		k := begin(t, mode)
		all := k.several(0, 6)
		k.open(1, all[5])
		k.expectSkips(1, all[:5]...)
		for _, i := range []int{2, 0, 4, 1, 3} {
			want, made := Copy(k.sides[1]), k.p.Made()
			want.Skips.Drop(all[i].head.Key, all[i].head.N)
			k.open(1, all[i])
			expectState(t, "the state after a skipped message", k.sides[1], want)
			k.refuse(1, all[i], api.ErrUsed)
			if k.p.Made() != made {
				t.Errorf("Open has made %d keys", k.p.Made()-made)
			}
		}
		k.expectSkips(1)
		k.exchange()
	}
}

// TestSkippedOfThePreviousChain: the keys up to Prev are kept under the previous key, before those of the new one.
func TestSkippedOfThePreviousChain(t *testing.T) {
	for _, mode := range modes {
		k := begin(t, mode)
		old := k.several(0, 5)
		k.open(1, old[1])
		k.open(0, k.seal(1, "turn"))
		all := k.several(0, 4)
		k.open(1, all[2])
		k.expectSkips(1, old[0], old[2], old[3], old[4], all[0], all[1])
		k.refuse(1, old[1], api.ErrUsed)
		k.open(1, old[3], all[3], all[0], old[0])
		k.expectSkips(1, old[2], old[4], all[1])
		k.open(0, k.seal(1, "turn"))
		last := k.seal(0, "last")
		if last.head.Prev != 4 {
			t.Errorf("Prev is %d", last.head.Prev)
		}
		k.open(1, last, old[4], old[2], all[1])
		k.expectSkips(1)
		k.exchange()
	}
}

// TestOpenOnce: no message is opened twice, not even after later ones.
func TestOpenOnce(t *testing.T) {
	for _, mode := range modes {
		k := begin(t, mode)
		m := k.seal(0, "first")
		k.open(1, m)
		k.refuse(1, m, api.ErrUsed)
		all := k.several(0, 4)
		k.open(1, all...)
		for _, x := range append(all, m) {
			k.refuse(1, x, api.ErrUsed)
		}
		back := k.seal(1, "back")
		k.open(0, back)
		k.refuse(0, back, api.ErrUsed)
		k.open(1, k.seal(0, "turn"))
		// Now their key is as unlike Their as a new one, but the Prev that they tell is behind Take.
		k.refuse(1, m, api.ErrUsed)
		k.refuse(1, all[3], api.ErrUsed)
	}
}

// TestOpenFarAhead: of the chain that goes on, and of the one ahead of a new one, up to MaxSkip keys are skipped.
func TestOpenFarAhead(t *testing.T) {
	for _, mode := range modes {
		k := begin(t, mode)
		all := k.several(0, api.MaxSkip+2)
		k.refuse(1, all[api.MaxSkip+1], api.ErrSkip)
		k.open(1, all[api.MaxSkip])
		k.open(1, all[api.MaxSkip+1])
		k.expectSkips(1, all[:api.MaxSkip]...)

		k.open(0, k.seal(1, "turn"))
		more := k.several(0, api.MaxSkip)
		k.open(1, k.seal(0, "as many of the new chain"))
		k.expectSkips(1, append(all[:api.MaxSkip], more...)...)
		old := k.several(0, api.MaxSkip)
		k.open(0, k.seal(1, "turn"))
		k.open(1, k.seal(0, "as many of the chain ahead"))
		k.expectSkips(1, append(more, old...)...)

		k.several(0, api.MaxSkip+1)
		k.open(0, k.seal(1, "turn"))
		k.refuse(1, k.seal(0, "too many of the chain ahead"), api.ErrSkip)
	}
}

// TestFullStore: the oldest keys go, and their messages can't be opened any more.
func TestFullStore(t *testing.T) {
	for _, mode := range modes {
		k := begin(t, mode)
		var all []message
		for range 3 {
			all = append(all, k.several(0, api.MaxSkip)...)
			k.open(1, k.seal(0, "the last of these"))
		}
		gone := len(all) - api.MaxStore
		k.expectSkips(1, all[gone:]...)
		for _, m := range all[:gone] {
			k.refuse(1, m, api.ErrUsed)
		}
		k.open(1, all[gone:]...)
		k.expectSkips(1)
	}
}

// TestOpenOfWhatWasChanged: ErrAuth, whatever was changed, of a new key, of the same key and of a skipped one.
func TestOpenOfWhatWasChanged(t *testing.T) {
	for _, mode := range modes {
		k := begin(t, mode)
		k.exchange()
		k.several(1, 2)
		k.open(1, k.seal(0, "turn"))
		fresh := k.seal(1, "of a new key")
		expectChanged(k, fresh)
		k.open(0, fresh)
		same := k.several(1, 3)
		expectChanged(k, same[2])
		k.open(0, same[2])
		expectChanged(k, same[1])
		k.open(0, same[1])
		k.open(0, same[0])
	}
}

// expectChanged: the first side refuses what m could be changed to, and m with other associated data.
func expectChanged(k *talk, m message) {
	k.Helper()
	for i := range 8 * len(m.sealed) {
		x := m
		x.sealed = slices.Clone(m.sealed)
		x.sealed[i/8] ^= 1 << (i % 8)
		k.refuse(0, x, api.ErrAuth)
	}
	for _, sealed := range [][]byte{nil, m.sealed[:len(m.sealed)-1], append(slices.Clone(m.sealed), 0)} {
		k.refuse(0, message{m.head, sealed, m.text}, api.ErrAuth)
	}
	for _, change := range []func(h *api.Head){
		func(h *api.Head) { h.Prev++ },
		func(h *api.Head) { h.N++ },
		func(h *api.Head) { h.Key = append(slices.Clone(h.Key), 0) },
		func(h *api.Head) { h.Key = bytes.Repeat([]byte{9}, 32) },
		func(h *api.Head) { h.Key = nil },
	} {
		x := m
		change(&x.head)
		if e := openError(k, 0, with, x); e != api.ErrAuth && e != api.ErrUsed {
			k.Errorf("Open of a changed head: %d", e)
		} else {
			k.refuse(0, x, e)
		}
	}
	for _, other := range [][]byte{nil, []byte("wit"), []byte("With"), []byte("with ")} {
		if e := openError(k, 0, other, m); e != api.ErrAuth {
			k.Errorf("Open with %q instead of %q: %d", other, with, e)
		}
	}
}

// openError returns what Open says of a message.
func openError(k *talk, side int, with []byte, m message) api.Errno {
	_, _, e := Open(k.p, k.sides[side], with, m.head, m.sealed)
	return e
}

// TestErrorsInTheirOrder: those of Ahead (of the chain ahead, and then of the chain itself) come before ErrAuth.
func TestErrorsInTheirOrder(t *testing.T) {
	for _, mode := range modes {
		k := begin(t, mode)
		k.several(0, 4)
		k.open(1, k.seal(0, "the fifth"))
		same := k.sides[1].Their
		other := k.p.Public(k.p.Fresh())
		for _, r := range []struct {
			h    api.Head
			want api.Errno
		}{
			{api.Head{Key: same, N: 4}, api.ErrUsed},
			{api.Head{Key: same, N: 3}, api.ErrAuth}, // its key was skipped
			{api.Head{Key: same, N: 5}, api.ErrAuth},
			{api.Head{Key: same, N: 5, Prev: 99}, api.ErrAuth}, // Prev does not matter if the key is not new
			{api.Head{Key: same, N: 5 + api.MaxSkip}, api.ErrAuth},
			{api.Head{Key: same, N: 5 + api.MaxSkip + 1}, api.ErrSkip},
			{api.Head{Key: same, N: math.MaxUint32}, api.ErrSkip},
			{api.Head{Key: other, Prev: 4, N: 99}, api.ErrUsed},
			{api.Head{Key: other, Prev: 5, N: 0}, api.ErrAuth},
			{api.Head{Key: other, Prev: 5, N: api.MaxSkip}, api.ErrAuth},
			{api.Head{Key: other, Prev: 5, N: api.MaxSkip + 1}, api.ErrSkip},
			{api.Head{Key: other, Prev: 5 + api.MaxSkip, N: api.MaxSkip}, api.ErrAuth},
			{api.Head{Key: other, Prev: 5 + api.MaxSkip + 1, N: 0}, api.ErrSkip},
			{api.Head{Key: other, Prev: math.MaxUint32, N: math.MaxUint32}, api.ErrSkip},
			{api.Head{Key: nil, Prev: 5, N: 0}, api.ErrAuth},
			{api.Head{}, api.ErrUsed},
		} {
			k.refuse(1, message{r.h, []byte("sealed by nobody"), "text"}, r.want)
		}
	}
}

// TestFirstChainHasNoPrev: who has not taken anything skips nothing of a chain ahead, whatever Prev is.
func TestFirstChainHasNoPrev(t *testing.T) {
	for _, mode := range modes {
		k := begin(t, mode)
		k.sides[0].Prev = math.MaxUint32
		m := k.seal(0, "text")
		if m.head.Prev != math.MaxUint32 {
			t.Fatalf("Prev is %d", m.head.Prev)
		}
		k.open(1, m)
		k.expectSkips(1)
	}
}

// TestTakeWithoutKey: as long as Take has no key, a chain is begun even for a key that is Their already.
func TestTakeWithoutKey(t *testing.T) {
	for _, mode := range modes {
		p := start(t, mode)
		own, secret := p.Fresh(), p.Fresh()
		first := Begin(p, secret, p.Public(own))
		// Who knows both secrets can send by the very key that the first side began with.
		second := Await(first.Root, own)
		_, second.Send = turn(p, first.Root, own, p.Public(first.Own))
		k := &talk{t, p, [2]State{first, second}}
		k.turnsTo(k.several(1, 2)[1])

		// Nor does it matter that both have no key at all.
		first = Await(secret, own)
		second = State{Root: secret}
		_, second.Send = turn(p, secret, own, nil)
		_, h, _, e := Seal(p, second, with, nil)
		h.Key = nil
		key, _ := chain.Step(p, second.Send)
		k = &talk{t, p, [2]State{first, second}}
		if e != api.OK {
			t.Fatalf("Seal: %d", e)
		}
		k.turnsTo(message{h, p.Seal(key, With(with, h), []byte("text")), "text"})
	}
}

// turnsTo: the first side opens m, and begins a chain for it and one to send by.
func (k *talk) turnsTo(m message) {
	k.Helper()
	s := k.sides[0]
	k.open(0, m)
	got := k.sides[0]
	root, take := turn(k.p, s.Root, s.Own, m.head.Key)
	for range m.head.N + 1 {
		_, take = chain.Step(k.p, take)
	}
	want := State{Own: got.Own, Their: m.head.Key, Take: take, Prev: s.Send.N, Skips: got.Skips}
	want.Root, want.Send = turn(k.p, root, got.Own, m.head.Key)
	expectState(k.T, "the state after its first chain", got, want)
	if bytes.Equal(got.Own, s.Own) || got.Skips.Len() != int(m.head.N) {
		k.Errorf("Own %x, %d keys are kept", got.Own, got.Skips.Len())
	}
}

// TestOfOthers: what was sealed by a state of another secret, or for another key, isn't opened.
func TestOfOthers(t *testing.T) {
	for _, mode := range modes {
		k := begin(t, mode)
		p := k.p
		own, secret := k.sides[1].Own, k.sides[1].Root
		for _, s := range []State{
			Begin(p, p.Fresh(), p.Public(own)),
			Begin(p, secret, p.Public(p.Fresh())),
			Begin(p, secret, own),
			Begin(p, nil, nil),
		} {
			_, h, sealed, e := Seal(p, s, with, []byte("text"))
			if e != api.OK {
				t.Fatalf("Seal: %d", e)
			}
			k.refuse(1, message{h, sealed, "text"}, api.ErrAuth)
		}
		k.exchange()
	}
}

// TestWithoutPrim: nothing is promised, but that these calls end.
func TestWithoutPrim(t *testing.T) {
	k := begin(t, api.Real)
	k.exchange()
	m := k.several(0, 3)
	for _, p := range []*prim.Prim{nil, {}} {
		if s := Begin(p, []byte("secret"), []byte("their")); len(s.Own) != 0 || len(s.Root) != 0 || len(s.Send.Key) != 0 {
			t.Errorf("Begin without a Prim: %v", s)
		}
		if _, _, sealed, e := Seal(p, k.sides[0], with, nil); e != api.ErrNone || len(sealed) != 0 {
			t.Errorf("Seal without a Prim: %x, %d", sealed, e)
		}
		for _, x := range m {
			s, text, e := Open(p, k.sides[1], with, x.head, x.sealed)
			if e == api.OK || len(text) != 0 || !Same(s, k.sides[1]) {
				t.Errorf("Open without a Prim: %q, %d", text, e)
			}
		}
		Open(p, State{}, nil, api.Head{}, nil)
	}
}

// TestZeroState: it has no secrets, and a message for it can be sealed by whoever knows none either; nothing panics.
func TestZeroState(t *testing.T) {
	for _, mode := range modes {
		p := start(t, mode)
		s := State{}
		next, text, e := Open(p, s, nil, api.Head{}, nil)
		if e != api.ErrAuth || len(text) != 0 || !Same(next, s) {
			t.Errorf("Open of nothing: %v, %q, %d", next, text, e)
		}
		k := &talk{t, p, [2]State{Begin(p, nil, nil), s}}
		m := k.seal(0, "text")
		k.sides[1].Own = k.sides[0].Own
		k.refuse(1, m, api.ErrAuth)
		k.exchangeOfNothing()
	}
}

// exchangeOfNothing: states without a store open messages too, and keep the keys they skip.
func (k *talk) exchangeOfNothing() {
	k.Helper()
	own := k.p.Fresh()
	k.sides = [2]State{Begin(k.p, nil, k.p.Public(own)), {Own: own}}
	all := k.several(0, 3)
	k.open(1, all[2], all[0], all[1])
	k.exchange()
}
