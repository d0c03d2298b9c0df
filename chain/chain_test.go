package chain

import (
	"bytes"
	"crypto/hkdf"
	"crypto/sha256"
	"encoding/hex"
	"math"
	"testing"

	"pawl/api"
	"pawl/prim"
	"pawl/term"
)

var modes = []byte{api.Real, api.Terms}

// start returns a Prim of a mode.
func start(t *testing.T, mode byte) *prim.Prim {
	t.Helper()
	p, e := prim.New(mode, []byte("seed"))
	if e != api.OK {
		t.Fatalf("New(%d): %d", mode, e)
	}
	return p
}

func plain(s string) []byte {
	p, err := hex.DecodeString(s)
	if err != nil {
		panic(err)
	}
	return p
}

// filler has n bytes of which no two neighbours are alike.
func filler(n int) []byte {
	p := make([]byte, n)
	for i := range p {
		p[i] = byte(200 + 13*i + i>>8)
	}
	return p
}

func expectBytes(t *testing.T, what string, got, want []byte) {
	t.Helper()
	if !bytes.Equal(got, want) {
		t.Errorf("%s = %x, not %x", what, got, want)
	}
}

func sameChain(a, b Chain) bool { return bytes.Equal(a.Key, b.Key) && a.N == b.N }

func expectChain(t *testing.T, what string, got, want Chain) {
	t.Helper()
	if !sameChain(got, want) {
		t.Errorf("%s = %v, not %v", what, got, want)
	}
}

// TestStepKnown has values of another program.
func TestStepKnown(t *testing.T) {
	long := make([]byte, 40)
	for i := range long {
		long[i] = byte(i)
	}
	p := start(t, api.Real)
	for _, r := range []struct {
		key         []byte
		first, last string // the first message key, and the chain key after three steps
	}{
		{nil, "5a23cea5f8b66beb711720bb654260f6fd5dd9e750a9d5a08eb28a4117f07498", "b5e94efc23146133a8d533666352a741ace87c2cc5c32cb021ad53772072cff4"},
		{[]byte("k"), "fa9aefe10fc8f187878d907e2ad0a443ba5a64f58e71bb9f457ea55a9ddaad69", "fb24b511015f6eed860fbe2c510ffa92991515b1866e0fd5009f43ed98ce964b"},
		{long, "351aec145d1d070b1d722a68bf9973b8010718a8c38bff73667186c5707b4f61", "0a4c18af3d049dc4b84d0216ddef0047d54356facc8c3cf1333e983cc7a07267"},
	} {
		first, c := Step(p, Chain{r.key, 5})
		_, c = Step(p, c)
		_, c = Step(p, c)
		expectBytes(t, "the first message key", first, plain(r.first))
		expectChain(t, "the chain after three steps", c, Chain{plain(r.last), 8})
	}
}

// TestStepReal holds a step against HKDF of the Go library.
func TestStepReal(t *testing.T) {
	p := start(t, api.Real)
	c := Chain{p.Fresh(), 0}
	for i := range uint32(20) {
		want, err := hkdf.Key(sha256.New, nil, c.Key, "step", 64)
		if err != nil {
			t.Fatal(err)
		}
		key, next := Step(p, c)
		expectBytes(t, "Step", key, want[:32])
		expectChain(t, "the next chain", next, Chain{want[32:], i + 1})
		c = next
	}
}

func TestStepTerms(t *testing.T) {
	p := start(t, api.Terms)
	c := Chain{p.Fresh(), 7}
	key, next := Step(p, c)
	if next.N != 8 {
		t.Errorf("the N of the next chain is %d", next.N)
	}
	of := p.Table().Read(c.Key)
	for i, got := range [][]byte{key, next.Key} {
		at, ok := p.Table().Find(term.Term{Kind: term.Derive, Of: []int{of}, Text: "step", N: i})
		if !ok {
			t.Fatalf("there is no Derive of the key with the N %d", i)
		}
		expectBytes(t, "a key of Step", got, term.Bytes(at))
	}
}

func TestStepMakesNoKeys(t *testing.T) {
	for _, mode := range modes {
		p := start(t, mode)
		c := Chain{p.Fresh(), 3}
		key, next := Step(p, c)
		again, other := Step(p, c)
		expectBytes(t, "Step once more", again, key)
		expectChain(t, "the next chain once more", other, next)
		if p.Made() != 1 || bytes.Equal(key, next.Key) || bytes.Equal(key, c.Key) || bytes.Equal(next.Key, c.Key) {
			t.Errorf("mode %d: %x, %x; %d were made", mode, key, next.Key, p.Made())
		}
	}
}

func TestStepAtTheGreatestN(t *testing.T) {
	for _, mode := range modes {
		p := start(t, mode)
		c := Chain{p.Fresh(), math.MaxUint32}
		want, _ := Step(p, Chain{c.Key, 0})
		key, next := Step(p, c)
		expectBytes(t, "Step", key, want)
		if next.N != 0 {
			t.Errorf("the N behind the greatest one is %d", next.N)
		}
	}
}

// TestStepWithoutPrim: neither nil nor one that New has not made can derive a key.
func TestStepWithoutPrim(t *testing.T) {
	for _, p := range []*prim.Prim{nil, {}} {
		for _, c := range []Chain{{}, {filler(32), 0}, {filler(5), 9}, {nil, math.MaxUint32}} {
			key, got := Step(p, c)
			expectBytes(t, "the key without a Prim", key, nil)
			expectChain(t, "the chain without a Prim", got, c)
		}
	}
}

// TestAhead: it is as many Steps, and their message keys are put in their order.
func TestAhead(t *testing.T) {
	for _, mode := range modes {
		p := start(t, mode)
		for _, from := range []uint32{0, 2, 1000, 1<<31 - 8, math.MaxUint32 - api.MaxSkip} {
			for far := range uint32(api.MaxSkip + 1) {
				c := Chain{p.Fresh(), from}
				want, end := []Skip{{[]byte("before"), 7, []byte("key")}}, c
				for end.N != from+far {
					n := end.N
					var key []byte
					key, end = Step(p, end)
					want = append(want, Skip{[]byte("of"), n, key})
				}
				var s Store
				s.Put(want[0])
				got, e := Ahead(p, c, []byte("of"), from+far, &s)
				if e != api.OK {
					t.Fatalf("Ahead from %d to %d: %d", from, from+far, e)
				}
				expectChain(t, "Ahead", got, end)
				expectAll(t, &s, want)
			}
		}
	}
}

func TestAheadFromTwoToFour(t *testing.T) {
	p := start(t, api.Real)
	c := Chain{p.Fresh(), 2}
	first, next := Step(p, c)
	second, end := Step(p, next)
	var s Store
	got, e := Ahead(p, c, []byte("a"), 4, &s)
	if e != api.OK || got.N != 4 {
		t.Errorf("Ahead: %d, %d", got.N, e)
	}
	expectChain(t, "Ahead", got, end)
	expectAll(t, &s, []Skip{{[]byte("a"), 2, first}, {[]byte("a"), 3, second}})
}

// TestAheadRefused: the chain is returned as it was, and the store is as it was.
func TestAheadRefused(t *testing.T) {
	for _, mode := range modes {
		p := start(t, mode)
		c := Chain{p.Fresh(), 0}
		for _, r := range []struct {
			p    *prim.Prim
			from uint32
			to   uint32
			want api.Errno
		}{
			{p, 1, 0, api.ErrUsed},
			{p, 5, 4, api.ErrUsed},
			{p, math.MaxUint32, 0, api.ErrUsed},
			{p, math.MaxUint32, math.MaxUint32 - 1, api.ErrUsed},
			{p, 0, api.MaxSkip + 1, api.ErrSkip},
			{p, 7, 7 + api.MaxSkip + 1, api.ErrSkip},
			{p, 0, math.MaxUint32, api.ErrSkip},
			{p, 1, 1 << 31, api.ErrSkip},
			{p, math.MaxUint32 - api.MaxSkip - 1, math.MaxUint32, api.ErrSkip},
			{nil, 5, 4, api.ErrUsed},
			{nil, 5, 5 + api.MaxSkip + 1, api.ErrSkip},
			{nil, 5, 6, api.ErrNone},
			{nil, 5, 5 + api.MaxSkip, api.ErrNone},
			{&prim.Prim{}, 5, 6, api.ErrNone},
			{nil, 5, 5, api.OK},
			{&prim.Prim{}, 5, 5, api.OK},
			{p, 5, 5, api.OK},
			{p, math.MaxUint32, math.MaxUint32, api.OK},
		} {
			s, want := several(3)
			c.N = r.from
			got, e := Ahead(r.p, c, []byte("of"), r.to, s)
			if e != r.want {
				t.Errorf("Ahead from %d to %d: %d, not %d", r.from, r.to, e, r.want)
			}
			expectChain(t, "Ahead", got, c)
			expectAll(t, s, want)
		}
	}
}

// TestAheadInAFullStore: the oldest keys make room, and those of the same Of and N are put anew.
func TestAheadInAFullStore(t *testing.T) {
	p := start(t, api.Real)
	c := Chain{p.Fresh(), 10}
	s, before := several(api.MaxStore)
	if _, e := Ahead(p, c, []byte("of"), 10+api.MaxSkip, s); e != api.OK {
		t.Fatalf("Ahead: %d", e)
	}
	all := s.All()
	if len(all) != api.MaxStore || all[api.MaxStore-1].N != 10+api.MaxSkip-1 || all[api.MaxSkip].N != 10 {
		t.Errorf("All = %v", all)
	}
	expectAll(t, s, append(before[api.MaxSkip:], all[api.MaxStore-api.MaxSkip:]...))

	other := Chain{p.Fresh(), 10}
	key, next := Step(p, other)
	if _, e := Ahead(p, other, []byte("of"), 11, s); e != api.OK {
		t.Fatalf("Ahead: %d", e)
	}
	expectAll(t, s, append(append(before[api.MaxSkip:], all[api.MaxSkip+1:]...), Skip{[]byte("of"), 10, key}))
	if next.N != 11 {
		t.Errorf("Step: %d", next.N)
	}
}

func TestAheadWithoutStore(t *testing.T) {
	p := start(t, api.Real)
	c := Chain{p.Fresh(), 1}
	want, e := Ahead(p, c, nil, 9, &Store{})
	if e != api.OK {
		t.Fatalf("Ahead: %d", e)
	}
	got, e := Ahead(p, c, nil, 9, nil)
	if e != api.OK {
		t.Errorf("Ahead with a nil store: %d", e)
	}
	expectChain(t, "Ahead with a nil store", got, want)
}

// TestChainsOwnMemory: what is returned and what is stored share no memory with the arguments.
func TestChainsOwnMemory(t *testing.T) {
	for _, mode := range modes {
		p := start(t, mode)
		key, of := p.Fresh(), []byte("of")
		kept := bytes.Clone(key)
		message, next := Step(p, Chain{key, 0})
		var s Store
		end, _ := Ahead(p, Chain{key, 0}, of, 2, &s)
		stay, _ := Ahead(p, Chain{key, 3}, of, 3, &s)
		used, _ := Ahead(p, Chain{key, 3}, of, 2, &s)
		far, _ := Ahead(p, Chain{key, 3}, of, 99, &s)
		none, _ := Ahead(nil, Chain{key, 3}, of, 4, &s)
		_, step := Step(nil, Chain{key, 3})
		expectBytes(t, "the key that was given", key, kept)
		expectBytes(t, "the name that was given", of, []byte("of"))
		wants := s.All()

		clear(key)
		clear(of)
		for _, c := range []Chain{stay, used, far, none, step} {
			expectChain(t, "a chain whose argument was modified", c, Chain{kept, 3})
		}
		again, third := Step(p, Chain{kept, 0})
		expectBytes(t, "the message key", message, again)
		expectChain(t, "the next chain", next, third)
		clear(end.Key)
		clear(message)
		_ = append(message, filler(64)...)
		expectChain(t, "the next chain after the message key was modified", next, third)
		expectAll(t, &s, wants)
	}
}
