package ratchet

import (
	"bytes"
	"crypto/sha256"
	"encoding/hex"
	"math"
	"testing"

	"pawl/api"
	"pawl/chain"
	"pawl/wire"
)

// full returns a state with something in each field.
func full() State {
	s := State{
		Own:   []byte("own"),
		Their: []byte("their"),
		Root:  []byte("root"),
		Send:  chain.Chain{Key: []byte("send"), N: 0x01020304},
		Take:  chain.Chain{Key: []byte("take"), N: math.MaxUint32},
		Prev:  0x0a0b0c0d,
		Skips: &chain.Store{},
	}
	s.Skips.Put(chain.Skip{Of: []byte("a"), N: 1, Key: []byte("one")})
	s.Skips.Put(chain.Skip{Of: []byte("b"), N: 2, Key: []byte("two")})
	return s
}

// others are full with one thing changed.
func others() []State {
	changes := []func(s *State){
		func(s *State) { s.Own = []byte("owN") },
		func(s *State) { s.Own = nil },
		func(s *State) { s.Their = []byte("theirs") },
		func(s *State) { s.Their = nil },
		func(s *State) { s.Root = []byte("Root") },
		func(s *State) { s.Root = nil },
		func(s *State) { s.Send.Key = []byte("sent") },
		func(s *State) { s.Send.Key = nil },
		func(s *State) { s.Send.N++ },
		func(s *State) { s.Send.N = 0 },
		func(s *State) { s.Take.Key = []byte("taken") },
		func(s *State) { s.Take.Key = nil },
		func(s *State) { s.Take.N-- },
		func(s *State) { s.Take.N = 0 },
		func(s *State) { s.Send, s.Take = s.Take, s.Send },
		func(s *State) { s.Prev++ },
		func(s *State) { s.Prev = 0 },
		func(s *State) { s.Skips = nil },
		func(s *State) { s.Skips.Drop([]byte("a"), 1) },
		func(s *State) { s.Skips.Drop([]byte("b"), 2) },
		func(s *State) { s.Skips.Put(chain.Skip{Of: []byte("c"), N: 3, Key: []byte("three")}) },
		func(s *State) { s.Skips.Put(chain.Skip{Of: []byte("b"), N: 2, Key: []byte("Two")}) },
		func(s *State) { s.Skips.Put(chain.Skip{Of: []byte("a"), N: 1, Key: []byte("one")}) }, // in another order
		func(s *State) {
			s.Skips.Drop([]byte("b"), 2)
			s.Skips.Put(chain.Skip{Of: []byte("b"), N: 3, Key: []byte("two")})
		},
		func(s *State) {
			s.Skips.Drop([]byte("b"), 2)
			s.Skips.Put(chain.Skip{Of: []byte("c"), N: 2, Key: []byte("two")})
		},
	}
	var all []State
	for _, change := range changes {
		s := full()
		change(&s)
		all = append(all, s)
	}
	return all
}

// text is what Lay writes of full.
const text = "00000003" + "6f776e" +
	"00000005" + "7468656972" +
	"00000004" + "726f6f74" +
	"00000004" + "73656e64" + "01020304" +
	"00000004" + "74616b65" + "ffffffff" +
	"0a0b0c0d" +
	"0002" +
	"00000001" + "61" + "00000001" + "00000003" + "6f6e65" +
	"00000001" + "62" + "00000002" + "00000003" + "74776f"

func TestSame(t *testing.T) {
	all := append(others(), full(), State{})
	for i, a := range all {
		for k, b := range all {
			if Same(a, b) != (i == k) {
				t.Errorf("Same of %d and %d: %v", i, k, Same(a, b))
			}
		}
		if !Same(a, Copy(a)) {
			t.Errorf("Same of %d and its copy is false", i)
		}
	}
	empty := State{Own: []byte{}, Their: []byte{}, Root: []byte{}, Skips: &chain.Store{}}
	empty.Send.Key, empty.Take.Key = []byte{}, []byte{}
	if !Same(empty, State{}) || !Same(State{}, empty) {
		t.Error("an empty state is another one than that of nil slices")
	}
}

func TestCopy(t *testing.T) {
	s := full()
	c := Copy(s)
	expectState(t, "Copy", c, s)
	c.Skips.Put(chain.Skip{Of: []byte("c")})
	c.Skips.Drop([]byte("a"), 1)
	for _, p := range [][]byte{c.Own, c.Their, c.Root, c.Send.Key, c.Take.Key} {
		p[0]++
	}
	c.Send.N, c.Take.N, c.Prev = 0, 0, 0
	expectState(t, "the state after changes of its copy", s, full())
	c = Copy(s)
	s.Skips.Put(chain.Skip{Of: []byte("c")})
	s.Own[0]++
	expectState(t, "the copy after changes of the state", c, full())

	c = Copy(State{})
	expectState(t, "the copy of nothing", c, State{})
	c.Skips.Put(chain.Skip{Of: []byte("c")})
	if c.Skips.Len() != 1 {
		t.Error("the copy of nothing has no store of its own")
	}
}

func TestSecrets(t *testing.T) {
	expect := func(s State, want ...string) {
		t.Helper()
		got := Secrets(s)
		if len(got) != len(want) {
			t.Fatalf("Secrets = %q, not %q", got, want)
		}
		for i := range want {
			if string(got[i]) != want[i] {
				t.Errorf("Secrets = %q, not %q", got, want)
			}
		}
	}
	expect(full(), "own", "root", "send", "take", "one", "two")
	expect(State{})
	expect(State{Their: []byte("their"), Send: chain.Chain{N: 5}, Take: chain.Chain{N: 6}, Prev: 7})
	expect(State{Own: []byte("own")}, "own")
	expect(State{Root: []byte("root"), Own: []byte{}}, "root")
	expect(State{Send: chain.Chain{Key: []byte("send")}}, "send")
	expect(State{Take: chain.Chain{Key: []byte("take")}}, "take")
	expect(State{Skips: full().Skips}, "one", "two")
	expect(Await([]byte("secret"), []byte("own")), "own", "secret")

	k := begin(t, api.Real)
	s := k.sides[0]
	expect(s, string(s.Own), string(s.Root), string(s.Send.Key))
}

func TestLay(t *testing.T) {
	expectBytes(t, "Lay", laid(full()), plain(text))
	expectBytes(t, "Lay of nothing", laid(State{}), make([]byte, 3*4+2*8+4+2))
	var w wire.Writer
	w.Flag(true)
	Lay(&w, State{})
	Lay(&w, full())
	expectBytes(t, "Lay behind others", w.Done(), append(append([]byte{1}, laid(State{})...), laid(full())...))
	Lay(nil, full())
}

func TestRead(t *testing.T) {
	for _, want := range append(others(), full(), State{}) {
		r := wire.Read(append(laid(want), 7))
		got, ok := Read(r)
		if !ok || r.Left() != 1 {
			t.Fatalf("Read: %v, %d are left", ok, r.Left())
		}
		expectState(t, "Read", got, want)
	}
}

func TestReadOfALongKey(t *testing.T) {
	s := full()
	s.Own = make([]byte, 3*api.MaxBytes)
	got, ok := Read(wire.Read(laid(s)))
	if !ok {
		t.Fatal("Read of a long key")
	}
	expectState(t, "Read", got, s)
}

func TestReadOfNoState(t *testing.T) {
	refused := func(r *wire.Reader) {
		t.Helper()
		if s, ok := Read(r); ok || s.Skips != nil || !Same(s, State{}) {
			t.Errorf("Read: %v, %v", s, ok)
		}
	}
	whole := laid(full())
	for i := range whole {
		refused(wire.Read(whole[:i]))
	}
	refused(nil)
	bad := wire.Read(laid(full()))
	bad.Num(9)
	refused(bad)
	// Neither has a store more than MaxStore keys, nor one of them twice.
	empty := laid(State{})
	many := append(empty[:len(empty)-2:len(empty)-2], 0, api.MaxStore+1)
	refused(wire.Read(append(many, make([]byte, 12*(api.MaxStore+1))...)))
	twice := append(empty[:len(empty)-2:len(empty)-2], 0, 2)
	refused(wire.Read(append(twice, make([]byte, 2*12)...)))
}

// TestReadOfAnything: what is read is laid as it was.
func TestReadOfAnything(t *testing.T) {
	whole := laid(full())
	for i := range 8 * len(whole) {
		data := bytes.Clone(whole)
		data[i/8] ^= 1 << (i % 8)
		r := wire.Read(data)
		if s, ok := Read(r); ok && !bytes.Equal(laid(s), data[:len(data)-r.Left()]) {
			t.Errorf("%x is read as %v", data, s)
		}
	}
}

// TestReadStateGoesOn: a talk goes on with states that were read.
func TestReadStateGoesOn(t *testing.T) {
	for _, mode := range modes {
		k := begin(t, mode)
		k.again(0)
		k.again(1)
		all := k.several(0, 4)
		k.again(0)
		k.open(1, all[3])
		k.again(1)
		k.open(1, all[1])
		k.exchange()
		k.again(0)
		k.again(1)
		k.exchange()
		k.open(1, all[0])
	}
}

// TestOwnMemory: what is returned shares no memory with what was given, and no two results share any.
func TestOwnMemory(t *testing.T) {
	k := begin(t, api.Real)
	p := k.p
	secret, their := p.Fresh(), p.Public(p.Fresh())
	begun, awaiting := Begin(p, secret, their), Await(secret, their)
	keep := [][]byte{laid(begun), laid(awaiting)}
	spoil(secret, their)
	expectBytes(t, "the state of Begin", laid(begun), keep[0])
	expectBytes(t, "the state of Await", laid(awaiting), keep[1])

	all := k.several(0, 4)
	k.open(1, all[3])
	s := k.sides[1]
	before := sum(s)
	for _, secret := range Secrets(s) {
		spoil(secret)
	}
	next, h, sealed, _ := Seal(p, s, with, []byte("text"))
	spoilState(next)
	spoil(h.Key, sealed)
	for _, m := range []message{all[0], all[1], {all[2].head, nil, ""}, {api.Head{}, nil, ""}} {
		got, text, _ := Open(p, s, with, m.head, m.sealed)
		spoilState(got)
		spoil(text)
	}
	spoilState(Copy(s))
	if sum(s) != before {
		t.Error("a change of results has changed the state")
	}

	m := k.seal(1, "back")
	k.open(0, m)
	before = sum(k.sides[0])
	spoil(m.head.Key, m.sealed)
	if sum(k.sides[0]) != before {
		t.Error("a change of what was opened has changed the state")
	}
	data := laid(s)
	got, _ := Read(wire.Read(data))
	before = sum(got)
	spoil(data)
	if sum(got) != before {
		t.Error("a change of what was read has changed the state")
	}
	parts := [][]byte{got.Own, got.Their, got.Root, got.Send.Key, got.Take.Key}
	for i, x := range parts {
		for n, y := range parts[:i] {
			expectApart(t, i, n, x, y)
		}
	}
}

// expectApart: appending to one of two results does not change the other one.
func expectApart(t *testing.T, i, n int, x, y []byte) {
	t.Helper()
	keepX, keepY := hex.EncodeToString(x), hex.EncodeToString(y)
	_, _ = append(x, 0xee), append(y, 0xee)
	if hex.EncodeToString(x) != keepX || hex.EncodeToString(y) != keepY {
		t.Errorf("%d and %d share memory", i, n)
	}
}

func sum(s State) [32]byte { return sha256.Sum256(laid(s)) }

// spoil changes every byte.
func spoil(all ...[]byte) {
	for _, p := range all {
		for i := range p {
			p[i] ^= 0xff
		}
	}
}

func spoilState(s State) {
	spoil(s.Own, s.Their, s.Root, s.Send.Key, s.Take.Key)
	for _, x := range s.Skips.All() {
		s.Skips.Drop(x.Of, x.N)
	}
}
