package life_test

import (
	"slices"
	"testing"

	"lighterman/api"
	"lighterman/life"
)

var (
	east = api.End{Port: "e", Chan: 1}
	west = api.End{Port: "w", Chan: 2}
)

// out is a packet that the chain sends, in one that it receives.
func out(seq int) api.Packet { return api.Packet{Src: east, Dst: west, Seq: seq, Data: "x"} }
func in(seq int) api.Packet  { return api.Packet{Src: west, Dst: east, Seq: seq, Data: "x"} }

func ev(kind int, p api.Packet) api.Event {
	e := api.Event{Kind: kind, Packet: p}
	if kind == api.EvWrite {
		e.Ack = "ok:x"
	}
	return e
}

func outKey(seq int) life.Key { return life.Key{End: east, Out: true, Seq: seq} }
func inKey(seq int) life.Key  { return life.Key{End: east, Seq: seq} }

func fold(t *testing.T, x *life.Table, want api.Errno, e api.Event) {
	t.Helper()
	keys, closed := x.Keys(), x.Closed()
	var before []life.Entry
	for _, k := range keys {
		y, _ := x.Get(k)
		before = append(before, y)
	}
	if got := x.Fold(e); got != want {
		t.Errorf("Fold(%v): %d, not %d", e, got, want)
	}
	if want == api.OK {
		return
	}
	for i, k := range keys {
		if y, _ := x.Get(k); y != before[i] {
			t.Errorf("a rejected event has changed %v", y)
		}
	}
	if !slices.Equal(keys, x.Keys()) || !slices.Equal(closed, x.Closed()) {
		t.Error("a rejected event has changed the table")
	}
}

func TestFoldOut(t *testing.T) { // P22.1, P22.2
	if stages := []int{life.None, life.Pending, life.Acked, life.TimedOut, life.Received, life.Written}; !slices.Equal(stages, []int{0, 1, 2, 3, 4, 5}) {
		t.Errorf("the stages: %v", stages)
	}
	x := life.New()
	if len(x.Keys()) != 0 || len(x.Closed()) != 0 || x.Stage(outKey(1)) != life.None {
		t.Error("a new table is not empty")
	}
	fold(t, x, api.OK, ev(api.EvSend, out(1)))
	if y, ok := x.Get(outKey(1)); y != (life.Entry{Packet: out(1), Sent: true}) || !ok || x.Stage(outKey(1)) != life.Pending {
		t.Errorf("after EvSend: %v, %t", y, ok)
	}
	fold(t, x, api.ErrTwice, ev(api.EvSend, out(1)))
	fold(t, x, api.OK, ev(api.EvAck, out(1)))
	if y, _ := x.Get(outKey(1)); y != (life.Entry{Packet: out(1), Sent: true, Acked: true}) || x.Stage(outKey(1)) != life.Acked {
		t.Errorf("after EvAck: %v", y)
	}
	fold(t, x, api.ErrTwice, ev(api.EvAck, out(1)))
	fold(t, x, api.ErrOrder, ev(api.EvTimeout, out(1)))
	fold(t, x, api.OK, ev(api.EvTimeout, out(2)))
	if y, _ := x.Get(outKey(2)); y != (life.Entry{Packet: out(2), TimedOut: true}) || x.Stage(outKey(2)) != life.TimedOut {
		t.Errorf("after EvTimeout: %v", y)
	}
	fold(t, x, api.ErrOrder, ev(api.EvAck, out(2)))
	fold(t, x, api.ErrTwice, ev(api.EvTimeout, out(2)))
	fold(t, x, api.OK, ev(api.EvSend, out(2)))
	if x.Stage(outKey(2)) != life.TimedOut {
		t.Error("the stage after a late EvSend")
	}
	fold(t, x, api.OK, ev(api.EvAck, out(3)))
	if y, ok := x.Get(outKey(3)); !ok || !y.Acked || y.Sent {
		t.Errorf("EvAck alone: %v, %t", y, ok)
	}
}

func TestFoldIn(t *testing.T) { // P22.1, P22.2
	x := life.New()
	fold(t, x, api.OK, ev(api.EvRecv, in(1)))
	if y, ok := x.Get(inKey(1)); y != (life.Entry{Packet: in(1), Received: true}) || !ok || x.Stage(inKey(1)) != life.Received {
		t.Errorf("after EvRecv: %v, %t", y, ok)
	}
	fold(t, x, api.ErrTwice, ev(api.EvRecv, in(1)))
	fold(t, x, api.OK, ev(api.EvWrite, in(1)))
	if y, _ := x.Get(inKey(1)); y != (life.Entry{Packet: in(1), Ack: "ok:x", Received: true, Written: true}) || x.Stage(inKey(1)) != life.Written {
		t.Errorf("after EvWrite: %v", y)
	}
	again := ev(api.EvWrite, in(1))
	again.Ack = "no"
	fold(t, x, api.ErrTwice, again)
	fold(t, x, api.OK, ev(api.EvWrite, in(2)))
	if x.Stage(inKey(2)) != life.Written || x.Stage(inKey(3)) != life.None || x.Stage(outKey(1)) != life.None {
		t.Error("the stages")
	}
	// The same end and number, the other direction.
	fold(t, x, api.OK, ev(api.EvSend, out(1)))
	if x.Stage(inKey(1)) != life.Written || x.Stage(outKey(1)) != life.Pending {
		t.Error("the directions are mixed up")
	}
}

func TestFoldForm(t *testing.T) { // P22.1
	x := life.New()
	fold(t, x, api.OK, ev(api.EvSend, out(1)))
	fold(t, x, api.OK, ev(api.EvRecv, in(1)))
	for _, f := range []func(p *api.Packet){
		func(p *api.Packet) { p.Data = "y" }, func(p *api.Packet) { p.TimeAt = 1 }, func(p *api.Packet) { p.TimeHeight = 1 }, func(p *api.Packet) { p.Dst.Chan++ },
	} {
		p := out(1)
		f(&p)
		for _, kind := range []int{api.EvSend, api.EvAck, api.EvTimeout} {
			fold(t, x, api.ErrForm, ev(kind, p))
		}
	}
	other := in(1)
	other.Src.Chan++
	fold(t, x, api.ErrForm, ev(api.EvRecv, other))
	fold(t, x, api.ErrForm, ev(api.EvWrite, other))
	// A packet that differs, and a flag or an order that does not fit.
	fold(t, x, api.OK, ev(api.EvAck, out(1)))
	late := out(1)
	late.Data = ""
	fold(t, x, api.ErrForm, ev(api.EvTimeout, late))
}

func TestFoldOthers(t *testing.T) { // P22.1
	x := life.New()
	fold(t, x, api.OK, api.Event{Kind: api.EvUpdate, Height: 3})
	fold(t, x, api.OK, api.Event{Kind: api.EvUpdate, Height: 3})
	if len(x.Keys())+len(x.Closed()) != 0 {
		t.Error("an EvUpdate has an effect")
	}
	fold(t, x, api.OK, api.Event{Kind: api.EvClose, End: west})
	fold(t, x, api.ErrTwice, api.Event{Kind: api.EvClose, End: west})
	for _, e := range []api.Event{{}, {Kind: 8}, {Kind: api.EvSend}, {Kind: api.EvUpdate}, {Kind: api.EvClose}, {Kind: api.EvWrite, Packet: in(1)}, {Kind: api.EvSend, Packet: out(1), Ack: "x"}} {
		fold(t, x, api.ErrRange, e)
	}
}

func TestKeysAndClosed(t *testing.T) { // P22.2
	x := life.New()
	ends := []api.End{{Port: "a", Chan: 2}, {Port: "a", Chan: 10}, {Port: "aa", Chan: 1}}
	var want []life.Key
	for _, e := range ends {
		for _, o := range []bool{false, true} {
			for _, seq := range []int{1, 2, 10} {
				want = append(want, life.Key{End: e, Out: o, Seq: seq})
			}
		}
	}
	for _, k := range slices.Backward(want) {
		p := api.Packet{Src: west, Dst: k.End, Seq: k.Seq}
		kind := api.EvRecv
		if k.Out {
			p.Src, p.Dst, kind = k.End, west, api.EvSend
		}
		fold(t, x, api.OK, ev(kind, p))
	}
	for _, e := range slices.Backward(ends) {
		fold(t, x, api.OK, api.Event{Kind: api.EvClose, End: e})
	}
	if !slices.Equal(x.Keys(), want) || !slices.Equal(x.Closed(), ends) {
		t.Errorf("Keys: %v, Closed: %v", x.Keys(), x.Closed())
	}
	x.Keys()[0].Seq = 99
	x.Closed()[0].Chan = 99
	if !slices.Equal(x.Keys(), want) || !slices.Equal(x.Closed(), ends) {
		t.Error("a list that was returned is part of the table")
	}
	if y, ok := x.Get(life.Key{}); y != (life.Entry{}) || ok {
		t.Errorf("Get of no key: %v, %t", y, ok)
	}
}
