package ask_test

import (
	"slices"
	"testing"

	"lighterman/api"
	"lighterman/ask"
	"lighterman/class"
	"lighterman/life"
	"lighterman/scene"
)

var east, west = scene.Open(0), scene.Open(1)

func packetOf(seq int, data string) api.Packet {
	return api.Packet{Src: east, Dst: west, Seq: seq, Data: data}
}

// table returns a table with the given events of packets.
func table(t *testing.T, events ...api.Event) *life.Table {
	t.Helper()
	x := life.New()
	for _, e := range events {
		if err := x.Fold(e); err != api.OK {
			t.Fatalf("Fold(%v): %d", e, err)
		}
	}
	return x
}

func ev(kind int, p api.Packet) api.Event {
	e := api.Event{Kind: kind, Packet: p}
	if kind == api.EvWrite {
		e.Ack = "ok:" + p.Data
	}
	return e
}

func TestCands(t *testing.T) { // P26.1
	elsewhere := packetOf(4, "x")
	elsewhere.Dst.Chan++
	stranger := packetOf(5, "x")
	stranger.Src.Chan++
	back := api.Packet{Src: west, Dst: east, Seq: 6}
	own := table(t, ev(api.EvSend, packetOf(10, "a")), ev(api.EvAck, packetOf(2, "b")), ev(api.EvTimeout, packetOf(3, "c")), ev(api.EvSend, elsewhere), ev(api.EvRecv, back), ev(api.EvSend, packetOf(7, "own")))
	other := table(t, ev(api.EvRecv, packetOf(2, "b")), ev(api.EvWrite, packetOf(2, "b")), ev(api.EvWrite, packetOf(7, "other")), ev(api.EvRecv, packetOf(1, "d")), ev(api.EvWrite, stranger), ev(api.EvSend, back), ev(api.EvWrite, packetOf(9, "")))
	want := []ask.Cand{
		{Packet: packetOf(1, "d")}, {Packet: packetOf(2, "b"), Ack: "ok:b", Written: true}, {Packet: packetOf(3, "c")},
		{Packet: packetOf(7, "own")}, {Packet: packetOf(7, "other"), Ack: "ok:other", Written: true},
		{Packet: packetOf(9, ""), Ack: "ok:", Written: true}, {Packet: packetOf(10, "a")},
	}
	if got := ask.Cands(own, other, east, west); !slices.Equal(got, want) {
		t.Errorf("Cands: %v", got)
	}
	if got := ask.Cands(life.New(), life.New(), east, west); len(got) != 0 {
		t.Errorf("Cands of empty tables: %v", got)
	}
	if got := ask.Cands(own, other, west, east); len(got) != 0 {
		t.Errorf("Cands of the other direction: %v", got)
	}
	if got := ask.Cands(other, own, west, east); !slices.Equal(got, []ask.Cand{{Packet: back}}) {
		t.Errorf("Cands of the other direction: %v", got)
	}
}

func TestChannel(t *testing.T) { // P26.2
	s := scene.New()
	a, b := s.Chains[0], s.Chains[1]
	fresh := class.Channel{Open: true, OtherOpen: true, NextRecv: 1, NextAck: 1, Height: 1}
	if c, far, ok := ask.Channel(a, b, east); c != fresh || far != west || !ok {
		t.Errorf("a new channel: %v, %v, %t", c, far, ok)
	}
	for _, e := range []api.End{west, {}, {Port: "none"}} {
		if c, far, ok := ask.Channel(a, b, e); c != (class.Channel{}) || far != (api.End{}) || ok {
			t.Errorf("Channel of %v: %v, %v, %t", e, c, far, ok)
		}
	}
	p := s.Send(0, scene.Ordered(0), "p", 0, 0)
	q := s.Send(0, scene.Ordered(0), "q", 3, 0)
	a.Commit()
	s.Do(1, s.Recv(1, p))
	b.Tick(5)
	want := class.Channel{Ordered: true, Open: true, OtherOpen: true, NextRecv: 2, NextAck: 1, Height: 1, Time: 5, SrcHeight: 1}
	if c, _, _ := ask.Channel(a, b, scene.Ordered(0)); c != want {
		t.Errorf("before a commit of b: %v", c)
	}
	b.Commit()
	b.Tick(2)
	b.Commit()
	b.Commit()
	b.Tick(1)
	s.Do(0, s.Ack(0, p), s.Timeout(0, q, 2))
	want = class.Channel{
		Ordered: true, OtherOpen: true, Stop: 2, NextRecv: 2, NextDone: 2, NextAck: 2, Height: 4, Time: 8, AtHeight: 3, AtTime: 7, SrcHeight: 1,
	}
	if c, far, _ := ask.Channel(a, b, scene.Ordered(0)); c != want || far != scene.Ordered(1) {
		t.Errorf("after a timeout: %v", c)
	}
	// The other direction: its receiving end is closed now, and only later at a committed height.
	for _, then := range []bool{false, true} {
		c, far, _ := ask.Channel(b, a, scene.Ordered(1))
		if c.OtherOpen || c.OtherClosed != then || !c.Open || c.SrcHeight != 3 || far != scene.Ordered(0) {
			t.Errorf("the other direction, %t: %v", then, c)
		}
		a.Commit()
	}
}

func TestChannelOfOthers(t *testing.T) { // P26.2
	s := scene.New()
	c := scene.Conf()
	c.Paths[0].A.Chan++ // another end has west as its Other
	x := scene.Of(c, 7)
	got, far, ok := ask.Channel(s.Chains[0], x.Chains[1], east)
	if got.OtherOpen || got.NextRecv != 7 || got.NextAck != 1 || far != west || !ok {
		t.Errorf("Channel: %v, %v, %t", got, far, ok)
	}
	c.Paths = c.Paths[1:]
	got, _, ok = ask.Channel(s.Chains[0], scene.Of(c, 7).Chains[1], east)
	if got.OtherOpen || got.NextRecv != 0 || !ok {
		t.Errorf("Channel without the other end: %v, %t", got, ok)
	}
}

func TestPacket(t *testing.T) { // P26.2
	s := scene.New()
	a, b := s.Chains[0], s.Chains[1]
	p := s.Send(0, east, "p", 8, 9)
	written := ask.Cand{Packet: p, Ack: "ok:p", Written: true}
	channel := func() class.Channel {
		c, _, _ := ask.Channel(a, b, east)
		return c
	}
	check := func(step string, x ask.Cand, want class.Packet) {
		t.Helper()
		want.Seq, want.TimeHeight, want.TimeAt = x.Packet.Seq, x.Packet.TimeHeight, x.Packet.TimeAt
		if got := ask.Packet(a, b, channel(), x); got != want {
			t.Errorf("%s: %v", step, got)
		}
	}
	check("sent", written, class.Packet{Kept: true})
	a.Commit()
	check("shown", written, class.Packet{Kept: true, Shown: true})
	s.Do(1, s.Recv(1, p))
	check("received", written, class.Packet{Kept: true, Shown: true, Received: true})
	b.Commit()
	check("done", written, class.Packet{Kept: true, Shown: true, Received: true, Done: true, Acked: true})
	check("not written", ask.Cand{Packet: p, Ack: "ok:p"}, class.Packet{Kept: true, Shown: true, Received: true, Done: true})
	check("another acknowledgement", ask.Cand{Packet: p, Ack: "no", Written: true}, class.Packet{Kept: true, Shown: true, Received: true, Done: true})
	changed := written
	changed.Packet.Data = "x"
	check("another packet", changed, class.Packet{Received: true, Done: true, Acked: true})
	unknown := written
	unknown.Packet.Seq = 2
	check("another number", unknown, class.Packet{})
	s.Do(0, s.Ack(0, p))
	check("acknowledged", written, class.Packet{Shown: true, Received: true, Done: true, Acked: true})
	a.Commit()
	check("gone", written, class.Packet{Received: true, Done: true, Acked: true})
	// Other heights than the last ones.
	if got := ask.Packet(a, b, class.Channel{SrcHeight: 1, AtHeight: 0}, written); got != (class.Packet{Seq: 1, TimeHeight: 8, TimeAt: 9, Shown: true, Received: true}) {
		t.Errorf("at other heights: %v", got)
	}
	if got := ask.Packet(a, b, class.Channel{SrcHeight: -1, AtHeight: 99}, ask.Cand{}); got != (class.Packet{}) {
		t.Errorf("no packet: %v", got)
	}
}

func TestPacketOrdered(t *testing.T) { // P26.2
	s := scene.New()
	p := s.Send(0, scene.Ordered(0), "p", 0, 0)
	s.Commit()
	s.Do(1, s.Recv(1, p))
	s.Commit()
	c, _, _ := ask.Channel(s.Chains[0], s.Chains[1], scene.Ordered(0))
	got := ask.Packet(s.Chains[0], s.Chains[1], c, ask.Cand{Packet: p, Ack: "ok:p", Written: true})
	if got != (class.Packet{Seq: 1, Kept: true, Shown: true, Acked: true}) {
		t.Errorf("Packet: %v", got)
	}
	// Received and Done do not depend on what the channel is really.
	c.Ordered = true
	q := s.Send(0, east, "q", 0, 0)
	s.Commit()
	s.Do(1, s.Recv(1, q))
	if got := ask.Packet(s.Chains[0], s.Chains[1], c, ask.Cand{Packet: q}); got.Received || got.Done {
		t.Errorf("Packet on an ordered channel: %v", got)
	}
}

func TestLook(t *testing.T) { // P26.3, P26.4
	s := scene.New()
	a, b := s.Chains[0], s.Chains[1]
	p, q, r := s.Send(0, east, "p", 0, 0), s.Send(0, east, "q", 0, 0), s.Send(0, east, "r", 0, 0)
	s.Commit()
	s.Do(1, s.Recv(1, p), s.Recv(1, q))
	s.Commit()
	s.Do(0, s.Ack(0, p))
	late := s.Send(0, east, "late", 0, 0) // kept, and not shown
	tables := s.Tables()
	tables[0].Fold(ev(api.EvSend, late))
	v, ok := ask.Look(a, b, tables[0], tables[1], east)
	c, _, _ := ask.Channel(a, b, east)
	if v.Own != east || v.Other != west || v.Channel != c || !ok {
		t.Errorf("Look: %v, %t", v, ok)
	}
	if want := []ask.Cand{{Packet: q, Ack: "ok:q", Written: true}, {Packet: r}}; !slices.Equal(v.Cands, want) {
		t.Errorf("Cands: %v", v.Cands)
	}
	for i, x := range v.Cands {
		if v.Packets[i] != ask.Packet(a, b, c, x) || !v.Packets[i].Kept || !v.Packets[i].Shown {
			t.Errorf("Packets: %v", v.Packets)
		}
	}
	// Tables that say something else about the packets.
	lie := packetOf(2, "lie")
	own := table(t, ev(api.EvSend, lie), ev(api.EvSend, packetOf(9, "none")), ev(api.EvTimeout, r))
	other := table(t, ev(api.EvWrite, q))
	v, _ = ask.Look(a, b, own, other, east)
	if want := []ask.Cand{{Packet: q, Ack: "ok:q", Written: true}, {Packet: r}}; !slices.Equal(v.Cands, want) || len(v.Packets) != 2 {
		t.Errorf("Cands of other tables: %v", v.Cands)
	}
	v, _ = ask.Look(a, b, life.New(), life.New(), east)
	if v.Other != west || len(v.Cands) != 0 || len(v.Packets) != 0 {
		t.Errorf("Look with empty tables: %v", v)
	}
	v, ok = ask.Look(a, b, tables[0], tables[1], west)
	if ok || v.Own != (api.End{}) || v.Channel != (class.Channel{}) || len(v.Cands) != 0 {
		t.Errorf("Look at no end: %v, %t", v, ok)
	}
}
