package class_test

import (
	"math"
	"math/rand"
	"slices"
	"testing"

	"lighterman/api"
	"lighterman/class"
)

func TestRise(t *testing.T) { // P25.1
	for _, c := range []struct {
		l    []int
		want bool
	}{
		{nil, true}, {[]int{5}, true}, {[]int{1, 2, 9}, true}, {[]int{math.MinInt, -1, 0, math.MaxInt}, true}, {[]int{1, 1}, false}, {[]int{2, 1}, false}, {[]int{1, 3, 2}, false}, {[]int{math.MaxInt, math.MinInt}, false},
	} {
		var l []class.Packet
		for _, seq := range c.l {
			l = append(l, class.Packet{Seq: seq, Kept: true})
		}
		if class.Rise(l) != c.want {
			t.Errorf("Rise(%v) is not %t", c.l, c.want)
		}
		if got := class.Of(class.Channel{}, l); (len(got) == len(l)) != c.want || !c.want && got != nil {
			t.Errorf("Of(%v): %v", c.l, got)
		}
	}
}

func TestWants(t *testing.T) { // P25.1
	for kind, want := range map[int]bool{
		api.Recv: true, api.Ack: true, api.Timeout: true, api.OnClose: true, api.Gone: false, api.Wait: false, -1: false, 6: false, math.MaxInt: false,
	} {
		if class.Wants(kind) != want {
			t.Errorf("Wants(%d) is not %t", kind, want)
		}
	}
}

// open has the facts of a channel on which everything can be done.
func open(ordered bool) class.Channel {
	return class.Channel{
		Ordered: ordered, Open: true, OtherOpen: true, NextRecv: 4, NextDone: 4, NextAck: 4,
		Height: 10, Time: 100, AtHeight: 9, AtTime: 90, SrcHeight: 7,
	}
}

func with(c class.Channel, f func(c *class.Channel)) class.Channel {
	f(&c)
	return c
}

func one(seq int, f func(p *class.Packet)) class.Packet {
	p := class.Packet{Seq: seq, Kept: true, Shown: true}
	f(&p)
	return p
}

func nothing(p *class.Packet) {}

func TestOneUnordered(t *testing.T) { // P25.1
	c := open(false)
	for i, x := range []struct {
		c    class.Channel
		p    func(p *class.Packet)
		want int
	}{
		{c, func(p *class.Packet) { p.Kept, p.Acked = false, true }, api.Gone},
		{c, func(p *class.Packet) { p.Acked, p.Received, p.Done = true, true, true }, api.Ack},
		{c, func(p *class.Packet) { p.Acked = true }, api.Ack},
		{with(c, func(c *class.Channel) { c.AtHeight = 0 }), func(p *class.Packet) { p.Acked, p.Received = true, true }, api.Wait},
		{with(c, func(c *class.Channel) { c.Open, c.OtherOpen = false, false }), func(p *class.Packet) { p.Acked = true }, api.Ack},
		{c, nothing, api.Recv},
		{with(c, func(c *class.Channel) { c.AtHeight = 0 }), nothing, api.Recv},
		{with(c, func(c *class.Channel) { c.SrcHeight = 0 }), nothing, api.Wait},
		{with(c, func(c *class.Channel) { c.OtherOpen = false }), nothing, api.Wait},
		{c, func(p *class.Packet) { p.Shown = false }, api.Wait},
		{c, func(p *class.Packet) { p.Received, p.Done = true, true }, api.Wait},
		{c, func(p *class.Packet) { p.TimeHeight = 10 }, api.Wait}, // expired now, not at AtHeight
		{c, func(p *class.Packet) { p.TimeAt = 100 }, api.Wait},
		{c, func(p *class.Packet) { p.TimeHeight, p.TimeAt = 11, 101 }, api.Recv},
		{c, func(p *class.Packet) { p.TimeHeight, p.TimeAt = -1, math.MinInt }, api.Recv},
		{c, func(p *class.Packet) { p.TimeHeight = 9 }, api.Timeout},
		{c, func(p *class.Packet) { p.TimeAt = 90 }, api.Timeout},
		{c, func(p *class.Packet) { p.TimeAt, p.Received = 90, true }, api.Timeout},
		{c, func(p *class.Packet) { p.TimeAt, p.Done = 90, true }, api.Wait},
		{with(c, func(c *class.Channel) { c.AtHeight = 0 }), func(p *class.Packet) { p.TimeAt = 90 }, api.Wait},
		{with(c, func(c *class.Channel) { c.Open = false }), func(p *class.Packet) { p.TimeAt = 100 }, api.Timeout},
		{with(c, func(c *class.Channel) { c.Open, c.OtherClosed, c.OtherOpen = false, true, false }), nothing, api.Timeout},
		{with(c, func(c *class.Channel) { c.OtherClosed, c.OtherOpen = true, false }), nothing, api.OnClose},
		{with(c, func(c *class.Channel) { c.OtherClosed, c.OtherOpen = true, false }), func(p *class.Packet) { p.TimeAt = 90 }, api.OnClose},
		{with(c, func(c *class.Channel) { c.OtherClosed, c.OtherOpen = true, false }), func(p *class.Packet) { p.Done = true }, api.Wait},
		{with(c, func(c *class.Channel) { c.OtherClosed, c.OtherOpen, c.AtHeight = true, false, 0 }), nothing, api.Wait},
		{with(c, func(c *class.Channel) { c.Height, c.AtHeight = -5, -6 }), func(p *class.Packet) { p.TimeHeight = -7 }, api.Recv},
	} {
		if got := class.Of(x.c, []class.Packet{one(5, x.p)}); !slices.Equal(got, []int{x.want}) {
			t.Errorf("case %d: %v, not %d", i, got, x.want)
		}
	}
}

func TestOneOrdered(t *testing.T) { // P25.1
	c := open(true)
	shut := with(c, func(c *class.Channel) { c.Open, c.Stop, c.OtherOpen = false, 4, false })
	for i, x := range []struct {
		c    class.Channel
		seq  int
		p    func(p *class.Packet)
		want int
	}{
		{c, 4, func(p *class.Packet) { p.Acked = true }, api.Ack},
		{with(c, func(c *class.Channel) { c.NextRecv, c.NextDone = 6, 6 }), 5, func(p *class.Packet) { p.Acked = true }, api.Wait},
		{c, 4, nothing, api.Recv},
		{c, 4, func(p *class.Packet) { p.Received, p.Done = true, true }, api.Recv}, // unordered channels only
		{c, 5, nothing, api.Wait},
		{c, 3, nothing, api.Wait},
		{c, 4, func(p *class.Packet) { p.TimeHeight = 9 }, api.Timeout},
		{c, 4, func(p *class.Packet) { p.TimeHeight = 10 }, api.Wait},
		{c, 5, func(p *class.Packet) { p.TimeHeight = 9 }, api.Wait},
		{with(c, func(c *class.Channel) { c.NextDone = 5 }), 4, func(p *class.Packet) { p.TimeHeight = 9 }, api.Wait},
		{with(c, func(c *class.Channel) { c.NextDone = 3 }), 4, func(p *class.Packet) { p.TimeHeight = 9 }, api.Wait},
		{shut, 4, nothing, api.Timeout},
		{shut, 9, nothing, api.Timeout},
		{with(shut, func(c *class.Channel) { c.NextDone = 5 }), 4, nothing, api.Wait},
		{with(shut, func(c *class.Channel) { c.Stop = 5 }), 9, nothing, api.Wait},
		{with(shut, func(c *class.Channel) { c.Stop, c.OtherClosed = 5, true }), 9, nothing, api.Wait},
		{with(c, func(c *class.Channel) { c.OtherClosed, c.OtherOpen = true, false }), 9, nothing, api.OnClose},
		{with(c, func(c *class.Channel) { c.OtherClosed, c.OtherOpen = true, false }), 3, nothing, api.Wait},
	} {
		if got := class.Of(x.c, []class.Packet{one(x.seq, x.p)}); !slices.Equal(got, []int{x.want}) {
			t.Errorf("case %d: %v, not %d", i, got, x.want)
		}
	}
}

func TestSeveral(t *testing.T) { // P25.1
	shown := func(seq int, shown bool) class.Packet { return class.Packet{Seq: seq, Kept: true, Shown: shown} }
	if got := class.Of(open(true), []class.Packet{shown(4, true), shown(5, false), shown(6, true)}); !slices.Equal(got, []int{api.Recv, api.Wait, api.Wait}) {
		t.Errorf("with a packet that is not shown: %v", got)
	}
	if got := class.Of(open(true), []class.Packet{shown(4, true), shown(5, true), shown(7, true)}); !slices.Equal(got, []int{api.Recv, api.Recv, api.Wait}) {
		t.Errorf("with a packet that is missing: %v", got)
	}
	if got := class.Of(open(false), []class.Packet{shown(4, true), shown(5, false), shown(6, true)}); !slices.Equal(got, []int{api.Recv, api.Wait, api.Recv}) {
		t.Errorf("on an unordered channel: %v", got)
	}
	acked := func(seq int) class.Packet { return class.Packet{Seq: seq, Kept: true, Shown: true, Acked: true} }
	c := with(open(true), func(c *class.Channel) { c.NextRecv, c.NextDone = 7, 7 })
	if got := class.Of(c, []class.Packet{acked(4), acked(5), shown(6, true), shown(7, true), {Seq: 8, Kept: true, Acked: true}}); !slices.Equal(got, []int{api.Ack, api.Ack, api.Wait, api.Recv, api.Wait}) {
		t.Errorf("acknowledgements and others: %v", got)
	}
	gone := class.Packet{Seq: 4, Shown: true, Acked: true}
	if got := class.Of(c, []class.Packet{gone, acked(5)}); !slices.Equal(got, []int{api.Gone, api.Wait}) {
		t.Errorf("after a packet that is gone: %v", got)
	}
	if len(class.Of(c, nil)) != 0 {
		t.Error("no packets")
	}
	last := class.Channel{Ordered: true, AtHeight: 1, NextAck: math.MaxInt, NextDone: math.MaxInt}
	if got := class.Of(last, []class.Packet{acked(math.MinInt), acked(math.MaxInt)}); !slices.Equal(got, []int{api.Wait, api.Ack}) {
		t.Errorf("the greatest number: %v", got)
	}
}

func random(r *rand.Rand) (class.Channel, []class.Packet) {
	flag := func() bool { return r.Intn(3) > 0 }
	c := class.Channel{
		Ordered: flag(), Open: flag(), OtherOpen: flag(), OtherClosed: !flag(), Stop: r.Intn(5), NextRecv: r.Intn(4) + 1, NextDone: r.Intn(4) + 1, NextAck: r.Intn(4) + 1,
		Height: r.Intn(6), Time: r.Intn(6), AtHeight: r.Intn(6), AtTime: r.Intn(6), SrcHeight: r.Intn(4),
	}
	var l []class.Packet
	for seq := 1; seq <= 6; seq++ {
		if flag() {
			l = append(l, class.Packet{Seq: seq, TimeHeight: r.Intn(7) - 1, TimeAt: r.Intn(7) - 1, Kept: flag(), Shown: flag(), Received: !flag(), Done: !flag(), Acked: flag()})
		}
	}
	return c, l
}

func over(p class.Packet, height, time int) bool {
	return p.TimeHeight > 0 && p.TimeHeight <= height || p.TimeAt > 0 && p.TimeAt <= time
}

func TestConsecutive(t *testing.T) { // P25.2
	r := rand.New(rand.NewSource(25))
	for range 20000 {
		c, l := random(r)
		next := map[int]int{api.Recv: c.NextRecv, api.Ack: c.NextAck}
		for i, x := range class.Of(c, l) {
			if !c.Ordered || x != api.Recv && x != api.Ack {
				continue
			}
			if l[i].Seq != next[x] {
				t.Fatalf("%v, %v: %v", c, l, class.Of(c, l))
			}
			next[x]++
		}
	}
}

func TestWait(t *testing.T) { // P25.3
	r := rand.New(rand.NewSource(26))
	for range 20000 {
		c, l := random(r)
		nextAck, nextRecv := c.NextAck, c.NextRecv
		for i, x := range class.Of(c, l) {
			p := l[i]
			acks := c.AtHeight != 0 && p.Acked && (!c.Ordered || p.Seq == nextAck)
			receives := c.SrcHeight != 0 && p.Shown && c.OtherOpen && !over(p, c.Height, c.Time) && (c.Ordered && p.Seq == nextRecv || !c.Ordered && !p.Received)
			lost := c.AtHeight != 0 && c.Open && over(p, c.AtHeight, c.AtTime) && (c.Ordered && p.Seq == c.NextDone || !c.Ordered && !p.Done)
			if x == api.Wait && (acks || receives || lost || !p.Kept) {
				t.Fatalf("%v waits in %v", p, c)
			}
			switch x {
			case api.Ack:
				nextAck = p.Seq + 1
			case api.Recv:
				nextRecv = p.Seq + 1
			}
		}
	}
}
