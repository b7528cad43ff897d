package world_test

import (
	"math/rand"
	"slices"
	"testing"

	"lighterman/api"
	"lighterman/ask"
	"lighterman/block"
	"lighterman/chain"
	"lighterman/class"
	"lighterman/conf"
	"lighterman/driver"
	"lighterman/frame"
	"lighterman/msg"
	"lighterman/packet"
	"lighterman/plan"
	"lighterman/scene"
	"lighterman/world"
)

// live is a world in which random acts happen, and all packets that were sent.
type live struct {
	*world.World
	t       *testing.T
	r       *rand.Rand
	packets []api.Packet
}

func newLive(t *testing.T, r *rand.Rand, c api.Conf) *live {
	return &live{World: newWorld(t, c), t: t, r: r}
}

func (w *live) send() {
	side, n := w.r.Intn(2), w.r.Intn(len(w.Conf().Paths))
	far := w.Chain(1 - side)
	x := api.Act{Kind: api.ActSend, Side: side, Chan: n, Data: []string{"", "x", "!", "hello"}[w.r.Intn(4)]}
	if w.r.Intn(3) == 0 {
		x.N = far.Height() + w.r.Intn(5)
	}
	if w.r.Intn(4) == 0 {
		x.M = far.Time() + w.r.Intn(6)
	}
	w.Do(x)
	for _, e := range w.Chain(side).Pending() {
		if e.Kind == api.EvSend && !slices.Contains(w.packets, e.Packet) {
			w.packets = append(w.packets, e.Packet)
		}
	}
}

// act does something that a user or time can do, or has a round.
func (w *live) act() {
	side := w.r.Intn(2)
	switch n := w.r.Intn(12); {
	case n < 5:
		w.send()
	case n < 6:
		w.Do(api.Act{Kind: api.ActTick, Side: side, N: w.r.Intn(4)})
	case n < 9:
		w.Do(api.Act{Kind: api.ActCommit, Side: side})
	case n < 10:
		w.Do(api.Act{Kind: api.ActRaw, Side: side, Data: "\x01\x05hello"})
	default:
		w.accepted(w.Do(api.Act{Kind: api.ActRound}).Report)
	}
}

// pass lets some time pass.
func (w *live) pass() {
	for range w.r.Intn(3) {
		side := w.r.Intn(2)
		w.Do(api.Act{Kind: api.ActTick, Side: side, N: w.r.Intn(3)})
		if w.r.Intn(2) == 0 {
			w.Do(api.Act{Kind: api.ActCommit, Side: side})
		}
	}
}

// accepted requires that every message of a round was accepted.
func (w *live) accepted(r driver.Report) {
	for _, x := range r.Txs {
		for _, result := range x.Done.Results {
			if x.Done.Code != api.OK || result.Code != api.OK {
				w.t.Fatalf("the transaction %v: %v", x.Items, x.Done)
			}
		}
	}
}

func (w *live) packetOf(x api.Item) api.Packet {
	i := slices.IndexFunc(w.packets, func(p api.Packet) bool { return p.Src == x.End && p.Seq == x.Seq })
	return w.packets[i]
}

func TestEverythingIsAccepted(t *testing.T) { // P0.12, P28.1, P29.2
	r := rand.New(rand.NewSource(312))
	rejected := 0
	for range 60 {
		c := scene.Conf()
		if r.Intn(2) == 0 {
			c.MaxA = api.Limits{Gas: 4000 + r.Intn(9000), Bytes: 500 + r.Intn(2000), Count: 2 + r.Intn(4)}
			c.MaxB.Count = 2
		}
		w := newLive(t, r, c)
		for range 8 {
			for range 10 {
				w.act()
			}
			rejected += w.slowRound()
		}
	}
	if rejected == 0 {
		t.Error("no packet has expired during a round")
	}
}

// slowRound submits the transactions of a round with ticks and commits between them, and returns how many messages are rejected.
func (w *live) slowRound() int {
	a, b := w.Chain(0), w.Chain(1)
	rejected, late := 0, map[api.End]bool{}
	for _, x := range driver.Prepare(a, b, w.Conf(), a.Records(), b.Records()).Txs {
		w.pass()
		to, limits := w.Chain(x.To), conf.Limits(w.Conf(), x.To)
		height, time := to.Height(), to.Time()
		done := driver.Submit(a, b, driver.Report{Txs: []driver.Sent{x}}).Txs[0].Done
		if done.Code != api.OK || len(x.Tx) > limits.Bytes || len(done.Results) > limits.Count || done.Gas > limits.Gas {
			w.t.Fatalf("the transaction %v: %v", x, done)
		}
		results := done.Results
		if len(results) > len(x.Items) { // the Update
			if results[0].Code != api.OK {
				w.t.Fatalf("the Update: %v", results[0])
			}
			results = results[1:]
		}
		for i, result := range results {
			item := x.Items[i]
			over := packet.Over(w.packetOf(item), height, time)
			switch {
			case result.Code == api.OK && (item.Kind != api.Recv || !over):
			case item.Kind == api.Recv && over && result.Code == api.ErrTimeout:
				rejected++
				late[item.End] = item.End.Port == "queue"
			case item.Kind == api.Recv && late[item.End] && result.Code == api.ErrOrder:
				rejected++
			default:
				w.t.Fatalf("the item %v: %v", item, result)
			}
		}
	}
	return rejected
}

// damaged returns records of a chain of which some are lost, damaged, repeated or moved, and the events that remain.
func damaged(r *rand.Rand, c *chain.Chain) ([]string, []api.Event) {
	var l []string
	var events []api.Event
	for _, s := range c.Records() {
		switch r.Intn(6) {
		case 0:
			continue
		case 1:
			x := []byte(s)
			x[r.Intn(len(x))] ^= byte(1 + r.Intn(255))
			l = append(l, string(x))
			continue
		case 2:
			l = append(l, s[:r.Intn(len(s))])
			continue
		case 3:
			l = append(l, s)
		}
		l = append(l, s)
		body, _ := frame.Open(s)
		b, _ := block.Decode(body)
		events = append(events, b.Events...)
	}
	r.Shuffle(len(l), func(i, k int) { l[i], l[k] = l[k], l[i] })
	return l, events
}

func TestLostBlocks(t *testing.T) { // P0.13, P24.1, P26.2, P27.2
	r := rand.New(rand.NewSource(313))
	planned, due := 0, 0
	for range 60 {
		w := newLive(t, r, scene.Conf())
		for range 40 {
			w.act()
		}
		a, b := w.Chain(0), w.Chain(1)
		all := driver.Prepare(a, b, w.Conf(), a.Records(), b.Records()).Items
		var lists [2][]string
		var events [2][]api.Event
		for side := range 2 {
			lists[side], events[side] = damaged(r, w.Chain(side))
		}
		got := driver.Prepare(a, b, w.Conf(), lists[0], lists[1]).Items
		lost := map[api.Item]bool{}
		for _, x := range all {
			source := 0
			if p := w.packetOf(x); p.Src == scene.Open(1) || p.Src == scene.Ordered(1) {
				source = 1
			}
			reported := slices.Contains(events[source], api.Event{Kind: api.EvSend, Packet: w.packetOf(x)})
			if x.Kind == api.Ack {
				reported = slices.ContainsFunc(events[1-source], func(e api.Event) bool { return e.Kind == api.EvWrite && e.Packet == w.packetOf(x) })
			}
			group := api.Item{Kind: x.Kind, To: x.To, End: x.End}
			inOrder := x.End.Port == "queue" && (x.Kind == api.Recv || x.Kind == api.Ack)
			lost[group] = lost[group] || !reported && inOrder
			if reported && !lost[group] && !slices.Contains(got, x) {
				t.Fatalf("%v is reported and not planned: %v", x, got)
			}
		}
		for _, x := range got {
			if !slices.Contains(all, x) {
				t.Fatalf("%v is planned and not due: %v", x, all)
			}
		}
		planned, due = planned+len(got), due+len(all)
	}
	if planned == 0 || planned >= due {
		t.Errorf("%d items planned, %d due", planned, due)
	}
}

// waiting returns how many kept packets there are, and how many of them wait.
func (w *live) waiting() (int, int) {
	kept, wait := 0, 0
	var tables scene.Scene
	tables.Chains = [2]*chain.Chain{w.Chain(0), w.Chain(1)}
	l := tables.Tables()
	for side := range 2 {
		kept += len(w.Kept(side))
		for _, e := range []api.End{scene.Open(side), scene.Ordered(side)} {
			v, _ := ask.Look(w.Chain(side), w.Chain(1-side), l[side], l[1-side], e)
			for _, kind := range class.Of(v.Channel, v.Packets) {
				if kind == api.Wait {
					wait++
				}
			}
		}
	}
	return kept, wait
}

func TestCompletion(t *testing.T) { // P0.14, P25.3, P29.2
	r := rand.New(rand.NewSource(314))
	for range 80 {
		w := newLive(t, r, scene.Conf())
		for range 10 + r.Intn(60) {
			w.act()
		}
		w.Run(both())
		rounds := 2
		for round := 0; round < rounds; round++ {
			w.accepted(w.Do(api.Act{Kind: api.ActRound}).Report)
			w.Run(both())
			for _, p := range w.packets {
				far := w.Chain(1)
				if p.Src == scene.Ordered(1) {
					far = w.Chain(0)
				}
				if p.Src.Port == "queue" && packet.Over(p, far.Height(), far.Time()) {
					rounds = 3
				}
			}
		}
		if kept, wait := w.waiting(); kept != wait {
			t.Fatalf("%d packets are kept, %d of them wait", kept, wait)
		}
	}
}

func TestThreeExamples(t *testing.T) { // the examples of the whole program
	w := newWorld(t, scene.Conf())
	w.Do(api.Act{Kind: api.ActSend, Data: "x"})
	for _, kind := range []int{api.MsgRecv, api.MsgAck} {
		w.Run(both())
		report := w.Do(api.Act{Kind: api.ActRound}).Report
		l, _ := msg.Untx(report.Txs[0].Tx)
		if len(report.Txs) != 1 || len(l) != 2 || l[0].Kind != api.MsgUpdate || l[1].Kind != kind {
			t.Errorf("the round: %v", report)
		}
	}
	if !w.Rest() {
		t.Error("the packet is kept")
	}
	w = newWorld(t, scene.Conf())
	w.Do(api.Act{Kind: api.ActSend, N: 3})
	w.Run(both())
	w.Run(both())
	if r := w.Do(api.Act{Kind: api.ActRound}).Report; w.Chain(1).Height() != 3 || len(r.Items) != 0 {
		t.Errorf("at height 3: %v", r.Items)
	}
	w.Run(both()[1:])
	if r := w.Do(api.Act{Kind: api.ActRound}).Report; !plan.Same(r.Items, []api.Item{{Kind: api.Timeout, End: scene.Open(0), Seq: 1}}) {
		t.Errorf("after a commit: %v", r.Items)
	}
	w = newWorld(t, scene.Conf())
	w.Run([]api.Act{{Kind: api.ActSend, Chan: 1, N: 1}, {Kind: api.ActSend, Chan: 1}})
	w.Run(both())
	for seq := 1; seq <= 2; seq++ {
		if r := w.Do(api.Act{Kind: api.ActRound}).Report; !plan.Same(r.Items, []api.Item{{Kind: api.Timeout, End: scene.Ordered(0), Seq: seq}}) {
			t.Errorf("the packet %d: %v", seq, r.Items)
		}
	}
	if !w.Rest() {
		t.Error("the packets are kept")
	}
}
