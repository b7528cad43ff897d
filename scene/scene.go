// Package scene has two chains for the tests of the layers that work on chains. No layer uses it.
package scene

import (
	"lighterman/api"
	"lighterman/app"
	"lighterman/chain"
	"lighterman/conf"
	"lighterman/index"
	"lighterman/life"
	"lighterman/msg"
	"lighterman/path"
)

// Scene is two chains, a and b, with an unordered and an ordered channel between them.
type Scene struct {
	Conf   api.Conf
	Chains [2]*chain.Chain
}

// Open returns the end of the unordered channel on a side.
func Open(side int) api.End {
	return api.End{Port: "open", Chan: 10 + side}
}

// Ordered returns the end of the ordered channel on a side.
func Ordered(side int) api.End {
	return api.End{Port: "queue", Chan: 20 + side}
}

// Conf returns a configuration with both channels and large limits.
func Conf() api.Conf {
	limits := api.Limits{Gas: 10000000, Bytes: 500000, Count: 60}
	return api.Conf{
		A: "east", B: "west", MaxA: limits, MaxB: limits, Interval: 1,
		Paths: []api.Path{{A: Open(0), B: Open(1)}, {A: Ordered(0), B: Ordered(1), Ordered: true}},
	}
}

// New returns two new chains. A scene that cannot be made has no chains.
func New() *Scene {
	return Of(Conf(), 1)
}

// Of returns the two chains of a configuration, whose first packets have the number first.
func Of(c api.Conf, first int) *Scene {
	s := &Scene{Conf: c}
	for side := range s.Chains {
		setup, _ := conf.Setup(c, side, first)
		s.Chains[side], _ = chain.New(setup)
	}
	return s
}

// Send sends a packet from the end e of a side.
func (s *Scene) Send(side int, e api.End, data string, timeHeight int, timeAt int) api.Packet {
	p, _ := s.Chains[side].Send(e, data, timeHeight, timeAt)
	return p
}

// Commit commits a block of both chains.
func (s *Scene) Commit() {
	for _, c := range s.Chains {
		c.Commit()
	}
}

// Tables returns the tables of both chains, from all of their records.
func (s *Scene) Tables() [2]*life.Table {
	var tables [2]*life.Table
	for side, c := range s.Chains {
		x, _ := index.New(c.Name(), c.Last())
		x.Feed(c.Records())
		tables[side], _ = x.Table()
	}
	return tables
}

// Do submits messages to a side, after an Update, and returns their error numbers.
func (s *Scene) Do(side int, l ...api.Msg) []api.Errno {
	from := s.Chains[1-side]
	h, _ := from.Header(from.Last())
	tx, _ := msg.Tx(append([]api.Msg{{Kind: api.MsgUpdate, Header: h}}, l...))
	var codes []api.Errno
	for i, r := range s.Chains[side].Deliver(tx, from.Headers()).Results {
		if i > 0 {
			codes = append(codes, r.Code)
		}
	}
	return codes
}

// Recv returns the message to a side that receives p, with a proof at the last height of the other side.
func (s *Scene) Recv(side int, p api.Packet) api.Msg {
	m := api.Msg{Kind: api.MsgRecv, Packet: p}
	return s.proved(side, m, path.Of(path.Commitments, p.Src, p.Seq))
}

// Ack returns the message to a side that acknowledges p.
func (s *Scene) Ack(side int, p api.Packet) api.Msg {
	m := api.Msg{Kind: api.MsgAck, Packet: p, Ack: app.Answer(p.Data)}
	return s.proved(side, m, path.Of(path.Acks, p.Dst, p.Seq))
}

// Timeout returns the message to a side that times p out, with Next for an ordered channel.
func (s *Scene) Timeout(side int, p api.Packet, next int) api.Msg {
	m := api.Msg{Kind: api.MsgTimeout, Packet: p, Next: next}
	key := path.Of(path.NextRecv, p.Dst, 0)
	if next == 0 {
		key = path.Of(path.Receipts, p.Dst, p.Seq)
	}
	return s.proved(side, m, key)
}

// OnClose returns the message to a side that ends p because the receiving end is closed.
func (s *Scene) OnClose(side int, p api.Packet, next int) api.Msg {
	m := s.Timeout(side, p, next)
	m.Kind = api.MsgOnClose
	m.Close = s.proved(side, m, path.Of(path.ChannelEnds, p.Dst, 0)).Proof
	return m
}

func (s *Scene) proved(side int, m api.Msg, key string) api.Msg {
	from := s.Chains[1-side]
	m.Height = from.Last()
	m.Proof, _ = from.Prove(m.Height, key)
	return m
}
