package pair

import "herald/api"

// The pipes, as a forger names them.
const (
	forgeToClient = 0
	forgeToServer = 1
)

// Do does one move.
func (p *Pair) Do(m api.Move) api.Errno {
	switch m.Kind {
	case api.MoveAsk:
		_, e := p.client.Ask(m.Request)
		return e
	case api.MoveCancel:
		return p.cancel(m.N)
	case api.MoveServer:
		p.stepServer(int(m.N))
	case api.MoveClient:
		p.stepClient(int(m.N))
	case api.MoveToServer:
		p.giveServer(m.N)
	case api.MoveToClient:
		p.giveClient(m.N)
	case api.MoveTick:
		return p.client.Tick(m.N)
	case api.MovePut:
		_, e := p.server.Put(m.Page)
		return e
	case api.MoveSet:
		return p.client.Settings(m.Set)
	case api.MoveForge:
		return p.forge(m.N, m.Bytes)
	default:
		return api.ErrArg
	}
	return api.OK
}

// cancel is for a number that, where an int is short, may be none.
func (p *Pair) cancel(n int64) api.Errno {
	if int64(int(n)) != n {
		return api.ErrNone
	}
	return p.client.Cancel(int(n))
}

func (p *Pair) stepServer(pick int) { p.toClient.put(p.server.Step(pick)) }

func (p *Pair) stepClient(pick int) { p.toServer.put(p.client.Step(pick)) }

// giveServer gives the server n bytes, and tells how many there were.
func (p *Pair) giveServer(n int64) int {
	piece := p.toServer.take(n)
	p.server.Recv(piece)
	return len(piece)
}

// giveClient gives the client n bytes, and tells how many there were.
func (p *Pair) giveClient(n int64) int {
	piece := p.toClient.take(n)
	p.client.Recv(piece)
	return len(piece)
}

func (p *Pair) forge(n int64, bytes string) api.Errno {
	switch n {
	case forgeToClient:
		p.toClient.fill(bytes)
	case forgeToServer:
		p.toServer.fill(bytes)
	default:
		return api.ErrArg
	}
	return api.OK
}

// round tells whether there was anything to give: as all of both pipes is given,
// that is whether something was sent, or lay there.
func (p *Pair) round() bool {
	p.stepClient(0)
	toServer := p.giveServer(all)
	p.stepServer(0)
	toClient := p.giveClient(all)
	return toServer+toClient > 0
}
