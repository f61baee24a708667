package run

import (
	"herald/api"
	"herald/pair"
)

// moved does a move, and is the line that tells of it.
func moved(p *pair.Pair, m api.Move) string {
	switch m.Kind {
	case api.MoveAsk:
		return asked(p, m.Request)
	case api.MoveServer, api.MoveToClient:
		return counted(p, m, p.ToClient)
	case api.MoveClient, api.MoveToServer:
		return counted(p, m, p.ToServer)
	}
	if e := p.Do(m); e != api.OK {
		return refused(e)
	}
	if m.Kind == api.MovePut {
		return words(okWord, number(p.Server().Version()))
	}
	return okWord
}

// asked goes past the pair, which doesn't tell a request's number.
func asked(p *pair.Pair, r api.Request) string {
	n, e := p.Client().Ask(r)
	if e != api.OK {
		return refused(e)
	}
	return words(okWord, number(n))
}

// counted is for a move that fills a pipe or empties it: by as many bytes as were sent
// or given.
func counted(p *pair.Pair, m api.Move, pipe func() string) string {
	before := len(pipe())
	if e := p.Do(m); e != api.OK {
		return refused(e)
	}
	after := len(pipe())
	return words(okWord, number(max(before, after)-min(before, after)))
}
