package pair_test

import (
	"herald/api"
	"herald/client"
	"herald/server"
)

// model is a pair by the chapter's words: two ends, and two texts.
type model struct {
	server             *server.Server
	client             *client.Client
	toServer, toClient string
}

func newModel(w api.World) (*model, api.Errno) {
	s, e := server.New(w.Server, w.Pages, w.Rules)
	if e != 0 {
		return nil, e
	}
	c, e := client.New(w.Client, w.Conf, w.Origins)
	if e != 0 {
		return nil, e
	}
	return &model{server: s, client: c}, 0
}

// cut is the first n bytes of a pipe, and the rest.
func cut(pipe string, n int64) (string, string) {
	if n < 0 || n > int64(len(pipe)) {
		return pipe, ""
	}
	return pipe[:n], pipe[n:]
}

func (m *model) do(v api.Move) api.Errno {
	var e api.Errno
	var piece string
	switch v.Kind {
	case 1:
		_, e = m.client.Ask(v.Request)
	case 2:
		e = 5
		if v.N <= int64(^uint(0)>>1) {
			e = m.client.Cancel(int(v.N))
		}
	case 3:
		m.toClient += m.server.Step(int(v.N))
	case 4:
		m.toServer += m.client.Step(int(v.N))
	case 5:
		piece, m.toServer = cut(m.toServer, v.N)
		m.server.Recv(piece)
	case 6:
		piece, m.toClient = cut(m.toClient, v.N)
		m.client.Recv(piece)
	case 7:
		e = m.client.Tick(v.N)
	case 8:
		_, e = m.server.Put(v.Page)
	case 9:
		e = m.client.Settings(v.Set)
	case 10:
		switch v.N {
		case 0:
			m.toClient = v.Bytes
		case 1:
			m.toServer = v.Bytes
		default:
			e = 1
		}
	default:
		e = 1
	}
	return e
}

// rounds goes on where nothing is left to do: that it makes no difference is the
// pair's to keep. It gives up behind so many that nobody waits for them.
func (m *model) rounds(n int) {
	for i := 0; i < min(n, 5000); i++ {
		for _, v := range oneRound() {
			m.do(v)
		}
	}
}

func (m *model) Server() *server.Server { return m.server }

func (m *model) Client() *client.Client { return m.client }

func (m *model) ToServer() string { return m.toServer }

func (m *model) ToClient() string { return m.toClient }

func (m *model) Still() bool {
	return m.toServer == "" && m.toClient == "" && m.server.Idle() && m.client.Idle()
}
